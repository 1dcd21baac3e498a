package field_test

import (
	"math"
	"strings"

	"diacritic/api"
	"diacritic/charset"
	"diacritic/detect"
	"diacritic/field"
	"diacritic/point"
	"diacritic/wide"
)

// documentRows are the document's rows of names (in version 2; in 3 and 4) and their pieces.
const documentRows = `TXX; TXXX | description, text
COM, ULT; COMM, USLT | language, description, text
WXX; WXXX | description, data
PIC; APIC | format (2) or mime (3, 4), kind, description, data`

// none are versions that there aren't.
func none() []int { return []int{0, 1, 5, -1, -2, 6, 258, 259, math.MaxInt, math.MinInt} }

// there are the versions.
func there() []int { return []int{2, 3, 4} }

// all are those that there are, and those that there aren't.
func all() []int { return append(there(), none()...) }

// documentNames are the names of the document's rows, of one version, with their pieces.
func documentNames(version int) map[string][]string {
	m := map[string][]string{}
	for row := range strings.SplitSeq(documentRows, "\n") {
		names, pieces, _ := strings.Cut(row, " | ")
		second, later, _ := strings.Cut(names, "; ")
		if version == 2 {
			names, pieces = second, strings.Replace(pieces, "format (2) or mime (3, 4)", "format", 1)
		} else {
			names, pieces = later, strings.Replace(pieces, "format (2) or mime (3, 4)", "mime", 1)
		}
		for name := range strings.SplitSeq(names, ", ") {
			m[name] = strings.Split(pieces, ", ")
		}
	}
	return m
}

// rows are names of each row of the document's table in a version, the last one's too.
func rows(version int) []string {
	if version == 2 {
		return []string{"TXX", "COM", "ULT", "WXX", "PIC", "TT2", "PRI"}
	}
	return []string{"TXXX", "COMM", "USLT", "WXXX", "APIC", "TIT2", "PRIV"}
}

// known are those of which pieces are known.
func known(version int) []string { return rows(version)[:6] }

// toldPieces are the names of a frame's pieces, by the document's words.
func toldPieces(version int, id string) []string {
	signs := map[int]int{2: 3, 3: 4, 4: 4}[version]
	if signs == 0 {
		return []string{"data"}
	}
	if l, ok := documentNames(version)[id]; ok {
		return l
	}
	if len(id) > 0 && id[0] == 'T' && point.Valid(id) && len([]rune(id)) == signs {
		return []string{"text"}
	}
	return []string{"data"}
}

// alone says whether a frame has data alone.
func alone(version int, id string) bool {
	l := toldPieces(version, id)
	return len(l) == 1 && l[0] == "data"
}

// raw says whether a piece is raw.
func raw(name string) bool { return name != "description" && name != "text" }

// sizeOf is how many bytes a piece has; below 0: as many as there are.
func sizeOf(name string) int {
	switch name {
	case "language", "format":
		return 3
	case "kind":
		return 1
	}
	return -1
}

// malformed and undecodable are the faults that most bodies have.
func malformed(at int) api.Fault   { return api.Fault{Errno: api.ErrMalformed, At: at} }
func undecodable(at int) api.Fault { return api.Fault{Errno: api.ErrUndecodable, At: at} }

// argument is the fault that most pieces have.
func argument(at int) api.Fault { return api.Fault{Errno: api.ErrArg, At: at} }

// ends is where a piece's bytes end, and where the next one's begin; false: it isn't whole. It goes by the body's places alone.
func ends(name, body string, at int, encoding byte) (int, int, bool) {
	wideEnd := name == "description" && (encoding == 1 || encoding == 2)
	switch {
	case name == "text" || name == "data":
		return len(body), len(body), true
	case sizeOf(name) >= 0:
		end := at + sizeOf(name)
		return end, end, end <= len(body)
	case wideEnd:
		for i := at; i+1 < len(body); i += 2 {
			if body[i] == 0 && body[i+1] == 0 {
				return i, i + 2, true
			}
		}
		return 0, 0, false
	}
	for i := at; i < len(body); i++ {
		if body[i] == 0 {
			return i, i + 1, true
		}
	}
	return 0, 0, false
}

// toldText is the text of bytes, and its charset.
func toldText(encoding byte, b string, o api.Options) (string, api.Charset, api.Fault) {
	switch encoding {
	case 0:
		c := detect.Resolve(b, "", o)
		s, f := charset.Decode(c, b)
		return s, c, f
	case 1:
		s, f := wide.Marked(b)
		if len(b) > 1 && b[0] == 0xFE && b[1] == 0xFF {
			return s, api.UTF16B, f
		}
		return s, api.UTF16L, f
	case 2:
		s, f := charset.Decode(api.UTF16B, b)
		return s, api.UTF16B, f
	}
	s, f := charset.Decode(api.UTF8, b)
	return s, api.UTF8, f
}

// toldParse are the pieces of a body, by the document's words.
func toldParse(version int, id, body string, o api.Options) ([]field.Part, api.Fault) {
	if alone(version, id) {
		return []field.Part{{Name: "data", Raw: true, Text: body}}, api.Fault{}
	}
	if body == "" {
		return nil, malformed(0)
	}
	if body[0] > 3 || body[0] > 1 && version != 4 {
		return nil, malformed(0)
	}
	at := 1
	var l []field.Part
	for _, name := range toldPieces(version, id) {
		end, next, ok := ends(name, body, at, body[0])
		if !ok {
			return nil, malformed(len(body))
		}
		if raw(name) {
			l = append(l, field.Part{Name: name, Raw: true, Text: body[at:end]})
		} else {
			s, c, f := toldText(body[0], body[at:end], o)
			if f.Bad() {
				return nil, api.Fault{Errno: f.Errno, At: at + f.At}
			}
			l = append(l, field.Part{Name: name, Text: s, Set: c})
		}
		at = next
	}
	return l, api.Fault{}
}

// toldWrong is what is wrong with a piece that is there.
func toldWrong(name string, p field.Part) api.Errno {
	if p.Raw && !raw(name) || !p.Raw && raw(name) {
		return api.ErrArg
	}
	if n := sizeOf(name); n >= 0 && len(p.Text) != n {
		return api.ErrArg
	}
	if name == "mime" || name == "description" {
		for i := range len(p.Text) {
			if p.Text[i] == 0 {
				return api.ErrArg
			}
		}
	}
	if _, f := point.Points(p.Text); !raw(name) && f.Bad() {
		return api.ErrUndecodable
	}
	return api.OK
}

// toldCheck is what is wrong with pieces, by the document's words.
func toldCheck(version int, id string, l []field.Part) api.Fault {
	names := toldPieces(version, id)
	for i, name := range names {
		if len(l) == i {
			return argument(i)
		}
		if e := toldWrong(name, l[i]); e != api.OK {
			return api.Fault{Errno: e, At: i}
		}
	}
	if len(l) > len(names) {
		return argument(len(names))
	}
	return api.Fault{}
}

// toldUnits is a text as layer 3's WithMark has it: FF FE, and units of two bytes, the lower first.
func toldUnits(s string) string {
	b := []byte{0xFF, 0xFE}
	unit := func(n rune) { b = append(b, byte(n&0xFF), byte(n>>8)) }
	for _, p := range s {
		if p < 0x10000 {
			unit(p)
		} else {
			unit(0xD800 + (p-0x10000)>>10)
			unit(0xDC00 + (p-0x10000)&0x3FF)
		}
	}
	return string(b)
}

// toldPrint are the bytes of pieces that aren't wrong.
func toldPrint(version int, id string, l []field.Part) string {
	if alone(version, id) {
		return l[0].Text
	}
	b := "\x01"
	if version == 4 {
		b = "\x03"
	}
	for i, name := range toldPieces(version, id) {
		s, end := l[i].Text, "\x00"
		if !raw(name) && version != 4 {
			s, end = toldUnits(s), "\x00\x00"
		}
		if name != "mime" && name != "description" {
			end = ""
		}
		b += s + end
	}
	return b
}

// again are pieces as they are when they were printed, and read again.
func again(version int, id string, l []field.Part) []field.Part {
	var m []field.Part
	for i, name := range toldPieces(version, id) {
		p := field.Part{Name: name, Raw: l[i].Raw, Text: l[i].Text}
		if !p.Raw && version == 4 {
			p.Set = api.UTF8
		} else if !p.Raw {
			p.Set = api.UTF16L
		}
		m = append(m, p)
	}
	return m
}
