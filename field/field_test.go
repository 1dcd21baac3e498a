package field_test

import (
	"math"
	"slices"
	"strings"
	"testing"

	"diacritic/api"
	"diacritic/charset"
	"diacritic/detect"
	"diacritic/field"
)

// bytesOf is a raw piece.
func bytesOf(name, b string) field.Part { return field.Part{Name: name, Raw: true, Text: b} }

// textOf is a piece that is a text.
func textOf(name, s string, c api.Charset) field.Part {
	return field.Part{Name: name, Text: s, Set: c}
}

// layout fails a test, if a frame isn't of these letters.
func layout(t *testing.T, version int, id, want string) {
	t.Helper()
	if got := field.Layout(version, id); got != want {
		t.Errorf("version %d, %q: %q; should be %q", version, id, got, want)
	}
}

// parses fails a test, if a body doesn't come to these pieces.
func parses(t *testing.T, version int, id, body string, o api.Options, want ...field.Part) {
	t.Helper()
	if l, f := field.Parse(version, id, body, o); f != (api.Fault{}) || !slices.Equal(l, want) {
		t.Errorf("version %d, %s, %q: %v, %v; should be %v", version, id, body, l, f, want)
	}
}

// refuses fails a test, if a body doesn't come to this fault alone.
func refuses(t *testing.T, version int, id, body string, o api.Options, want api.Fault) {
	t.Helper()
	if l, f := field.Parse(version, id, body, o); f != want || len(l) != 0 {
		t.Errorf("version %d, %s, %q: %v, %v; should be %v", version, id, body, l, f, want)
	}
}

// asTold fails a test, if a body doesn't come to what the document tells.
func asTold(t *testing.T, version int, id, body string, o api.Options) {
	t.Helper()
	l, f := field.Parse(version, id, body, o)
	if want, bad := toldParse(version, id, body, o); f != bad || !slices.Equal(l, want) {
		t.Fatalf("version %d, %s, %q, %v: %v, %v; should be %v, %v", version, id, body, o, l, f, want, bad)
	}
}

// prints fails a test, if pieces don't come to these bytes.
func prints(t *testing.T, version int, id, want string, l ...field.Part) {
	t.Helper()
	if f := field.Check(version, id, l...); f != (api.Fault{}) {
		t.Errorf("version %d, %s, %v: %v", version, id, l, f)
	}
	if b, f := field.Print(version, id, l...); b != want || f != (api.Fault{}) {
		t.Errorf("version %d, %s, %v: %q, %v; should be %q", version, id, l, b, f, want)
	}
}

// wrong fails a test, if pieces don't come to this fault alone.
func wrong(t *testing.T, version int, id string, want api.Fault, l ...field.Part) {
	t.Helper()
	if f := field.Check(version, id, l...); f != want {
		t.Errorf("Check of version %d, %s, %v: %v; should be %v", version, id, l, f, want)
	}
	if b, f := field.Print(version, id, l...); b != "" || f != want {
		t.Errorf("Print of version %d, %s, %v: %q, %v; should be %v", version, id, l, b, f, want)
	}
}

// options are such as lead to each charset, and to none.
func options() []api.Options {
	l := []api.Options{{}, {Detect: true}, {Fallback: 99, Detect: true}, {Kind: 99, Budget: -1}, {Kind: api.LRC, Budget: 1, Detect: true}}
	for c := api.Charset(-1); c <= 10; c++ {
		l = append(l, api.Options{Fallback: c})
	}
	return append(l, api.Options{Fallback: math.MinInt}, api.Options{Fallback: math.MaxInt})
}

// words are all texts of up to so many of some pieces.
func words(most int, pieces ...string) []string {
	l, last := []string{""}, []string{""}
	for range most {
		var next []string
		for _, s := range last {
			for _, piece := range pieces {
				next = append(next, s+piece)
			}
		}
		l, last = append(l, next...), next
	}
	return l
}

func TestExamples(t *testing.T) {
	parses(t, 3, "TIT2", "\x00\x61", api.Options{}, textOf("text", "a", api.UTF8))
	prints(t, 3, "TIT2", "\x01\xff\xfe\x61\x00", textOf("text", "a", api.UTF8))
	parses(t, 4, "COMM", "\x00eng\x00\xc1", api.Options{Fallback: api.KOI8R}, bytesOf("language", "eng"), textOf("description", "", api.UTF8), textOf("text", "\u0430", api.KOI8R))
}

func TestLayout(t *testing.T) {
	second := map[string]string{"TXX": "dt", "COM": "ldt", "ULT": "ldt", "WXX": "dr", "PIC": "fkdr", "TT2": "t", "TAL": "t", "T00": "t", "TXY": "t", "TYX": "t", "PRI": "", "UFI": "", "WXY": "", "COL": "", "PIX": "", "XTX": ""}
	later := map[string]string{"TXXX": "dt", "COMM": "ldt", "USLT": "ldt", "WXXX": "dr", "APIC": "zkdr", "TIT2": "t", "TALB": "t", "T000": "t", "TXXY": "t", "TYXX": "t", "PRIV": "", "UFID": "", "WXXY": "", "COMR": "", "APIX": "", "XTXX": ""}
	for version, want := range map[int][2]map[string]string{2: {second, later}, 3: {later, second}, 4: {later, second}} {
		for id, letters := range want[0] {
			layout(t, version, id, letters)
		}
		for id := range want[1] {
			layout(t, version, id, "")
		}
	}
	for _, version := range none() {
		for id := range second {
			layout(t, version, id, "")
		}
		for id := range later {
			layout(t, version, id, "")
		}
	}
}

func TestLayoutByLengths(t *testing.T) {
	for n := range 7 {
		for _, sign := range []string{"T", "A", "9", "a", "x", " ", "\x00", "\x7f"} {
			id := ("T" + strings.Repeat(sign, 6))[:n]
			layout(t, 2, id, map[int]string{3: "t"}[n])
			layout(t, 3, id, map[int]string{4: "t"}[n])
			layout(t, 4, id, map[int]string{4: "t"}[n])
			for _, version := range none() {
				layout(t, version, id, "")
			}
		}
	}
	for _, id := range []string{"TXXXX", "TIT22", " TXX", "COMMM", "COMM\x00", "APIC ", "COM\x00"} {
		for _, version := range all() {
			layout(t, version, id, "")
		}
	}
}

func TestLayoutOfSmallLetters(t *testing.T) {
	for _, id := range []string{"txx", "tXX", "com", "Com", "ult", "wxx", "Wxx", "pic", "PIc", "tt2", "txxx", "tXXX", "comm", "COMm", "uslt", "wxxx", "apic", "Apic", "tit2"} {
		for _, version := range all() {
			layout(t, version, id, "")
		}
	}
	for _, id := range []string{"Txx", "TXx", "Tt2"} {
		layout(t, 2, id, "t")
		layout(t, 3, id, "")
	}
	for _, id := range []string{"Txxx", "TXXx", "Tit2"} {
		layout(t, 2, id, "")
		layout(t, 3, id, "t")
		layout(t, 4, id, "t")
	}
}

func TestLayoutByEachByte(t *testing.T) {
	letters := map[string]string{"language": "l", "format": "f", "mime": "z", "kind": "k", "description": "d", "text": "t", "data": "r"}
	for _, version := range all() {
		for _, id := range append(rows(2), rows(3)...) {
			for at := range len(id) {
				for v := range 256 {
					b := []byte(id)
					b[at] = byte(v)
					want := ""
					if !alone(version, string(b)) {
						for _, name := range toldPieces(version, string(b)) {
							want += letters[name]
						}
					}
					layout(t, version, string(b), want)
				}
			}
		}
	}
}

// Signs are Unicode's: how many bytes they have doesn't matter.
func TestLayoutBySigns(t *testing.T) {
	layout(t, 2, "T\u00e9\U0001F600", "t")
	layout(t, 3, "TI\u00e92", "t")
	layout(t, 4, "T\u00e92", "")
	layout(t, 2, "T\u00e9", "")
	layout(t, 2, "T\xff\xff", "")
	layout(t, 3, "TIT\xff", "")
}

func TestParseOfEachRow(t *testing.T) {
	o := api.Options{Fallback: api.KOI8R}
	parses(t, 2, "TXX", "\x00a\x00\xc1", o, textOf("description", "a", api.UTF8), textOf("text", "\u0430", api.KOI8R))
	parses(t, 2, "COM", "\x01eng\xff\xfea\x00\x00\x00\xfe\xff\x00b", o, bytesOf("language", "eng"), textOf("description", "a", api.UTF16L), textOf("text", "b", api.UTF16B))
	parses(t, 2, "ULT", "\x00eng\xc1\x00c", o, bytesOf("language", "eng"), textOf("description", "\u0430", api.KOI8R), textOf("text", "c", api.UTF8))
	parses(t, 2, "WXX", "\x00a\x00\x00b\x00", o, textOf("description", "a", api.UTF8), bytesOf("data", "\x00b\x00"))
	parses(t, 2, "PIC", "\x00PNG\x03a\x00\xff\xd8\x00", o, bytesOf("format", "PNG"), bytesOf("kind", "\x03"), textOf("description", "a", api.UTF8), bytesOf("data", "\xff\xd8\x00"))
	parses(t, 2, "TT2", "\x01\xff\xfea\x00", o, textOf("text", "a", api.UTF16L))
	parses(t, 2, "PRI", "\x00a\x00\xff", o, bytesOf("data", "\x00a\x00\xff"))
	for _, version := range []int{3, 4} {
		parses(t, version, "TXXX", "\x00a\x00\xc1", o, textOf("description", "a", api.UTF8), textOf("text", "\u0430", api.KOI8R))
		parses(t, version, "COMM", "\x01eng\xff\xfea\x00\x00\x00\xfe\xff\x00b", o, bytesOf("language", "eng"), textOf("description", "a", api.UTF16L), textOf("text", "b", api.UTF16B))
		parses(t, version, "USLT", "\x00\x00\x00\x00\xc1\x00c", o, bytesOf("language", "\x00\x00\x00"), textOf("description", "\u0430", api.KOI8R), textOf("text", "c", api.UTF8))
		parses(t, version, "WXXX", "\x01\xff\xfea\x00\x00\x00\xff", o, textOf("description", "a", api.UTF16L), bytesOf("data", "\xff"))
		parses(t, version, "APIC", "\x01image/png\x00\x03\xfe\xff\x00a\x00\x00\xff\xd8", o, bytesOf("mime", "image/png"), bytesOf("kind", "\x03"), textOf("description", "a", api.UTF16B), bytesOf("data", "\xff\xd8"))
		parses(t, version, "TIT2", "\x01\xfe\xff\x00a", o, textOf("text", "a", api.UTF16B))
		parses(t, version, "PRIV", "\x00a\x00\xff", o, bytesOf("data", "\x00a\x00\xff"))
	}
	parses(t, 4, "COMM", "\x02eng\x00a\x00\x00\x04\x30", o, bytesOf("language", "eng"), textOf("description", "a", api.UTF16B), textOf("text", "\u0430", api.UTF16B))
	parses(t, 4, "APIC", "\x02\xff\xc1\x00\x00\x00a\x00\x00\x00", o, bytesOf("mime", "\xff\xc1"), bytesOf("kind", "\x00"), textOf("description", "a", api.UTF16B), bytesOf("data", "\x00"))
	parses(t, 4, "TXXX", "\x03\u0430\x00\U0001F600", o, textOf("description", "\u0430", api.UTF8), textOf("text", "\U0001F600", api.UTF8))
}

func TestParseOfNoByte(t *testing.T) {
	for _, version := range there() {
		for _, id := range known(version) {
			refuses(t, version, id, "", api.Options{}, malformed(0))
		}
	}
}

func TestParseOfAnEncodingAlone(t *testing.T) {
	sets := []api.Charset{api.UTF8, api.UTF16L, api.UTF16B, api.UTF8}
	for _, version := range there() {
		for e := range 256 {
			for _, id := range known(version) {
				body := string([]byte{byte(e)})
				switch {
				case e > 3 || e > 1 && version != 4:
					refuses(t, version, id, body, api.Options{}, malformed(0))
					refuses(t, version, id, body+"eng\xff\x00\x00\xff", api.Options{}, malformed(0))
				case field.Layout(version, id) == "t":
					parses(t, version, id, body, api.Options{}, textOf("text", "", sets[e]))
				default:
					refuses(t, version, id, body, api.Options{}, malformed(1))
				}
			}
		}
	}
}

// cuts is a body, and how many of its bytes must be there.
type cuts struct {
	version  int
	id, body string
	needed   int
}

func TestPiecesCutOff(t *testing.T) {
	for _, x := range []cuts{
		{2, "TXX", "\x00ab\x00cd", 4}, {3, "TXXX", "\x00ab\x00cd", 4}, {4, "TXXX", "\x03ab\x00cd", 4},
		{2, "COM", "\x00engab\x00cd", 7}, {3, "COMM", "\x00engab\x00cd", 7}, {4, "COMM", "\x03eng\x00cd", 5},
		{2, "ULT", "\x00engab\x00cd", 7}, {3, "USLT", "\x00engab\x00cd", 7}, {4, "USLT", "\x03eng\x00cd", 5},
		{2, "WXX", "\x00ab\x00\xff\x00", 4}, {3, "WXXX", "\x01\xff\xfea\x00\x00\x00\xff\x00", 7}, {4, "WXXX", "\x02\x00a\x00b\x00\x00\x00", 7},
		{2, "PIC", "\x00PNG\x03ab\x00\xff\x00", 8}, {3, "APIC", "\x00i/p\x00\x03ab\x00\xff\x00", 9}, {4, "APIC", "\x02i/p\x00\x03\x00a\x00b\x00\x00\xff\x00", 12},
		{2, "COM", "\x01eng\xff\xfea\x00\x00\x00", 10}, {4, "COMM", "\x02eng\x00a\x00\x00", 8}, {4, "COMM", "\x02eng\x00\x00", 6},
		{2, "PIC", "\x01\x00\x00\x00\x00\x00\x00\x00\x00", 7}, {3, "APIC", "\x00\x00\x00\x00", 4}, {4, "APIC", "\x03\x00\x00\x00", 4},
	} {
		for n := range len(x.body) + 1 {
			if n < x.needed {
				refuses(t, x.version, x.id, x.body[:n], api.Options{}, malformed(n))
			} else {
				asTold(t, x.version, x.id, x.body[:n], api.Options{})
			}
		}
		if _, f := field.Parse(x.version, x.id, x.body[:x.needed], api.Options{}); f.Bad() {
			t.Errorf("version %d, %s, %q: %v", x.version, x.id, x.body[:x.needed], f)
		}
	}
}

func TestMimes(t *testing.T) {
	for _, version := range []int{3, 4} {
		refuses(t, version, "APIC", "\x00image", api.Options{}, malformed(6))
		refuses(t, version, "APIC", "\x01i\x01m\x01", api.Options{}, malformed(5))
		refuses(t, version, "APIC", "\x00image\x00", api.Options{}, malformed(7))
		refuses(t, version, "APIC", "\x00\x00", api.Options{}, malformed(2))
		parses(t, version, "APIC", "\x00\x00\x05\x00", api.Options{}, bytesOf("mime", ""), bytesOf("kind", "\x05"), textOf("description", "", api.UTF8), bytesOf("data", ""))
		parses(t, version, "APIC", "\x01\xc1\x00\x05\x00\x00", api.Options{}, bytesOf("mime", "\xc1"), bytesOf("kind", "\x05"), textOf("description", "", api.UTF16L), bytesOf("data", ""))
	}
	parses(t, 2, "PIC", "\x00\x00\x00\x00\x00\x00", api.Options{}, bytesOf("format", "\x00\x00\x00"), bytesOf("kind", "\x00"), textOf("description", "", api.UTF8), bytesOf("data", ""))
	refuses(t, 2, "PIC", "\x00image", api.Options{}, malformed(6))
}

func TestEndsOfDescriptions(t *testing.T) {
	for _, version := range []int{3, 4} {
		refuses(t, version, "TXXX", "\x00abc", api.Options{}, malformed(4))
		refuses(t, version, "TXXX", "\x00\xff\xfe", api.Options{Fallback: api.UTF8}, malformed(3)) // it is undecodable, too
		refuses(t, version, "TXXX", "\x01a", api.Options{}, malformed(2))
		parses(t, version, "TXXX", "\x00\x00", api.Options{}, textOf("description", "", api.UTF8), textOf("text", "", api.UTF8))
		parses(t, version, "TXXX", "\x00a\x00", api.Options{}, textOf("description", "a", api.UTF8), textOf("text", "", api.UTF8))
		parses(t, version, "TXXX", "\x00a\x00\x00b\x00", api.Options{}, textOf("description", "a", api.UTF8), textOf("text", "\x00b\x00", api.UTF8))
		parses(t, version, "TXXX", "\x01\x00\x00", api.Options{}, textOf("description", "", api.UTF16L), textOf("text", "", api.UTF16L))
		parses(t, version, "TXXX", "\x01\xff\xfe\x00\x00", api.Options{}, textOf("description", "", api.UTF16L), textOf("text", "", api.UTF16L))
		parses(t, version, "TXXX", "\x01\xfe\xff\x00\x00\xff\xfe", api.Options{}, textOf("description", "", api.UTF16B), textOf("text", "", api.UTF16L))
	}
	parses(t, 4, "TXXX", "\x02\x00\x00", api.Options{}, textOf("description", "", api.UTF16B), textOf("text", "", api.UTF16B))
	parses(t, 4, "TXXX", "\x03\x00", api.Options{}, textOf("description", "", api.UTF8), textOf("text", "", api.UTF8))
	refuses(t, 4, "TXXX", "\x02\x00", api.Options{}, malformed(2))
	refuses(t, 4, "TXXX", "\x03abc", api.Options{}, malformed(4))
}

// The end of two bytes stands at each second byte of the description, wherever that begins.
func TestEndsOfTwoBytes(t *testing.T) {
	refuses(t, 3, "TXXX", "\x01\xff\xfea\x00\x00b", api.Options{}, malformed(7))
	refuses(t, 3, "TXXX", "\x01\xff\xfea\x00\x00", api.Options{}, malformed(6))
	refuses(t, 3, "TXXX", "\x01\xff\xfea\x00b\x00\x00", api.Options{}, malformed(8))
	refuses(t, 4, "TXXX", "\x02\x01\x00\x00\x01", api.Options{}, malformed(5))
	refuses(t, 4, "TXXX", "\x02\x00a\x00", api.Options{}, malformed(4))
	refuses(t, 4, "COMM", "\x02eng\x01\x00\x00\x01\x00", api.Options{}, malformed(9))
	// Signs on whose border two bytes 0 stand: 0100 and 0001, or 0061 behind 0100.
	parses(t, 3, "TXXX", "\x01\xff\xfea\x00\x00\x01\x00\x00\xff\xfeb\x00", api.Options{}, textOf("description", "a\u0100", api.UTF16L), textOf("text", "b", api.UTF16L))
	parses(t, 3, "TXXX", "\x01\xfe\xff\x01\x00\x00\x61\x00\x00\xfe\xff\x00\x00", api.Options{}, textOf("description", "\u0100a", api.UTF16B), textOf("text", "\x00", api.UTF16B))
	parses(t, 4, "TXXX", "\x02\x01\x00\x00\x01\x00\x00", api.Options{}, textOf("description", "\u0100\u0001", api.UTF16B), textOf("text", "", api.UTF16B))
	refuses(t, 4, "TXXX", "\x02\x01\x00\x00\x01\x00\x00\x00", api.Options{}, undecodable(7))
}

func TestMarks(t *testing.T) {
	for _, version := range there() {
		id := known(version)[5]
		parses(t, version, id, "\x01\xff\xfea\x00", api.Options{}, textOf("text", "a", api.UTF16L))
		parses(t, version, id, "\x01\xfe\xff\x00a", api.Options{}, textOf("text", "a", api.UTF16B))
		parses(t, version, id, "\x01\xff\xfe", api.Options{}, textOf("text", "", api.UTF16L))
		parses(t, version, id, "\x01\xfe\xff", api.Options{}, textOf("text", "", api.UTF16B))
		parses(t, version, id, "\x01", api.Options{}, textOf("text", "", api.UTF16L))
		parses(t, version, id, "\x01\xff\xfe\xff\xfea\x00", api.Options{}, textOf("text", "\ufeffa", api.UTF16L))
		parses(t, version, id, "\x01\xfe\xff\xff\xfe", api.Options{}, textOf("text", "\ufffe", api.UTF16B))
		for _, b := range []string{"a\x00", "\x00a", "a", "\xff", "\xfe", "\xef\xbb\xbfa", "\x00\x00"} {
			refuses(t, version, id, "\x01"+b, api.Options{Fallback: api.UTF16L, Detect: true}, undecodable(1))
		}
	}
	parses(t, 4, "TIT2", "\x02\xff\xfe\x00a", api.Options{}, textOf("text", "\ufffea", api.UTF16B))
	parses(t, 4, "TIT2", "\x02\xfe\xff\x00a", api.Options{}, textOf("text", "\ufeffa", api.UTF16B))
	parses(t, 4, "TIT2", "\x03\xef\xbb\xbfa", api.Options{}, textOf("text", "\ufeffa", api.UTF8))
}

func TestPlacesOfWhatIsUndecodable(t *testing.T) {
	eight := api.Options{Fallback: api.UTF8}
	for _, x := range []struct {
		version  int
		id, body string
		at       int
	}{
		{2, "TT2", "\x00ab\xff", 3}, {3, "TIT2", "\x00\xff", 1}, {4, "TIT2", "\x00a\xc3", 2},
		{3, "TXXX", "\x00a\xffb\x00c", 2}, {3, "TXXX", "\x00ab\x00c\xff", 5}, {3, "TXXX", "\x00\xff\x00\xff", 1}, {3, "TXXX", "\x00\x00\xff", 2},
		{2, "COM", "\x00\xff\xff\xffa\xff\x00c", 5}, {3, "COMM", "\x00engab\x00c\xff", 8}, {4, "COMM", "\x00eng\x00\xff", 5},
		{2, "WXX", "\x00a\xff\x00\xff", 2}, {4, "WXXX", "\x00\xff\x00", 1},
		{2, "PIC", "\x00\xff\xff\xff\xffa\xff\x00\xff", 6}, {3, "APIC", "\x00\xff\xff\x00\xffa\xff\x00\xff", 6},
		{2, "TT2", "\x01\xff\xfe\x00\xd8", 3}, {3, "TIT2", "\x01\xfe\xff\x00a\xdc\x00\x00a", 5}, {4, "TIT2", "\x01\xfe\xff\x00a\x00", 5}, {4, "TIT2", "\x01a\x00", 1}, {3, "TIT2", "\x01\xff", 1},
		{3, "TXXX", "\x01a\x00\x00\x00\xff\xfe", 1}, {3, "TXXX", "\x01\xff\xfe\x00\xd8a\x00\x00\x00", 3}, {3, "TXXX", "\x01\xff\xfe\x00\x00a\x00", 5}, {3, "TXXX", "\x01\xff\xfe\x00\x00\xfe\xff\x00a\xd8\x00", 9},
		{2, "COM", "\x01eng\xff\xfea\x00\x00\xdc\x00\x00", 8}, {4, "COMM", "\x01eng\x00\x00\xff\xfe\x00\xdc", 8},
		{3, "WXXX", "\x01\x00a\x00\x00", 1}, {3, "APIC", "\x01i\x00\x03\xfe\xff\xd8\x00\x00\x00\xff", 6},
		{4, "TIT2", "\x02\x00a\xd8\x00", 3}, {4, "TIT2", "\x02a", 1}, {4, "TXXX", "\x02\xdc\x00\x00\x00", 1}, {4, "TXXX", "\x02\x00a\x00\x00\x00b\x00", 7}, {4, "COMM", "\x02eng\x00\x00\xd8\x00\xd8\x00", 6}, {4, "APIC", "\x02\x00\x03\x00a\xdc\x00\x00\x00\xff", 5},
		{4, "TIT2", "\x03\xed\xa0\x80", 1}, {4, "TIT2", "\x03a\xe0\x80\x80", 2}, {4, "TXXX", "\x03a\xff\x00b", 2}, {4, "TXXX", "\x03a\x00b\xf4\x90\x80\x80", 4}, {4, "USLT", "\x03eng\xc3\xa9\xc3\x00", 6}, {4, "WXXX", "\x03\x80\x00\x80", 1},
	} {
		refuses(t, x.version, x.id, x.body, eight, undecodable(x.at))
	}
	refuses(t, 3, "TXXX", "\x00a\x00b\xb0\xa1\xb0", api.Options{Fallback: api.CP949}, undecodable(6))
	refuses(t, 3, "TXXX", "\x00a\xb0\x00b", api.Options{Fallback: api.CP949}, undecodable(2))
	refuses(t, 3, "TIT2", "\x00\xff\xfea", api.Options{Fallback: api.UTF16L}, undecodable(3))
}

func TestNoCharset(t *testing.T) {
	for _, c := range []api.Charset{-1, 10, 99, math.MinInt, math.MaxInt} {
		for _, o := range []api.Options{{Fallback: c}, {Fallback: c, Detect: true}} {
			// None is guessed here: a sign that may hardly be stands behind.
			refuses(t, 3, "TIT2", "\x00\xff\x01\x01", o, argument(1))
			refuses(t, 3, "COMM", "\x00enga\x00\xff\x01\x01", o, argument(6))
			refuses(t, 3, "COMM", "\x00eng\xff\x01\x01\x00\xff", o, argument(4))
			refuses(t, 3, "COMM", "\x00eng\xff\x01\x01", o, malformed(7))
			parses(t, 3, "TIT2", "\x00\xc3\xa9", o, textOf("text", "\u00e9", api.UTF8))
			parses(t, 3, "TIT2", "\x00", o, textOf("text", "", api.UTF8))
			parses(t, 3, "PRIV", "\xff", o, bytesOf("data", "\xff"))
		}
	}
}

func TestCharsetsOfTheFallback(t *testing.T) {
	for c, x := range map[api.Charset][2]string{
		api.Latin1: {"\xe9\xff", "\u00e9\u00ff"},
		api.KOI8R:  {"\xc1\xa4", "\u0430\u2553"},
		api.KOI8U:  {"\xc1\xa4", "\u0430\u0454"},
		api.CP866:  {"\x80\xa0", "\u0410\u0430"},
		api.CP949:  {"\xb0\xa1a", "\uac00a"},
		api.Johab:  {"\x88\x61a", "\uac00a"},
		api.Big5:   {"\x88\x62a", "\u00ca\u0304a"},
		api.UTF16L: {"\xff\xfe\x30\x04", "\ufeff\u0430"},
		api.UTF16B: {"\xfe\xff\x04\x30", "\ufeff\u0430"},
	} {
		o := api.Options{Fallback: c}
		for _, version := range there() {
			l := known(version)
			parses(t, version, l[5], "\x00"+x[0], o, textOf("text", x[1], c))
			parses(t, version, l[1], "\x00eng"+x[0]+"\x00"+x[0], o, bytesOf("language", "eng"), textOf("description", x[1], c), textOf("text", x[1], c))
			parses(t, version, l[0], "\x00\xc3\xa9\x00"+x[0], o, textOf("description", "\u00e9", api.UTF8), textOf("text", x[1], c))
			parses(t, version, l[0], "\x00"+x[0]+"\x00\xc3\xa9", o, textOf("description", x[1], c), textOf("text", "\u00e9", api.UTF8))
		}
	}
	parses(t, 3, "TIT2", "\x00\xe9", api.Options{}, textOf("text", "\u00e9", api.Latin1))
}

func TestCharsetsThatAreGuessed(t *testing.T) {
	for c, x := range map[api.Charset][2]string{
		api.CP949:  {"\xb0\xa1", "\uac00"},
		api.Big5:   {"\xa4\x40", "\u4e00"},
		api.Johab:  {"\x88\x61", "\uac00"},
		api.KOI8R:  {"\xc1\xc2", "\u0430\u0431"},
		api.KOI8U:  {"\xa4\xc1", "\u0454\u0430"},
		api.CP866:  {"\xa0\xa1\xa2", "\u0430\u0431\u0432"},
		api.Latin1: {"\xf8\xf8\xf8\xb9\xb9", "\u00f8\u00f8\u00f8\u00b9\u00b9"},
	} {
		if g, ok := detect.Guess(x[0], detect.Order()...); !ok || g != c {
			t.Fatalf("%q isn't guessed as %s", x[0], charset.Name(c))
		}
		for _, fallback := range []api.Charset{api.Latin1, api.UTF8, api.KOI8R, 99} {
			o := api.Options{Fallback: fallback, Detect: true}
			parses(t, 3, "TIT2", "\x00"+x[0], o, textOf("text", x[1], c))
			parses(t, 4, "TXXX", "\x00"+x[0]+"\x00a", o, textOf("description", x[1], c), textOf("text", "a", api.UTF8))
			parses(t, 2, "TXX", "\x00a\x00"+x[0], o, textOf("description", "a", api.UTF8), textOf("text", x[1], c))
		}
	}
	// None is guessed: what is left holds.
	parses(t, 3, "TIT2", "\x00\xff\xfea\x00", api.Options{Fallback: api.UTF16L, Detect: true}, textOf("text", "\ufeffa", api.UTF16L))
	parses(t, 3, "TIT2", "\x00\xff\xfea\x00", api.Options{Detect: true}, textOf("text", "\u00ff\u00fea\x00", api.Latin1))
	// Each text is guessed on its own.
	parses(t, 3, "TXXX", "\x00\xb0\xa1\x00\xc1\xc2", api.Options{Detect: true}, textOf("description", "\uac00", api.CP949), textOf("text", "\u0430\u0431", api.KOI8R))
}

func TestMarksInTheEncodingOfBytes(t *testing.T) {
	for _, o := range options() {
		parses(t, 3, "TIT2", "\x00\xef\xbb\xbfa", o, textOf("text", "\ufeffa", api.UTF8))
		parses(t, 4, "TXXX", "\x00\xef\xbb\xbf\x00\xef\xbb\xbf", o, textOf("description", "\ufeff", api.UTF8), textOf("text", "\ufeff", api.UTF8))
	}
	parses(t, 3, "TIT2", "\x00\xff\xfea", api.Options{}, textOf("text", "\u00ff\u00fea", api.Latin1))
	parses(t, 3, "TIT2", "\x00\xfe\xffa", api.Options{Fallback: api.KOI8R}, textOf("text", "\u0427\u042aa", api.KOI8R))
	refuses(t, 3, "TIT2", "\x00\xff\xfea\x00", api.Options{Fallback: api.UTF8}, undecodable(1))
}

func TestData(t *testing.T) {
	for _, version := range all() {
		for _, id := range []string{"PRI", "PRIV", "", "T", "TT", "TXXXX", "tit2", "\xff\xfe", "T\xff\xff"} {
			for _, b := range []string{"", "\x00", "\xff", "\x04", "\x01a\x00", "\x00\xff\x00", strings.Repeat("\xff\x00", 999)} {
				for _, o := range options() {
					parses(t, version, id, b, o, bytesOf("data", b))
				}
			}
		}
	}
	for _, version := range none() {
		for _, id := range append(rows(2), rows(3)...) {
			parses(t, version, id, "\x07\xff", api.Options{}, bytesOf("data", "\x07\xff"))
			parses(t, version, id, "", api.Options{}, bytesOf("data", ""))
		}
	}
	for _, id := range rows(3) {
		parses(t, 2, id, "\xff", api.Options{}, bytesOf("data", "\xff"))
	}
	for _, id := range rows(2) {
		parses(t, 3, id, "\xff", api.Options{}, bytesOf("data", "\xff"))
		parses(t, 4, id, "\xff", api.Options{}, bytesOf("data", "\xff"))
	}
	for v := range 256 {
		parses(t, 3, "PRIV", string([]byte{byte(v)}), api.Options{}, bytesOf("data", string([]byte{byte(v)})))
		parses(t, 3, "WXXX", "\x00\x00"+string([]byte{byte(v)}), api.Options{Fallback: api.UTF8}, textOf("description", "", api.UTF8), bytesOf("data", string([]byte{byte(v)})))
	}
}

func TestParseAsTold(t *testing.T) {
	bodies := words(4, "\x00", "\x01", "a", "\xc3", "\xa9", "\xfe", "\xff", "\xd8")
	for _, version := range there() {
		for _, id := range rows(version) {
			for _, o := range []api.Options{{Fallback: api.CP949}, {Fallback: api.UTF8}, {Fallback: 10}} {
				for _, e := range []string{"\x00", "\x01", "\x02", "\x03", "\x04"} {
					for _, b := range bodies {
						asTold(t, version, id, e+b, o)
					}
				}
			}
		}
	}
}

func TestParseOfUnitsAsTold(t *testing.T) {
	bodies := words(5, "\x00\x00", "\xff\xfe", "\xfe\xff", "a\x00", "\x00\xd8", "\x00")
	for _, version := range there() {
		for _, id := range []string{known(version)[0], known(version)[4]} {
			for _, e := range []string{"\x01", "\x02"} {
				for _, b := range bodies {
					asTold(t, version, id, e+b, api.Options{})
					asTold(t, version, id, e+"x\x00\x00\x00"+b, api.Options{})
				}
			}
		}
	}
}
