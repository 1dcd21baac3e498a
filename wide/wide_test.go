package wide_test

import (
	"strings"
	"testing"

	"diacritic/api"
	"diacritic/point"
	"diacritic/wide"
)

// orders are both orders of a unit's bytes.
func orders() []bool { return []bool{true, false} }

// laid is big units in an order; a byte that is left alone stays.
func laid(b string, big bool) string {
	if big {
		return b
	}
	l := []byte(b)
	for i := 0; i+1 < len(l); i += 2 {
		l[i], l[i+1] = l[i+1], l[i]
	}
	return string(l)
}

// undecodable is the only fault that this layer has.
func undecodable(at int) api.Fault { return api.Fault{Errno: api.ErrUndecodable, At: at} }

// told is a sign's units, big, by the document's words alone.
func told(p rune) string {
	unit := func(n rune) string { return string([]byte{byte(n >> 8), byte(n)}) }
	if p < 0x10000 {
		return unit(p)
	}
	n := p - 0x10000
	return unit(0xD800+n/1024) + unit(0xDC00+n%1024)
}

// isSign says whether a number is a sign's, by the document's words alone.
func isSign(p int) bool { return p <= 0x10FFFF && (p < 0xD800 || p > 0xDFFF) }

// read is what Decode should answer of big units.
func read(b string) (string, api.Fault) {
	t := ""
	for at := 0; at < len(b); {
		p, size := first(b[at:])
		if size == 0 {
			return "", undecodable(at)
		}
		t += string(p)
		at += size
	}
	return t, api.Fault{}
}

// first is the sign whose units stand ahead, and how many bytes these have (0: none stands there), by the document's words alone.
func first(b string) (rune, int) {
	if len(b) < 2 {
		return 0, 0
	}
	p := int(b[0])<<8 + int(b[1])
	if isSign(p) {
		return rune(p), 2
	}
	if len(b) < 4 {
		return 0, 0
	}
	// Of a row of two units there is one number at most whose units they are.
	n := 0x10000 + (p-0xD800)*1024 + int(b[2])<<8 + int(b[3]) - 0xDC00
	if n < 0x10000 || !isSign(n) || told(rune(n)) != b[:4] {
		return 0, 0
	}
	return rune(n), 4
}

// decodes fails a test, if big units don't come to a text, or a fault, in both orders and behind both marks; and if a text doesn't come to them again.
func decodes(t *testing.T, b, text string, fault api.Fault) {
	t.Helper()
	behind := fault
	if fault.Bad() {
		behind.At += 2
	}
	for _, big := range orders() {
		l := laid(b, big)
		if s, f := wide.Decode(l, big); s != text || f != fault {
			t.Fatalf("Decode(%x, %v): %q, %v; should be %q, %v", l, big, s, f, text, fault)
		}
		l = laid("\xfe\xff"+b, big)
		if s, f := wide.Marked(l); s != text || f != behind {
			t.Fatalf("Marked(%x): %q, %v; should be %q, %v", l, s, f, text, behind)
		}
	}
	if !fault.Bad() {
		encodes(t, text, b)
	}
}

// encodes fails a test, if a text doesn't come to big units, in both orders and behind a mark.
func encodes(t *testing.T, text, b string) {
	t.Helper()
	for _, big := range orders() {
		if l, f := wide.Encode(text, big); l != laid(b, big) || f.Bad() {
			t.Fatalf("Encode(%q, %v): %x, %v; should be %x", text, big, l, f, laid(b, big))
		}
	}
	if l, f := wide.WithMark(text); l != "\xff\xfe"+laid(b, false) || f.Bad() {
		t.Fatalf("WithMark(%q): %x, %v; should be %x", text, l, f, "\xff\xfe"+laid(b, false))
	}
}

func TestTextsOfSigns(t *testing.T) {
	tests := map[string]string{
		"":                                 "",
		"a":                                "\x00\x61",
		"\x00":                             "\x00\x00",
		"\u00e9\u0416":                     "\x00\xe9\x04\x16",
		"\u0080\u07ff\u0800":               "\x00\x80\x07\xff\x08\x00",
		"\ud7ff":                           "\xd7\xff",
		"\ue000":                           "\xe0\x00",
		"\ufffd":                           "\xff\xfd",
		"\uffff":                           "\xff\xff",
		"\U00010000":                       "\xd8\x00\xdc\x00",
		"\U000103ff":                       "\xd8\x00\xdf\xff",
		"\U00010400":                       "\xd8\x01\xdc\x00",
		"\U0001f600":                       "\xd8\x3d\xde\x00",
		"\U0010ffff":                       "\xdb\xff\xdf\xff",
		"\ud7ff\ue000\uffff\U00010000":     "\xd7\xff\xe0\x00\xff\xff\xd8\x00\xdc\x00",
		"\U0010ffff\U00010000a\U0010ffffb": "\xdb\xff\xdf\xff\xd8\x00\xdc\x00\x00\x61\xdb\xff\xdf\xff\x00\x62",
		// What looks like a mark is a sign, where none is looked for, or behind one.
		"\ufeff":        "\xfe\xff",
		"\ufffe":        "\xff\xfe",
		"\ufeff\ufeff":  "\xfe\xff\xfe\xff",
		"a\ufeff\ufffe": "\x00\x61\xfe\xff\xff\xfe",
	}
	for text, b := range tests {
		decodes(t, b, text, api.Fault{})
	}
}

func TestAllSigns(t *testing.T) {
	for p := rune(0); p <= 0x10FFFF; p++ {
		if isSign(int(p)) {
			decodes(t, told(p), string(p), api.Fault{})
		}
	}
}

func TestAllUnitsAlone(t *testing.T) {
	for n := range 0x10000 {
		b := string([]byte{byte(n >> 8), byte(n)})
		if isSign(n) {
			decodes(t, b, string(rune(n)), api.Fault{})
		} else {
			decodes(t, b, "", undecodable(0))
			decodes(t, "\x00a"+b+"\x00a", "", undecodable(2))
		}
	}
}

func TestWhereNoSignStands(t *testing.T) {
	tests := map[string]int{
		// A first unit without its second one.
		"\xd8\x00":                         0,
		"\xdb\xff":                         0,
		"\xd8\x00\x00\x41":                 0,
		"\xd8\x00\xd8\x00\xdc\x00":         0,
		"\xdb\xff\xdb\xff":                 0,
		"\xd8\x00\xe0\x00":                 0,
		"\xd8\x00\xdb\xff":                 0,
		"\x00\x61\xd8\x00":                 2,
		"\xd8\x3d\xde\x00\xd8\x3d":         4,
		"\xd8\x3d\xde\x00\xd8\x3d\x00\x61": 4,
		// A second unit without its first one.
		"\xdc\x00":                         0,
		"\xdf\xff":                         0,
		"\xdc\x00\x00\x41":                 0,
		"\x00\x61\xdf\xff":                 2,
		"\xd8\x3d\xde\x00\xde\x00":         4,
		"\xd8\x3d\xde\x00\xde\x00\x00\x61": 4,
		// The wrong way round.
		"\xdc\x00\xd8\x00":                 0,
		"\xdf\xff\xdb\xff":                 0,
		"\x00\x61\xdc\x00\xd8\x00":         2,
		"\x00\x61\xdc\x00\xd8\x00\xdc\x00": 2,
		// A byte that is left alone.
		"\x00":                         0,
		"\xd8":                         0,
		"\xdc":                         0,
		"\xfe":                         0,
		"\xff":                         0,
		"\x00\x41\x00":                 2,
		"\x00\x41\xd8":                 2,
		"\xd8\x3d\xde\x00\x00":         4,
		"\x00\x61\x00\x62\x00\x63\x00": 6,
		"\xff\xff\xff":                 2,
		// A second unit of which half is there: the sign is missing where its first unit stands.
		"\xd8\x00\xdc":         0,
		"\xd8\x00\x00":         0,
		"\x00\x61\xd8\x00\xdc": 2,
		"\xdc\x00\xdc":         0,
		// The first of several.
		"\xd8\x00\x00\x41\xdc\x00\x00": 0,
		"\x00\x41\xdc\x00\xd8\x00\x00": 2,
	}
	for b, at := range tests {
		decodes(t, b, "", undecodable(at))
	}
}

// TestAllRowsOfEdgeUnits asks for all rows of up to four units, each at the edge of what a unit may be, and of a byte more.
func TestAllRowsOfEdgeUnits(t *testing.T) {
	edges := "\x00\x00\x00\x41\xd7\xff\xd8\x00\xd8\x01\xdb\xff\xdc\x00\xdd\xff\xdf\xff\xe0\x00\xfe\xff\xff\xfe\xff\xff"
	rows := []string{""}
	for range 5 {
		var longer []string
		for _, b := range rows {
			for _, more := range []string{"", "\x00", "\xd8", "\xdc", "\xff"} {
				text, fault := read(b + more)
				decodes(t, b+more, text, fault)
			}
			for i := 0; i < len(edges) && len(b) < 8; i += 2 {
				longer = append(longer, b+edges[i:i+2])
			}
		}
		rows = longer
	}
}

func TestOrdersAreTwo(t *testing.T) {
	if s, f := wide.Decode("a\x00", true); s != "\u6100" || f.Bad() {
		t.Errorf("little units as big ones: %q, %v", s, f)
	}
	if s, f := wide.Decode("\x00a", false); s != "\u6100" || f.Bad() {
		t.Errorf("big units as little ones: %q, %v", s, f)
	}
	if s, f := wide.Decode("\x00\xd8\x00\xdc", true); s != "\u00d8\u00dc" || f.Bad() {
		t.Errorf("little units of a pair as big ones: %q, %v", s, f)
	}
	if s, f := wide.Decode("\x41\xd8\x00\xdc", false); s != "\U00020400" || f.Bad() {
		t.Errorf("little units of a pair: %q, %v", s, f)
	}
	if s, f := wide.Decode("\x00\xdc\x41\xd8", false); s != "" || f != undecodable(0) {
		t.Errorf("little units of a pair, the wrong way round: %q, %v", s, f)
	}
}

func TestTextsThatAreNotMadeOfSigns(t *testing.T) {
	tests := map[string]int{
		"\xff":                     0,
		"a\xc3a":                   1,
		"a\xc3":                    1,
		"\u00e9\xe2\x82":           2,
		"\U0001f600\x80":           4,
		"\xed\xa0\x80":             0,
		"\xed\xa0\xbd\xed\xb8\x80": 0,
		"ab\xed\xbf\xbf":           2,
		"\xc0\x80":                 0,
		"\xe0\x80\x80":             0,
		"\xf4\x90\x80\x80":         0,
		"\ufffd\xef\xbf":           3,
		"\xff\xfea\x00":            0,
		"\xfe\xff":                 0,
	}
	for text, at := range tests {
		if _, f := point.Points(text); f != undecodable(at) {
			t.Fatalf("Points(%q): %v", text, f)
		}
		for _, big := range orders() {
			if b, f := wide.Encode(text, big); b != "" || f != undecodable(at) {
				t.Errorf("Encode(%q, %v): %x, %v; should be a fault at %d", text, big, b, f, at)
			}
		}
		if b, f := wide.WithMark(text); b != "" || f != undecodable(at) {
			t.Errorf("WithMark(%q): %x, %v; should be a fault at %d", text, b, f, at)
		}
	}
}

func TestMark(t *testing.T) {
	tests := []struct {
		b           string
		big, marked bool
	}{
		{"\xfe\xff", true, true},
		{"\xff\xfe", false, true},
		{"\xfe\xff\x00", true, true},
		{"\xff\xfe\x00", false, true},
		{"\xfe\xff\x00a", true, true},
		{"\xff\xfea\x00", false, true},
		{"\xfe\xff\xff\xfe", true, true},
		{"\xff\xfe\xfe\xff", false, true},
		{"", false, false},
		{"\xfe", false, false},
		{"\xff", false, false},
		{"\xfe\xfe", false, false},
		{"\xff\xff", false, false},
		{"\xfe\x00\xff", false, false},
		{"\x00\xfe\xff", false, false},
		{"\x00\x00\xfe\xff", false, false},
		{"a\x00\xff\xfe", false, false},
		{"\xef\xbb\xbfa", false, false},
		{"\ufeff", false, false},
	}
	for _, x := range tests {
		if big, marked := wide.Mark(x.b); big != x.big || marked != x.marked {
			t.Errorf("Mark(%x): %v, %v", x.b, big, marked)
		}
	}
}

func TestMarksOfAllPairsOfBytes(t *testing.T) {
	for n := range 0x10000 {
		b := string([]byte{byte(n >> 8), byte(n)})
		if big, marked := wide.Mark(b); big != (n == 0xFEFF) || marked != (n == 0xFEFF || n == 0xFFFE) {
			t.Errorf("Mark(%x): %v, %v", b, big, marked)
		}
		want := undecodable(0)
		if n == 0xFEFF || n == 0xFFFE {
			want = api.Fault{}
		}
		if s, f := wide.Marked(b); s != "" || f != want {
			t.Errorf("Marked(%x): %q, %v", b, s, f)
		}
	}
}

func TestMarked(t *testing.T) {
	tests := []struct {
		b, text string
		fault   api.Fault
	}{
		{"", "", api.Fault{}},
		{"\xfe\xff", "", api.Fault{}},
		{"\xff\xfe", "", api.Fault{}},
		{"\xff\xfea\x00", "a", api.Fault{}},
		{"\xfe\xff\x00a", "a", api.Fault{}},
		{"\xff\xfe\x00a", "\u6100", api.Fault{}},
		{"\xff\xfe\x00\x00", "\x00", api.Fault{}},
		{"\xfe\xff\xd8\x3d\xde\x00", "\U0001f600", api.Fault{}},
		{"\xff\xfe\x3d\xd8\x00\xde", "\U0001f600", api.Fault{}},
		// The second of two marks is a sign in the first one's order.
		{"\xfe\xff\xfe\xff", "\ufeff", api.Fault{}},
		{"\xff\xfe\xff\xfe", "\ufeff", api.Fault{}},
		{"\xfe\xff\xff\xfe\x00a", "\ufffea", api.Fault{}},
		{"\xff\xfe\xfe\xffa\x00", "\ufffea", api.Fault{}},
		// Half a unit behind a mark.
		{"\xfe\xff\x00", "", undecodable(2)},
		{"\xff\xfe\x00", "", undecodable(2)},
		{"\xfe\xff\xfe", "", undecodable(2)},
		{"\xff\xfea\x00b", "", undecodable(4)},
		{"\xfe\xff\x00a\xd8\x00", "", undecodable(4)},
		{"\xff\xfe\x00\xd8\x00", "", undecodable(2)},
		{"\xfe\xff\xdc\x00\xd8\x00", "", undecodable(2)},
		// No mark, or but half a one.
		{"\xfe", "", undecodable(0)},
		{"\xff", "", undecodable(0)},
		{"a", "", undecodable(0)},
		{"a\x00", "", undecodable(0)},
		{"\x00a", "", undecodable(0)},
		{"\x00\x00", "", undecodable(0)},
		{"a\x00\xff\xfe", "", undecodable(0)},
		{"\x00\xfe\xff", "", undecodable(0)},
		{"\x00a\xd8\x00", "", undecodable(0)},
	}
	for _, x := range tests {
		if s, f := wide.Marked(x.b); s != x.text || f != x.fault {
			t.Errorf("Marked(%x): %q, %v; should be %q, %v", x.b, s, f, x.text, x.fault)
		}
	}
}

func TestWithMark(t *testing.T) {
	tests := map[string]string{
		"":           "\xff\xfe",
		"a":          "\xff\xfea\x00",
		"\x00":       "\xff\xfe\x00\x00",
		"\U0001f600": "\xff\xfe\x3d\xd8\x00\xde",
		"\ufeffa":    "\xff\xfe\xff\xfea\x00",
		"\ufffe":     "\xff\xfe\xfe\xff",
	}
	for text, b := range tests {
		if s, f := wide.WithMark(text); s != b || f.Bad() {
			t.Errorf("WithMark(%q): %x, %v; should be %x", text, s, f, b)
		}
		if s, f := wide.Marked(b); s != text || f.Bad() {
			t.Errorf("Marked(%x): %q, %v; should be %q", b, s, f, text)
		}
	}
}

func TestLongTexts(t *testing.T) {
	n := 1 << 16
	decodes(t, strings.Repeat("\x00a\xd8\x3d\xde\x00", n), strings.Repeat("a\U0001f600", n), api.Fault{})
	decodes(t, strings.Repeat("\x00a\xd8\x3d\xde\x00", n)+"\xde\x00", "", undecodable(6*n))
}
