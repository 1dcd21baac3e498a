package point_test

import (
	"math"
	"slices"
	"testing"

	"diacritic/api"
	"diacritic/point"
)

// edges are numbers at which signs begin or end, or get one byte more, with the bytes of those that are signs.
func edges() map[rune]string {
	return map[rune]string{
		0:        "\x00",
		0x61:     "\x61",
		0x7F:     "\x7f",
		0x80:     "\xc2\x80",
		0xE9:     "\xc3\xa9",
		0x7FF:    "\xdf\xbf",
		0x800:    "\xe0\xa0\x80",
		0xD7FF:   "\xed\x9f\xbf",
		0xD800:   "",
		0xDBFF:   "",
		0xDC00:   "",
		0xDFFF:   "",
		0xE000:   "\xee\x80\x80",
		0xFFFD:   "\xef\xbf\xbd",
		0xFFFF:   "\xef\xbf\xbf",
		0x10000:  "\xf0\x90\x80\x80",
		0x1F600:  "\xf0\x9f\x98\x80",
		0x10FFFF: "\xf4\x8f\xbf\xbf",
		0x110000: "",
		0x200000: "",

		-1:            "",
		math.MinInt32: "",
		math.MaxInt32: "",
	}
}

// undecodable is the only fault that texts have here.
func undecodable(at int) api.Fault { return api.Fault{Errno: api.ErrUndecodable, At: at} }

// told says whether a number is a sign's, and its bytes, by the document's words alone.
func told(p int) (string, bool) {
	six := func(shift int) byte { return byte(0x80 | p>>shift&0x3F) }
	switch {
	case p < 0 || p > 0x10FFFF || p >= 0xD800 && p <= 0xDFFF:
		return "", false
	case p < 0x80:
		return string([]byte{byte(p)}), true
	case p < 0x800:
		return string([]byte{byte(0xC0 + p>>6), six(0)}), true
	case p < 0x10000:
		return string([]byte{byte(0xE0 + p>>12), six(6), six(0)}), true
	}
	return string([]byte{byte(0xF0 + p>>18), six(12), six(6), six(0)}), true
}

// lead are the bits that a first byte of so many bytes has beside those of its number.
var lead = [5]byte{0, 0x7F, 0x1F, 0x0F, 0x07}

// first is the sign that stands ahead, and how many bytes it has (0: none), by the document's words alone.
func first(s string) (rune, int) {
	for n := 1; n <= 4 && n <= len(s); n++ {
		p := int(s[0] & lead[n])
		for i := 1; i < n; i++ {
			p = p<<6 | int(s[i]&0x3F)
		}
		if b, ok := told(p); ok && b == s[:n] {
			return rune(p), n
		}
	}
	return 0, 0
}

// read is what Points should answer.
func read(s string) ([]rune, api.Fault) {
	var l []rune
	for at := 0; at < len(s); {
		p, n := first(s[at:])
		if n == 0 {
			return nil, undecodable(at)
		}
		l = append(l, p)
		at += n
	}
	return l, api.Fault{}
}

// same fails a test, if not all calls tell of a text what they should.
func same(t *testing.T, s string, want []rune, fault api.Fault) {
	t.Helper()
	if l, f := point.Points(s); f != fault || !slices.Equal(l, want) {
		t.Fatalf("Points(%q): %x, %v; should be %x, %v", s, l, f, want, fault)
	}
	if f := point.Check(s); f != fault {
		t.Fatalf("Check(%q): %v; should be %v", s, f, fault)
	}
	if point.Valid(s) == fault.Bad() {
		t.Fatalf("Valid(%q): %v", s, point.Valid(s))
	}
	if n := point.Count(s); n != len(want) {
		t.Fatalf("Count(%q): %d; should be %d", s, n, len(want))
	}
	if b, ok := point.Text(want...); !fault.Bad() && (b != s || !ok) {
		t.Fatalf("Text(%x): %q, %v; should be %q", want, b, ok, s)
	}
}

func TestEdges(t *testing.T) {
	for p, want := range edges() {
		if point.Scalar(p) != (want != "") {
			t.Errorf("Scalar(%x): %v", p, point.Scalar(p))
		}
		if s, ok := point.Text(p); s != want || ok != (want != "") {
			t.Errorf("Text(%x): %q, %v", p, s, ok)
		}
		if want != "" {
			same(t, want, []rune{p}, api.Fault{})
			same(t, "a"+want+want, []rune{'a', p, p}, api.Fault{})
		}
	}
}

func TestAllNumbers(t *testing.T) {
	for p := -3; p <= 0x110003; p++ {
		want, sign := told(p)
		if point.Scalar(rune(p)) != sign {
			t.Fatalf("Scalar(%x): %v", p, !sign)
		}
		if s, ok := point.Text(rune(p)); s != want || ok != sign {
			t.Fatalf("Text(%x): %q, %v", p, s, ok)
		}
		if l, f := point.Points(want); sign && (len(l) != 1 || l[0] != rune(p) || f.Bad()) {
			t.Fatalf("Points(%q): %x, %v", want, l, f)
		}
	}
}

func TestTextOfMany(t *testing.T) {
	if s, ok := point.Text(); s != "" || !ok {
		t.Errorf("of none: %q, %v", s, ok)
	}
	if s, ok := point.Text([]rune(nil)...); s != "" || !ok {
		t.Errorf("of nil: %q, %v", s, ok)
	}
	l := []rune{0x61, 0xE9, 0, 0xFFFD, 0x1F600}
	if s, ok := point.Text(l...); s != "a\xc3\xa9\x00\xef\xbf\xbd\xf0\x9f\x98\x80" || !ok {
		t.Errorf("of five: %q, %v", s, ok)
	}
	if !slices.Equal(l, []rune{0x61, 0xE9, 0, 0xFFFD, 0x1F600}) {
		t.Errorf("what was handed in is changed: %x", l)
	}
	for _, p := range []rune{0xD800, 0xDFFF, 0x110000, -1, math.MinInt32} {
		for _, l := range [][]rune{{p}, {p, 'a'}, {'a', p}, {'a', p, 0xE9}, {0xDC00, p}} {
			if s, ok := point.Text(l...); s != "" || ok {
				t.Errorf("of %x: %q, %v", l, s, ok)
			}
		}
	}
}

func TestWhereNoSignStands(t *testing.T) {
	tests := map[string]int{
		"\xff":                      0,
		"\xfe":                      0,
		"\x80":                      0,
		"\xbf":                      0,
		"ab\xff":                    2,
		"a\xc3a":                    1,
		"a\xc3":                     1,
		"\xc3\xa9\xe2\x82":          2,
		"\xc3\xa9\xe2":              2,
		"\xf0\x9f\x98":              0,
		"\xf0\x9f":                  0,
		"\xf0":                      0,
		"\xf0\x9f\x98a":             0,
		"\xc0\x80":                  0,
		"\xc1\xbf":                  0,
		"\xe0\x80\x80":              0,
		"\xe0\x9f\xbf":              0,
		"\xf0\x80\x80\x80":          0,
		"\xf0\x8f\xbf\xbf":          0,
		"\xed\xa0\x80":              0,
		"\xed\xbf\xbf":              0,
		"\xed\xa0\xbd\xed\xb8\x80":  0,
		"\xf4\x90\x80\x80":          0,
		"\xf5\x80\x80\x80":          0,
		"\xf8\x88\x80\x80\x80":      0,
		"\xef\xbf\xbd\x80":          3,
		"\xef\xbf\xbd\xef\xbf":      3,
		"\xc3\xa9\xa9":              2,
		"\xff\xff":                  0,
		"a\x00\xf0\x9f\x98\x80\xc2": 6,
	}
	for s, at := range tests {
		same(t, s, nil, undecodable(at))
	}
}

func TestTextsOfSigns(t *testing.T) {
	same(t, "", nil, api.Fault{})
	same(t, "a\x00\x7f", []rune{'a', 0, 0x7F}, api.Fault{})
	same(t, "\xef\xbf\xbd", []rune{0xFFFD}, api.Fault{})
	same(t, "\xef\xbb\xbfa", []rune{0xFEFF, 'a'}, api.Fault{})
	same(t, "e\xcc\x81\xc3\xa9", []rune{'e', 0x301, 0xE9}, api.Fault{})
}

// TestAllRowsOfEdgeBytes asks for all texts of up to four bytes, each at the edge of what a byte may be at its place.
func TestAllRowsOfEdgeBytes(t *testing.T) {
	edge := "\x00\x41\x7f\x80\x8f\x90\x9f\xa0\xbf\xc0\xc1\xc2\xdf\xe0\xe1\xec\xed\xee\xef\xf0\xf1\xf3\xf4\xf5\xff"
	rows := []string{""}
	for range 4 {
		var longer []string
		for _, s := range rows {
			want, fault := read(s)
			same(t, s, want, fault)
			for i := range len(edge) {
				longer = append(longer, s+edge[i:i+1])
			}
		}
		rows = longer
	}
	for _, s := range rows {
		want, fault := read(s)
		same(t, s, want, fault)
	}
}

func TestPlain(t *testing.T) {
	for s, want := range map[string]bool{"": true, "a": true, "\x00\x7f": true, "\x80": false, "a\xc3\xa9": false, "\xffa": false, "abc\x80": false} {
		if point.Plain(s) != want {
			t.Errorf("Plain(%q): %v", s, !want)
		}
	}
	for b := range 256 {
		if s := string([]byte{'a', byte(b), 'a'}); point.Plain(s) != (b < 128) {
			t.Errorf("Plain(%q): %v", s, b >= 128)
		}
	}
}

func TestPointsAreNewMemory(t *testing.T) {
	s := "abc"
	l, _ := point.Points(s)
	l[0] = 'x'
	if again, _ := point.Points(s); !slices.Equal(again, []rune("abc")) {
		t.Errorf("asked again: %x", again)
	}
}
