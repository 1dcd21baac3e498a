package big5_test

import (
	"cmp"
	"math"
	"slices"
	"testing"

	"diacritic/big5"
	"diacritic/run"
)

// signs fails a test, if two bytes haven't such signs (empty: none).
func signs(t *testing.T, code int, want string) {
	t.Helper()
	if s, ok := big5.Signs(byte(code>>8), byte(code)); s != want || ok != (want != "") {
		t.Errorf("Signs(%04x): %q, %v; should be %q", code, s, ok, want)
	}
}

// has fails a test, if signs don't begin with such ones that have these two bytes (empty: none have).
func has(t *testing.T, want string, count int, l ...rune) {
	t.Helper()
	if b, n := big5.Bytes(l...); b != want || n != count {
		t.Errorf("Bytes(%x): %x, %d; should be %x, %d", l, b, n, want, count)
	}
}

// both fails a test, if two bytes and some signs aren't each other's, whole.
func both(t *testing.T, code int, l ...rune) {
	t.Helper()
	signs(t, code, string(l))
	has(t, twoBytes(code), len(l), l...)
}

// edges are numbers that are no sign's, at the ends of their type and of the signs, and signs that have no bytes.
func edges() []rune {
	return []rune{
		math.MinInt32, -0x4E00, -2, -1, 0xD800, 0xDBFF, 0xDC00, 0xDFFF, 0x110000, math.MaxInt32,
		0, 'A', 0x7F, 0x80, 0xA4, 0xC7, 0xD7FF, 0xE000, 0xFFFD, 0xFFFF, 0x10000, 0x14E00, 0x1F600, 0x10FFFF,
	}
}

func TestExamples(t *testing.T) {
	both(t, 0xA440, 0x4E00)
	both(t, 0x8866, 0x00CA)
	both(t, 0x8862, 0x00CA, 0x0304)
	has(t, "\x88\x66", 1, 0x00CA, 0x0041)
}

func TestAllPairsOfBytes(t *testing.T) {
	d := document(t)
	for code := range 0x10000 {
		signs(t, code, d.texts[code])
	}
}

func TestFirstBytesAtEdges(t *testing.T) {
	for second := range 0x100 {
		for _, lead := range []int{0x00, 0x40, 0x7F, 0x80, 0x87, 0x89, 0xA0, 0xA2, 0xA6, 0xFE, 0xFF} {
			signs(t, lead<<8|second, "")
		}
	}
	both(t, 0x8856, 0x0100)
	both(t, 0x88A8, 0x0261)
	both(t, 0xA140, 0x3000)
	both(t, 0xA1FE, 0xFF0F)
	both(t, 0xA340, 0xFF57)
	both(t, 0xA3BF, 0x02CB)
	both(t, 0xA440, 0x4E00)
	both(t, 0xA4FE, 0x4E19)
	both(t, 0xA540, 0x4E16)
	both(t, 0xA5FE, 0x5168)
}

func TestSecondBytesAtEdges(t *testing.T) {
	for lead := range 0x100 {
		for _, second := range []int{0x00, 0x3F, 0x7F, 0x80, 0xA0, 0xFF} {
			signs(t, lead<<8|second, "")
		}
	}
	both(t, 0xA47E, 0x624D) // the cells of 7E and A1 are neighbours
	both(t, 0xA4A1, 0x4E11)
	both(t, 0xA17E, 0xFE5A)
	both(t, 0xA1A1, 0xFE5B)
	both(t, 0xA37E, 0x310F)
	both(t, 0xA3A1, 0x3110)
	both(t, 0xA57E, 0x5916)
	both(t, 0xA5A1, 0x592E)
	both(t, 0x887E, 0x01DA)
	both(t, 0x88A1, 0x01DC)
	signs(t, 0x8840, "")
	signs(t, 0x88FE, "")
	signs(t, 0xA3FE, "")
}

func TestRunsOfTheFirstRow(t *testing.T) {
	ends := []run.Pair{
		{Code: 0x8856, Point: 0x0100}, {Code: 0x8861, Point: 0x00D2},
		{Code: 0x8863, Point: 0x1EBE},
		{Code: 0x8865, Point: 0x1EC0}, {Code: 0x8874, Point: 0x014D},
		{Code: 0x8875, Point: 0x00F3}, {Code: 0x887E, Point: 0x01DA},
		{Code: 0x88A1, Point: 0x01DC}, {Code: 0x88A2, Point: 0x00FC},
		{Code: 0x88A4, Point: 0x1EBF},
		{Code: 0x88A6, Point: 0x1EC1}, {Code: 0x88A7, Point: 0x00EA}, {Code: 0x88A8, Point: 0x0261},
	}
	for _, e := range ends {
		both(t, e.Code, e.Point)
	}
	for _, code := range []int{0x8840, 0x8855, 0x887F, 0x88A0, 0x88A9, 0x88FE} { // just beside them
		signs(t, code, "")
	}
}

func TestEndOfTheShortRow(t *testing.T) {
	both(t, 0xA3BF, 0x02CB)
	for second := 0xC0; second <= 0xFF; second++ {
		signs(t, 0xA300|second, "")
	}
}

func TestTwoSignsAtOnce(t *testing.T) {
	both(t, 0x8862, 0x00CA, 0x0304)
	both(t, 0x8864, 0x00CA, 0x030C)
	both(t, 0x88A3, 0x00EA, 0x0304)
	both(t, 0x88A5, 0x00EA, 0x030C)
	both(t, 0x8866, 0x00CA) // their first signs stand alone, too
	both(t, 0x88A7, 0x00EA)
	has(t, "", 0, 0x0304) // their second ones don't
	has(t, "", 0, 0x030C)
	has(t, "", 0, 0x0304, 0x00CA)
	has(t, "", 0, 0x030C, 0x00EA, 0x030C)
}

func TestTwoSignsStandAhead(t *testing.T) {
	for code, text := range documentDoubles() {
		two := []rune(text)
		has(t, twoBytes(code), 2, two...)
		for _, p := range append(edges(), two[0], two[1], 0x4E00) { // what follows tells nothing
			has(t, twoBytes(code), 2, two[0], two[1], p)
			has(t, twoBytes(code), 2, two[0], two[1], p, p, two[0], two[1])
		}
	}
}

func TestOneOfTwoSigns(t *testing.T) {
	others := append(edges(), 0x0303, 0x0305, 0x030B, 0x030D, 0x00CA, 0x00EA, 0x4E00)
	for p, b := range map[rune]string{0x00CA: "\x88\x66", 0x00EA: "\x88\xa7"} {
		has(t, b, 1, p)
		for _, q := range others { // another sign behind it, or none
			has(t, b, 1, p, q)
			has(t, b, 1, p, q, 0x0304)
			has(t, b, 1, p, q, 0x030C, 0x0304)
		}
	}
	for _, q := range []rune{0x00C9, 0x00CB, 0x00E9, 0x00EB, 0x0100, 0x4E00, 'E'} { // marks behind another sign
		b, n := document(t).bytes(q)
		has(t, b, n, q, 0x0304)
		has(t, b, n, q, 0x030C)
	}
}

func TestAllSigns(t *testing.T) {
	d := document(t)
	for p := rune(-0x100); p < 0x120000; p++ {
		b, n := d.bytes(p)
		has(t, b, n, p)
	}
	for _, p := range edges() {
		has(t, "", 0, p)
	}
}

func TestNoSigns(t *testing.T) {
	has(t, "", 0)
	has(t, "", 0, nil...)
	has(t, "", 0, []rune{}...)
	for _, p := range edges() {
		for _, q := range []rune{0x4E00, 0x00CA, 0x0304, -1} { // what stands behind a first sign without bytes
			has(t, "", 0, p, q)
			has(t, "", 0, p, q, 0x0304)
		}
	}
}

func TestMoreSigns(t *testing.T) {
	d := document(t)
	some := []rune{0x00CA, 0x00EA, 0x0304, 0x030C, 0x4E00, 0x3000, 0x5168, 0x0261, 'A', 0xFFFD, 0xD800, -1, 0x110000}
	for _, p := range some {
		for _, q := range some {
			for _, r := range some {
				for _, l := range [][]rune{{p, q}, {p, q, r}, {p, q, r, p, q}} {
					b, n := d.bytes(l...)
					has(t, b, n, l...)
				}
			}
		}
	}
}

func TestListsStayAsTheyWere(t *testing.T) {
	room := []rune{0x00CA, 0x0304, 0x4E00}
	has(t, "\x88\x66", 1, room[:1]...) // what stands in the room behind the end is no sign of the list
	has(t, "\x88\x62", 2, room...)
	if want := []rune{0x00CA, 0x0304, 0x4E00}; !slices.Equal(room, want) {
		t.Fatalf("%x; should be %x", room, want)
	}
}

func TestSignsLeadBack(t *testing.T) {
	d, seen := document(t), map[string]int{}
	for code := range 0x10000 {
		s, ok := big5.Signs(byte(code>>8), byte(code))
		if !ok {
			continue
		}
		if other, had := seen[s]; had {
			t.Errorf("%x and %x have the same signs, %q", other, code, s)
		}
		seen[s] = code
		l := []rune(s)
		has(t, twoBytes(code), len(l), l...)
		if len(l) < 1 || len(l) > 2 || (len(l) == 1) != (d.signs[code] != 0) {
			t.Errorf("Signs(%04x): %q", code, s)
		}
	}
	if len(seen) != 614 {
		t.Fatalf("%d codes", len(seen))
	}
}

func TestPairs(t *testing.T) {
	want := document(t).pairs()
	got := big5.Pairs()
	if !slices.Equal(got, want) {
		t.Fatalf("Pairs: %d; should be %d, others", len(got), len(want))
	}
	if !slices.IsSortedFunc(got, func(a, b run.Pair) int { return cmp.Compare(a.Code, b.Code) }) {
		t.Fatal("not by rising codes")
	}
	for _, p := range got {
		both(t, p.Code, p.Point)
		if _, two := documentDoubles()[p.Code]; two {
			t.Errorf("%x has two signs", p.Code)
		}
	}
	clear(got) // what was handed out is its owner's
	if again := big5.Pairs(); !slices.Equal(again, want) {
		t.Fatal("Pairs: others, once the first ones are changed")
	}
}

func TestNoTwoPairsHaveOneSign(t *testing.T) {
	seen := map[rune]int{}
	for _, p := range big5.Pairs() {
		if other, had := seen[p.Point]; had {
			t.Errorf("%x and %x have one sign, %x", other, p.Code, p.Point)
		}
		seen[p.Point] = p.Code
	}
	if len(seen) != 610 {
		t.Fatalf("%d signs", len(seen))
	}
}
