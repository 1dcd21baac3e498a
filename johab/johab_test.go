package johab_test

import (
	"cmp"
	"fmt"
	"math"
	"slices"
	"strings"
	"testing"

	"diacritic/johab"
	"diacritic/run"
)

// absent is a part that isn't there, wrong a code that isn't there.
const (
	absent = -1
	wrong  = -2
)

// span is codes from one to another one, and the number that the first of them tells.
type span struct{ from, to, number int }

// The document's table of codes.
func initialSpans() []span { return []span{{1, 1, absent}, {2, 20, 0}} }
func medialSpans() []span {
	return []span{{2, 2, absent}, {3, 7, 0}, {10, 15, 5}, {18, 23, 11}, {26, 29, 17}}
}
func finalSpans() []span { return []span{{1, 1, absent}, {2, 17, 1}, {19, 29, 17}} }

// consonants are the parts of the signs from 3131 on, as the document has them.
const consonants = "i0 i1 f3 i2 f5 f6 i3 i4 i5 f9 f10 f11 f12 f13 f14 f15 i6 i7 i8 f18 i9 i10 i11 i12 i13 i14 i15 i16 i17 i18"

// told is what a code tells.
func told(code int, spans []span) int {
	for _, s := range spans {
		if s.from <= code && code <= s.to {
			return s.number + code - s.from
		}
	}
	return wrong
}

// reckoned is the sign of parts (an absent final is absent, not 0); 0: they have none.
func reckoned(i, m, f int) rune {
	alone := func(name string) rune {
		at := slices.Index(strings.Fields(consonants), name)
		if at < 0 {
			return 0
		}
		return 0x3131 + rune(at)
	}
	switch {
	case i == wrong || m == wrong || f == wrong:
		return 0
	case i != absent && m != absent:
		return rune(0xAC00 + (i*21+m)*28 + max(f, 0))
	case i == absent && m != absent && f == absent:
		return 0x314F + rune(m)
	case i != absent && m == absent && f == absent:
		return alone(fmt.Sprint("i", i))
	case i == absent && m == absent && f != absent:
		return alone(fmt.Sprint("f", f))
	}
	return 0
}

// signOf is the sign of two bytes, by the document's words alone; 0: there is none.
func signOf(code int) rune {
	if code < 0x8000 {
		return 0
	}
	return reckoned(told(code/0x400%32, initialSpans()), told(code/32%32, medialSpans()), told(code%32, finalSpans()))
}

// table is all codes that have a sign, by rising codes, and the code of each sign.
func table(t *testing.T) ([]run.Pair, map[rune]int) {
	t.Helper()
	var pairs []run.Pair
	codes := map[rune]int{}
	for code := range 0x10000 {
		p := signOf(code)
		if p == 0 {
			continue
		}
		if other, had := codes[p]; had {
			t.Fatalf("%x and %x have one sign, %x", other, code, p)
		}
		pairs = append(pairs, run.Pair{Code: code, Point: p})
		codes[p] = code
	}
	if len(pairs) != 11223 {
		t.Fatalf("%d codes", len(pairs))
	}
	return pairs, codes
}

// signs fails a test, if two bytes haven't a sign (0: none).
func signs(t *testing.T, code int, want rune) {
	t.Helper()
	if p, ok := johab.Sign(byte(code>>8), byte(code)); p != want || ok != (want != 0) {
		t.Errorf("Sign(%04x): %x, %v; should be %x", code, p, ok, want)
	}
}

// has fails a test, if a sign hasn't two bytes (empty: none).
func has(t *testing.T, p rune, want string) {
	t.Helper()
	if b, ok := johab.Bytes(p); b != want || ok != (want != "") {
		t.Errorf("Bytes(%x): %x, %v; should be %x", p, b, ok, want)
	}
}

// both fails a test, if two bytes and a sign aren't each other's.
func both(t *testing.T, code int, p rune) {
	t.Helper()
	signs(t, code, p)
	has(t, p, string([]byte{byte(code >> 8), byte(code)}))
}

func TestExamples(t *testing.T) {
	both(t, 0x8861, 0xAC00)
	both(t, 0x9061, 0xB098)
	both(t, 0xD3BD, 0xD7A3)
	both(t, 0x8841, 0x3131)
	both(t, 0x8444, 0x3133)
	both(t, 0x8461, 0x314F)
}

func TestSyllablesOfAllParts(t *testing.T) {
	n := rune(0xAC00)
	for i := range 19 {
		for m := range 21 {
			for f := range 28 {
				if p, ok := johab.Syllable(i, m, f); p != n || !ok {
					t.Fatalf("Syllable(%d, %d, %d): %x, %v; should be %x", i, m, f, p, ok, n)
				}
				n++
			}
		}
	}
	if n != 0xD7A4 {
		t.Fatalf("%x", n)
	}
}

func TestSyllablesOfPartsAtEdges(t *testing.T) {
	far := []int{math.MinInt, math.MinInt32, -28, -2, -1, 256, 1 << 32, math.MaxInt32, math.MaxInt}
	edges := func(count int) []int { return append([]int{0, 1, count - 2, count - 1, count, count + 1}, far...) }
	there := func(n, count int) bool { return 0 <= n && n < count }
	for _, i := range edges(19) {
		for _, m := range edges(21) {
			for _, f := range edges(28) {
				want, ok := rune(0), there(i, 19) && there(m, 21) && there(f, 28)
				if ok {
					want = reckoned(i, m, f)
				}
				if p, had := johab.Syllable(i, m, f); p != want || had != ok {
					t.Errorf("Syllable(%d, %d, %d): %x, %v; should be %x, %v", i, m, f, p, had, want, ok)
				}
			}
		}
	}
}

func TestAllPairsOfBytes(t *testing.T) {
	for code := range 0x10000 {
		signs(t, code, signOf(code))
	}
}

func TestCodesOfEachPart(t *testing.T) {
	// 4 is the code of initial 2, medial 1, final 3.
	for code := range 32 {
		if i := told(code, initialSpans()); i >= 0 {
			both(t, 0x8000|code<<10|4<<5|1, rune(0xAC00+(i*21+1)*28))
			both(t, 0x8000|code<<10|4<<5|4, rune(0xAC00+(i*21+1)*28+3))
		} else if i == wrong {
			signs(t, 0x8000|code<<10|4<<5|1, 0)
			signs(t, 0x8000|code<<10|4<<5|4, 0)
			signs(t, 0x8000|code<<10|2<<5|4, 0)
		}
		if m := told(code, medialSpans()); m >= 0 {
			both(t, 0x8000|4<<10|code<<5|1, rune(0xAC00+(2*21+m)*28))
			both(t, 0x8000|4<<10|code<<5|4, rune(0xAC00+(2*21+m)*28+3))
		} else if m == wrong {
			signs(t, 0x8000|4<<10|code<<5|1, 0)
			signs(t, 0x8000|4<<10|code<<5|4, 0)
			signs(t, 0x8000|1<<10|code<<5|4, 0)
		}
		if f := told(code, finalSpans()); f != wrong {
			both(t, 0x8000|4<<10|4<<5|code, rune(0xAC00+(2*21+1)*28+max(f, 0)))
		} else {
			signs(t, 0x8000|4<<10|4<<5|code, 0)
			signs(t, 0x8000|4<<10|2<<5|code, 0)
			signs(t, 0x8000|1<<10|4<<5|code, 0)
		}
	}
}

func TestSomePartsAlone(t *testing.T) {
	for code := range 32 {
		if i := told(code, initialSpans()); i >= 0 {
			both(t, 0x8000|code<<10|2<<5|1, reckoned(i, absent, absent))
			for f := 2; f < 32; f++ { // an initial with a final
				signs(t, 0x8000|code<<10|2<<5|f, 0)
			}
		}
		if m := told(code, medialSpans()); m >= 0 {
			both(t, 0x8000|1<<10|code<<5|1, rune(0x314F+m))
			for f := 2; f < 32; f++ { // a medial with a final
				signs(t, 0x8000|1<<10|code<<5|f, 0)
			}
		}
	}
	// Finals alone: these, and no other.
	alone := map[int]rune{3: 0x3133, 5: 0x3135, 6: 0x3136, 9: 0x313A, 10: 0x313B, 11: 0x313C, 12: 0x313D, 13: 0x313E, 14: 0x313F, 15: 0x3140, 18: 0x3144}
	for f := 1; f < 28; f++ {
		code := 0x8441 + f
		if f > 16 {
			code++
		}
		signs(t, code, alone[f])
	}
	signs(t, 0x8441, 0) // no part at all
}

func TestFirstBit(t *testing.T) {
	pairs, _ := table(t)
	for _, p := range pairs {
		signs(t, p.Code-0x8000, 0)
	}
}

func TestAllSigns(t *testing.T) {
	_, codes := table(t)
	for p := rune(-0x100); p < 0x120000; p++ {
		want := ""
		if code, ok := codes[p]; ok {
			want = string([]byte{byte(code >> 8), byte(code)})
		}
		has(t, p, want)
	}
}

func TestSignsAtEdges(t *testing.T) {
	both(t, 0x8841, 0x3131)
	both(t, 0xD041, 0x314E)
	both(t, 0x8461, 0x314F)
	both(t, 0x87A1, 0x3163)
	both(t, 0x8861, 0xAC00)
	both(t, 0xD3BD, 0xD7A3)
	for _, p := range []rune{0x3130, 0x3164, 0xABFF, 0xD7A4} { // just beside them
		has(t, p, "")
	}
	for _, p := range []rune{0, 'a', 0x1100, 0xE000, 0xFFFD, 0x1AC00, 0x10FFFF} { // other signs
		has(t, p, "")
	}
	for _, p := range []rune{math.MinInt32, -0xAC00, -1, 0xD800, 0xDFFF, 0x110000, math.MaxInt32} { // no signs
		has(t, p, "")
	}
}

func TestPairs(t *testing.T) {
	want, _ := table(t)
	got := johab.Pairs()
	if !slices.Equal(got, want) {
		t.Fatalf("Pairs: %d; should be %d, others", len(got), len(want))
	}
	if !slices.IsSortedFunc(got, func(a, b run.Pair) int { return cmp.Compare(a.Code, b.Code) }) {
		t.Fatal("not by rising codes")
	}
	clear(got) // what was handed out is its owner's
	if again := johab.Pairs(); !slices.Equal(again, want) {
		t.Fatal("Pairs: others, once the first ones are changed")
	}
}

func TestNoTwoPairsHaveOneSign(t *testing.T) {
	pairs := johab.Pairs()
	seen := map[rune]int{}
	for _, p := range pairs {
		if other, had := seen[p.Point]; had {
			t.Errorf("%x and %x have one sign, %x", other, p.Code, p.Point)
		}
		seen[p.Point] = p.Code
		both(t, p.Code, p.Point)
	}
	if len(pairs) != 11223 || len(seen) != 11223 {
		t.Fatalf("%d pairs, %d signs", len(pairs), len(seen))
	}
}
