package wansung_test

import (
	"cmp"
	"math"
	"slices"
	"testing"

	"diacritic/run"
	"diacritic/wansung"
)

// signs fails a test, if two bytes haven't a sign (0: none).
func signs(t *testing.T, code int, want rune) {
	t.Helper()
	if p, ok := wansung.Sign(byte(code>>8), byte(code)); p != want || ok != (want != 0) {
		t.Errorf("Sign(%04x): %x, %v; should be %x", code, p, ok, want)
	}
}

// has fails a test, if a sign hasn't two bytes (empty: none).
func has(t *testing.T, p rune, want string) {
	t.Helper()
	if b, ok := wansung.Bytes(p); b != want || ok != (want != "") {
		t.Errorf("Bytes(%x): %x, %v; should be %x", p, b, ok, want)
	}
}

// both fails a test, if two bytes and a sign aren't each other's.
func both(t *testing.T, code int, p rune) {
	t.Helper()
	signs(t, code, p)
	has(t, p, string([]byte{byte(code >> 8), byte(code)}))
}

// places fails a test, if a number in the rows hasn't a syllable (0: none).
func places(t *testing.T, k int, want rune) {
	t.Helper()
	if p, ok := wansung.Place(k); p != want || ok != (want != 0) {
		t.Errorf("Place(%d): %x, %v; should be %x", k, p, ok, want)
	}
}

// extras fails a test, if a number among the others hasn't a syllable (0: none).
func extras(t *testing.T, k int, want rune) {
	t.Helper()
	if p, ok := wansung.Extra(k); p != want || ok != (want != 0) {
		t.Errorf("Extra(%d): %x, %v; should be %x", k, p, ok, want)
	}
}

// ranks fails a test, if a sign hasn't such a rank.
func ranks(t *testing.T, p rune, k int, in, ok bool) {
	t.Helper()
	if k2, in2, ok2 := wansung.Rank(p); k2 != k || in2 != in || ok2 != ok {
		t.Errorf("Rank(%x): %d, %v, %v; should be %d, %v, %v", p, k2, in2, ok2, k, in, ok)
	}
}

// noSyllables are numbers just beside the syllables, other signs, and numbers that are no signs'.
func noSyllables() []rune {
	return []rune{
		0xABFF, 0xD7A4, 0xABFE, 0xD7A5,
		0, 'a', 0x7F, 0x80, 0x8141, 0x3000, 0x3131, 0x314F, 0xE000, 0xFFFD, 0x1AC00, 0x10FFFF,
		math.MinInt32, -0xAC00, -1, 0xD800, 0xDFFF, 0x110000, math.MaxInt32,
	}
}

func TestExamples(t *testing.T) {
	both(t, 0xB0A1, 0xAC00)
	both(t, 0xB0A2, 0xAC01)
	both(t, 0x8141, 0xAC02)
	both(t, 0xC8FE, 0xD79D)
	both(t, 0xC652, 0xD7A3)
}

func TestPlaceOfAll(t *testing.T) {
	for k, p := range document(t).rows {
		places(t, k, p)
		ranks(t, p, k, true, true)
	}
	places(t, 0, 0xAC00)
	places(t, 2349, 0xD79D)
}

func TestExtraOfAll(t *testing.T) {
	for k, p := range document(t).extras {
		extras(t, k, p)
		ranks(t, p, k, false, true)
	}
	extras(t, 0, 0xAC02)
	extras(t, 8821, 0xD7A3)
}

func TestNumbersThatAreNot(t *testing.T) {
	beyond := []int{math.MinInt, math.MinInt + 1, math.MinInt32, -8822, -2350, -2, -1, 1 << 16, math.MaxInt32, 1 << 32, math.MaxInt - 1, math.MaxInt}
	for _, k := range append(beyond, 2350, 2351, 8821, 11172) {
		places(t, k, 0)
	}
	for _, k := range append(beyond, 8822, 8823, 11172) {
		extras(t, k, 0)
	}
}

func TestEachRankLeadsBack(t *testing.T) {
	rows := 0
	for p := rune(0xAC00); p <= 0xD7A3; p++ {
		k, in, ok := wansung.Rank(p)
		if !ok {
			t.Fatalf("Rank(%x): no syllable", p)
		}
		if in {
			rows++
			places(t, k, p)
		} else {
			extras(t, k, p)
		}
	}
	if rows != 2350 {
		t.Fatalf("%d in the rows", rows)
	}
}

func TestRankOfWhatIsNoSyllable(t *testing.T) {
	for _, p := range noSyllables() {
		ranks(t, p, 0, false, false)
	}
	for _, p := range others(t) {
		ranks(t, p, 0, false, false)
	}
}

func TestAllPairsOfBytes(t *testing.T) {
	d := document(t)
	for code := range 0x10000 {
		signs(t, code, d.signs[code])
	}
}

func TestFirstBytesAtEdges(t *testing.T) {
	for second := range 0x100 {
		for _, lead := range []int{0x00, 0x41, 0x7F, 0x80, 0xFF} { // no row, and nothing beside one
			signs(t, lead<<8|second, 0)
		}
	}
	for second := 0xA1; second < 0x100; second++ {
		for _, lead := range []int{0xA7, 0xA9, 0xAD, 0xAF, 0xC9, 0xFE} { // rows of none
			signs(t, lead<<8|second, 0)
		}
	}
	both(t, 0x8141, 0xAC02)
	both(t, 0xA1A1, 0x3000)
	both(t, 0xB0A1, 0xAC00)
	both(t, 0xC8FE, 0xD79D)
	d := document(t)
	both(t, 0x81FE, d.extras[177])
	both(t, 0x8241, d.extras[178])
	both(t, 0xA041, d.extras[31*178])
	both(t, 0xA0FE, d.extras[5695])
	both(t, 0xA141, d.extras[5696])
	both(t, 0xAF41, d.extras[5696+14*84])
	both(t, 0xAFA0, d.extras[5696+15*84-1])
	both(t, 0xB041, d.extras[5696+15*84])
	both(t, 0xB0FE, d.rows[93])
	both(t, 0xB1A1, d.rows[94])
	both(t, 0xC8A1, d.rows[24*94])
}

func TestSecondBytesAtEdges(t *testing.T) {
	d := document(t)
	numbers := map[int]int{0x41: 0, 0x5A: 25, 0x61: 26, 0x7A: 51, 0x81: 52, 0xA0: 83, 0xA1: 84, 0xFE: 177}
	for second, n := range numbers {
		for lead := 0x81; lead <= 0xA0; lead++ {
			both(t, lead<<8|second, d.extras[(lead-0x81)*178+n])
		}
		for lead := 0xA1; lead <= 0xC5 && n < 84; lead++ {
			both(t, lead<<8|second, d.extras[5696+(lead-0xA1)*84+n])
		}
	}
	for _, second := range []int{0x00, 0x40, 0x5B, 0x60, 0x7B, 0x80, 0xFF} {
		for lead := range 0x100 {
			signs(t, lead<<8|second, 0)
		}
	}
}

func TestLastPairOfOtherSyllables(t *testing.T) {
	both(t, 0xC652, 0xD7A3)
	for code := 0xC653; code <= 0xC6A0; code++ {
		signs(t, code, 0)
	}
	for lead := 0xC7; lead <= 0xFF; lead++ {
		for second := range 0xA1 {
			signs(t, lead<<8|second, 0)
		}
	}
}

func TestOtherSignsAtEdges(t *testing.T) {
	edges := []run.Pair{
		{Code: 0xA1A1, Point: 0x3000}, {Code: 0xA1FE, Point: 0xFFE2},
		{Code: 0xA2A1, Point: 0x21D2}, {Code: 0xA2E7, Point: 0x00AE},
		{Code: 0xA3A1, Point: 0xFF01}, {Code: 0xA3DB, Point: 0xFF3B}, {Code: 0xA3DC, Point: 0xFFE6}, {Code: 0xA3DD, Point: 0xFF3D}, {Code: 0xA3FD, Point: 0xFF5D}, {Code: 0xA3FE, Point: 0xFFE3},
		{Code: 0xA4A1, Point: 0x3131}, {Code: 0xA4FE, Point: 0x318E},
		{Code: 0xA5A1, Point: 0x2170}, {Code: 0xA5AA, Point: 0x2179}, {Code: 0xA5B0, Point: 0x2160}, {Code: 0xA5B9, Point: 0x2169},
		{Code: 0xA5C1, Point: 0x0391}, {Code: 0xA5D1, Point: 0x03A1}, {Code: 0xA5D2, Point: 0x03A3}, {Code: 0xA5D8, Point: 0x03A9},
		{Code: 0xA5E1, Point: 0x03B1}, {Code: 0xA5F1, Point: 0x03C1}, {Code: 0xA5F2, Point: 0x03C3}, {Code: 0xA5F8, Point: 0x03C9},
		{Code: 0xA6A1, Point: 0x2500}, {Code: 0xA6E4, Point: 0x254A},
		{Code: 0xAAA1, Point: 0x3041}, {Code: 0xAAF3, Point: 0x3093},
		{Code: 0xABA1, Point: 0x30A1}, {Code: 0xABF6, Point: 0x30F6},
		{Code: 0xACA1, Point: 0x0410}, {Code: 0xACA6, Point: 0x0415}, {Code: 0xACA7, Point: 0x0401}, {Code: 0xACA8, Point: 0x0416}, {Code: 0xACC1, Point: 0x042F},
		{Code: 0xACD1, Point: 0x0430}, {Code: 0xACD6, Point: 0x0435}, {Code: 0xACD7, Point: 0x0451}, {Code: 0xACD8, Point: 0x0436}, {Code: 0xACF1, Point: 0x044F},
	}
	for _, e := range edges {
		both(t, e.Code, e.Point)
	}
	for _, code := range []int{0xA2E8, 0xA2FE, 0xA5AB, 0xA5AF, 0xA5BA, 0xA5C0, 0xA5D9, 0xA5E0, 0xA5F9, 0xA6E5, 0xA7A1, 0xA9FE, 0xAAF4, 0xABF7, 0xACC2, 0xACD0, 0xACF2, 0xADA1} {
		signs(t, code, 0)
	}
	for _, p := range []rune{0xFF00, 0xFFE4, 0xFFE7, 0x3130, 0x318F, 0x215F, 0x216A, 0x216F, 0x217A, 0x0390, 0x03A2, 0x03AA, 0x03B0, 0x03C2, 0x03CA, 0x3040, 0x3094, 0x30A0, 0x30F7, 0x0400, 0x0402, 0x040F, 0x0450, 0x0452} {
		has(t, p, "")
	}
	both(t, 0xA1AC, 0xFF3C) // the sign that A3 leaves out
	both(t, 0xA2A6, 0xFF5E) // the sign behind those of A3
}

func TestAllSigns(t *testing.T) {
	d := document(t)
	for p := rune(-0x100); p < 0x120000; p++ {
		has(t, p, d.bytes(p))
	}
	for _, p := range noSyllables() {
		has(t, p, d.bytes(p))
	}
}

func TestRows(t *testing.T) {
	want := document(t).pairs()
	got := wansung.Rows()
	if !slices.Equal(got, want) {
		t.Fatalf("Rows: %d; should be %d, others", len(got), len(want))
	}
	if !slices.IsSortedFunc(got, func(a, b run.Pair) int { return cmp.Compare(a.Code, b.Code) }) {
		t.Fatal("not by rising codes")
	}
	for _, p := range got {
		both(t, p.Code, p.Point)
		ranks(t, p.Point, 0, false, false)
	}
	clear(got) // what was handed out is its owner's
	if again := wansung.Rows(); !slices.Equal(again, want) {
		t.Fatal("Rows: others, once the first ones are changed")
	}
}

func TestNoTwoPairsHaveOneSign(t *testing.T) {
	seen := map[rune]int{}
	for code := range 0x10000 {
		p, ok := wansung.Sign(byte(code>>8), byte(code))
		if !ok {
			continue
		}
		if other, had := seen[p]; had {
			t.Errorf("%x and %x have one sign, %x", other, code, p)
		}
		seen[p] = code
		both(t, code, p)
	}
	if len(seen) != 11172+724 {
		t.Fatalf("%d signs", len(seen))
	}
}

func TestEachSyllableHasTwoBytes(t *testing.T) {
	for p := rune(0xAC00); p <= 0xD7A3; p++ {
		b, ok := wansung.Bytes(p)
		if !ok || len(b) != 2 {
			t.Fatalf("Bytes(%x): %x, %v", p, b, ok)
		}
		if q, ok := wansung.Sign(b[0], b[1]); q != p || !ok {
			t.Fatalf("Sign(%x): %x, %v; should be %x", b, q, ok, p)
		}
	}
}
