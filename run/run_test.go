package run_test

import (
	"math"
	"slices"
	"strings"
	"testing"
	"unicode/utf8"

	"diacritic/api"
	"diacritic/run"
)

// limit is the first number that is no code.
const limit = 1 << 20

// told is codes and their signs, by the document's words alone.
type told map[int]rune

// over is what Over should answer.
func (m told) over(other told) told {
	both := told{}
	for code, p := range other {
		both[code] = p
	}
	for code, p := range m {
		both[code] = p
	}
	return both
}

// pairs is what Pairs should answer.
func (m told) pairs() []run.Pair {
	var pairs []run.Pair
	for code, p := range m {
		pairs = append(pairs, run.Pair{Code: code, Point: p})
	}
	slices.SortFunc(pairs, func(a, b run.Pair) int { return a.Code - b.Code })
	return pairs
}

// least is what Reverse should answer.
func (m told) least(p rune) (int, bool) {
	least, found := 0, false
	for code, q := range m {
		if q == p && (!found || code < least) {
			least, found = code, true
		}
	}
	return least, found
}

// tell is what New should answer, by the document's words alone; false: a piece may not be. (Counts are small here.)
func tell(pieces ...run.Piece) (told, api.Fault) {
	m := told{}
	for at, p := range pieces {
		fault := api.Fault{Errno: api.ErrArg, At: at}
		points := []rune(p.Text)
		if p.Text == "" {
			for i := range max(p.Count, 0) {
				points = append(points, p.To+rune(i))
			}
		}
		if len(points) == 0 || !utf8.ValidString(p.Text) {
			return told{}, fault
		}
		for i, q := range points {
			code := p.From + i
			if _, had := m[code]; had || code < 0 || code >= limit || !isSign(q) {
				return told{}, fault
			}
			m[code] = q
		}
	}
	return m, api.Fault{}
}

// isSign says whether a number is a sign's.
func isSign(p rune) bool { return p >= 0 && p <= 0x10FFFF && (p < 0xD800 || p > 0xDFFF) }

// is fails a test, if a table isn't as told: all that it has, what stands beside that, and numbers at the ends of their types.
func is(t *testing.T, x run.Table, m told) {
	t.Helper()
	pairs := m.pairs()
	if got := x.Pairs(); !slices.Equal(got, pairs) {
		t.Fatalf("Pairs: %v; should be %v", got, pairs)
	}
	if x.Size() != len(m) {
		t.Fatalf("Size: %d; should be %d", x.Size(), len(m))
	}
	codes := []int{math.MinInt, -1, 0, limit - 1, limit, limit + 1, math.MaxInt}
	points := []rune{math.MinInt32, -1, 0, 0xD7FF, 0xD800, 0xDFFF, 0xE000, 0xFFFD, 0x10FFFF, 0x110000, math.MaxInt32}
	for _, p := range pairs {
		codes = append(codes, p.Code-1, p.Code, p.Code+1)
		points = append(points, p.Point-1, p.Point, p.Point+1)
	}
	for _, code := range codes {
		want, there := m[code]
		if p, ok := x.Forward(code); p != want || ok != there {
			t.Fatalf("Forward(%d): %x, %v; should be %x, %v (%v)", code, p, ok, want, there, pairs)
		}
	}
	for _, p := range points {
		want, there := m.least(p)
		if code, ok := x.Reverse(p); code != want || ok != there {
			t.Fatalf("Reverse(%x): %d, %v; should be %d, %v (%v)", p, code, ok, want, there, pairs)
		}
	}
}

// made fails a test, if pieces don't make a table as told, or the fault; it answers the table.
func made(t *testing.T, pieces ...run.Piece) (run.Table, told) {
	t.Helper()
	before := slices.Clone(pieces)
	m, want := tell(pieces...)
	x, f := run.New(pieces...)
	if f != want {
		t.Fatalf("New(%v): %v; should be %v", pieces, f, want)
	}
	if !slices.Equal(pieces, before) {
		t.Fatalf("New(%v): changed to %v", before, pieces)
	}
	is(t, x, m)
	return x, m
}

func TestPiecesAreTheirFields(t *testing.T) {
	for _, n := range []int{math.MinInt, -1, 0, 7, math.MaxInt} {
		for _, p := range []rune{math.MinInt32, -1, 0, 'x', 0xD800, math.MaxInt32} {
			for _, count := range []int{math.MinInt, -1, 0, 7, math.MaxInt} {
				if got := run.Seq(n, p, count); got != (run.Piece{From: n, To: p, Count: count}) {
					t.Errorf("Seq(%d, %x, %d): %v", n, p, count, got)
				}
			}
		}
		for _, s := range []string{"", "x", "\xff", "\u00e9\u0416"} {
			if got := run.List(n, s); got != (run.Piece{From: n, Text: s}) {
				t.Errorf("List(%d, %q): %v", n, s, got)
			}
		}
	}
}

func TestExamples(t *testing.T) {
	x, m := made(t, run.Seq(0, 65, 3), run.List(10, "xy"))
	is(t, x, told{0: 'A', 1: 'B', 2: 'C', 10: 'x', 11: 'y'})
	y, n := made(t, run.Seq(1, 65, 1))
	is(t, y.Over(x), told{0: 'A', 1: 'A', 2: 'C', 10: 'x', 11: 'y'})
	is(t, y.Over(x), n.over(m))
}

func TestNoPieces(t *testing.T) {
	x, f := run.New()
	if f.Bad() {
		t.Fatal(f)
	}
	is(t, x, told{})
	is(t, run.Table{}, told{})
}

func TestOnePiece(t *testing.T) {
	tests := []struct {
		piece run.Piece
		may   bool
	}{
		{run.Seq(0, 0, 1), true},
		{run.Seq(7, 'a', 26), true},
		{run.List(7, "a"), true},
		{run.List(7, "zzabcz\u00e9\U0001f600\U0001f601\x00"), true},
		// Without a code.
		{run.Piece{}, false},
		{run.Seq(7, 'a', 0), false},
		{run.Seq(7, 'a', -1), false},
		{run.Seq(7, 'a', math.MinInt), false},
		{run.List(7, ""), false},
		// Codes below 0.
		{run.Seq(-1, 'a', 1), false},
		{run.Seq(-1, 'a', 3), false},
		{run.Seq(math.MinInt, 'a', 1), false},
		{run.List(-1, "a"), false},
		{run.List(-1, "abc"), false},
		{run.List(math.MinInt, "a"), false},
		// Codes at the last one, and above it.
		{run.Seq(limit-1, 'a', 1), true},
		{run.Seq(limit-3, 'a', 3), true},
		{run.Seq(limit-1, 'a', 2), false},
		{run.Seq(limit-3, 'a', 4), false},
		{run.Seq(limit, 'a', 1), false},
		{run.Seq(math.MaxInt, 'a', 1), false},
		{run.List(limit-1, "a"), true},
		{run.List(limit-3, "a\u00e9c"), true},
		{run.List(limit-1, "az"), false},
		{run.List(limit-3, "a\u00e9cd"), false},
		{run.List(limit, "a"), false},
		{run.List(math.MaxInt, "a"), false},
		{run.List(math.MaxInt, "az"), false},
		// Numbers that are no signs'.
		{run.Seq(7, -1, 1), false},
		{run.Seq(7, -1, 3), false},
		{run.Seq(7, math.MinInt32, 1), false},
		{run.Seq(7, 0xD7FF, 1), true},
		{run.Seq(7, 0xD7FD, 3), true},
		{run.Seq(7, 0xD7FF, 2), false},
		{run.Seq(7, 0xD7FF, 0x801), false},
		{run.Seq(7, 0xD800, 1), false},
		{run.Seq(7, 0xDFFF, 1), false},
		{run.Seq(7, 0xDFFF, 2), false},
		{run.Seq(7, 0xE000, 2), true},
		{run.Seq(7, 0x10FFFF, 1), true},
		{run.Seq(7, 0x10FFFD, 3), true},
		{run.Seq(7, 0x10FFFF, 2), false},
		{run.Seq(7, 0x110000, 1), false},
		{run.Seq(7, math.MaxInt32, 1), false},
		{run.Seq(7, math.MaxInt32, 2), false},
		// On two sides of D800 to DFFF: the numbers amid them are no signs', though the last one is.
		{run.Seq(7, 0xD7FF, 0x802), false},
		{run.Seq(7, 0xD700, 0x1000), false},
		{run.List(7, "\ud7ff\ue000\ud7ff"), true},
		{run.List(7, "\U0010ffff\x00"), true},
		// Texts that aren't made of signs.
		{run.List(7, "\xff"), false},
		{run.List(7, "ab\xff"), false},
		{run.List(7, "\xffab"), false},
		{run.List(7, "\xed\xa0\x80"), false},
		{run.List(7, "\xf4\x90\x80\x80"), false},
		{run.List(7, "ab\xc3"), false},
		{run.List(7, "ab\ufffd"), true},
		// Where there is a text, the number and the count tell nothing.
		{run.Piece{From: 7, Text: "ab", To: -1, Count: -1}, true},
		{run.Piece{From: 7, Text: "ab", To: 'x', Count: 99}, true},
		{run.Piece{From: 7, Text: "ab", To: 0xD7FF, Count: math.MaxInt}, true},
		{run.Piece{From: 7, Text: "\xff", To: 'x', Count: 1}, false},
	}
	for _, test := range tests {
		if _, f := run.New(test.piece); f.Bad() == test.may {
			t.Errorf("New(%v): %v; may be: %v", test.piece, f, test.may)
		}
		made(t, test.piece)
		// The fault is told at the piece, wherever that stands.
		made(t, run.Seq(100, 'a', 3), run.List(110, "xy"), test.piece)
		made(t, run.Seq(100, 'a', 3), test.piece, run.Seq(5, 'a', 0))
	}
}

func TestCountsBeyondTheCodes(t *testing.T) {
	for _, count := range []int{limit, limit + 1, 1 << 31, 1 << 32, 1<<32 + 1, 1 << 62, math.MaxInt} {
		for _, from := range []int{1, limit - 1, limit, math.MaxInt} {
			for _, to := range []rune{0, 'a', 0xE000, 0x10FFFF, math.MaxInt32} {
				x, f := run.New(run.Seq(0, 'a', 1), run.Seq(from, to, count))
				if f != (api.Fault{Errno: api.ErrArg, At: 1}) || x.Size() != 0 {
					t.Errorf("Seq(%d, %x, %d): %v, %d", from, to, count, f, x.Size())
				}
			}
		}
	}
}

func TestAllCodes(t *testing.T) {
	x, f := run.New(run.Seq(0, 0x10000, limit))
	if f.Bad() || x.Size() != limit {
		t.Fatal(f, x.Size())
	}
	pairs := x.Pairs()
	for code := range limit {
		p, ok := x.Forward(code)
		back, found := x.Reverse(rune(0x10000 + code))
		if p != rune(0x10000+code) || !ok || back != code || !found || pairs[code] != (run.Pair{Code: code, Point: p}) {
			t.Fatal(code, p, ok, back, found, pairs[code])
		}
	}
	if _, f := run.New(run.Seq(0, 0xF000, limit), run.List(5, "a")); f != (api.Fault{Errno: api.ErrArg, At: 1}) {
		t.Error(f)
	}
	text := strings.Repeat("ab", limit/2)
	y, f := run.New(run.List(0, text))
	if f.Bad() || y.Size() != limit {
		t.Fatal(f, y.Size())
	}
	if p, ok := y.Forward(limit - 1); p != 'b' || !ok {
		t.Error(p, ok)
	}
	for _, more := range []run.Piece{run.List(1, text), run.List(0, text+"a"), run.List(-1, text)} {
		if _, f := run.New(more); f != (api.Fault{Errno: api.ErrArg}) {
			t.Error(f)
		}
	}
}

// some are pieces that meet each other in all ways: apart, side by side, by an end, one amid another, and wholly; with signs that others have.
func some() []run.Piece {
	return []run.Piece{
		run.Seq(0, 'a', 1), run.Seq(1, 'a', 1), run.Seq(0, 'a', 3), run.Seq(2, 'b', 3), run.Seq(1, 'c', 6), run.Seq(5, 'a', 2),
		run.List(3, "aab"), run.List(0, "cba"), run.List(6, "z"), run.List(0, "abcdefgh"),
		run.Seq(4, 'a', 0), run.List(2, "a\xff"), run.Seq(-1, 'a', 2),
	}
}

func TestSeveralPieces(t *testing.T) {
	for _, a := range some() {
		for _, b := range some() {
			made(t, a, b)
			for _, c := range some() {
				made(t, a, b, c)
			}
		}
	}
}

// wholes are tables of one or two pieces, and the zero one.
func wholes(t *testing.T) ([]run.Table, []told) {
	var tables []run.Table
	var all []told
	for i, a := range some() {
		for _, b := range some()[i:] {
			x, m := made(t, a, b)
			if len(m) == 0 && len(tables) > 0 {
				continue
			}
			tables, all = append(tables, x), append(all, m)
		}
		if x, m := made(t, a); len(m) > 0 {
			tables, all = append(tables, x), append(all, m)
		}
	}
	return tables, all
}

func TestOver(t *testing.T) {
	tables, all := wholes(t)
	if len(tables) < 20 || len(all[0]) != 0 {
		t.Fatal(len(tables), all[0])
	}
	for i, x := range tables {
		for j, y := range tables {
			both, m := x.Over(y), all[i].over(all[j])
			is(t, both, m)
			// Both stay as they were.
			is(t, x, all[i])
			is(t, y, all[j])
			for k, z := range tables {
				is(t, both.Over(z), m.over(all[k]))
				is(t, z.Over(both), all[k].over(m))
			}
			is(t, both, m)
		}
	}
}

func TestOverManyTimes(t *testing.T) {
	x, m := made(t, run.Seq(0, 'a', 9), run.List(20, "xyz"))
	y, n := made(t, run.Seq(4, 'c', 9))
	z, all := x, m
	for range 100 {
		z, all = z.Over(z).Over(y), all.over(n)
		is(t, z, all)
		z, all = y.Over(z), n.over(all)
		is(t, z, all)
	}
}

func TestOverCutsWhatStandsUnder(t *testing.T) {
	under, m := made(t, run.Seq(0, 'a', 20), run.Seq(30, 'a', 20))
	holes := []run.Piece{run.Seq(0, 'x', 1), run.Seq(3, 'A', 2), run.List(5, "zz"), run.Seq(19, 'N', 12), run.Seq(49, 'x', 2)}
	over, n := made(t, holes...)
	is(t, over.Over(under), n.over(m))
	is(t, under.Over(over), m.over(n))
	// Whose least code is hidden has a greater one; whose only code is hidden has none.
	both := over.Over(under)
	if code, ok := both.Reverse('d'); code != 33 || !ok {
		t.Error(code, ok)
	}
	if code, ok := both.Reverse('a'); code != 0 || ok {
		t.Error(code, ok)
	}
}

func TestAnswersAreNewMemory(t *testing.T) {
	pieces := []run.Piece{run.Seq(5, 'a', 3), run.List(0, "xy")}
	x, m := made(t, pieces...)
	for i := range pieces {
		pieces[i] = run.Piece{}
	}
	is(t, x, m)
	pairs := x.Pairs()
	clear(pairs)
	is(t, x, m)
	// Tables that are made of one stay apart.
	y, n := made(t, run.Seq(100, 'q', 1))
	z, o := made(t, run.Seq(200, 'r', 1))
	a, b := x.Over(y), x.Over(z)
	is(t, a, m.over(n))
	is(t, b, m.over(o))
}
