package detect_test

import (
	"math"
	"testing"

	"diacritic/api"
	"diacritic/charset"
	"diacritic/detect"
	"diacritic/wansung"
)

// legacyOf are the legacy charsets.
func legacyOf() []api.Charset {
	return []api.Charset{api.Latin1, api.KOI8R, api.KOI8U, api.CP866, api.CP949, api.Johab, api.Big5}
}

// unitsOf are the charsets of all signs.
func unitsOf() []api.Charset { return []api.Charset{api.UTF8, api.UTF16L, api.UTF16B} }

// wrong are numbers that are no charset's, at the edges and at the ends of the type.
func wrong() []api.Charset {
	return []api.Charset{-1, 10, -2, 11, -7, 17, 256, 1 << 32, 1<<32 + 1, -1 << 32, math.MinInt32, math.MaxInt32, math.MinInt, math.MinInt + 1, math.MaxInt}
}

// told tells what signs weigh by the document's words.
type told struct {
	rows map[rune]bool // the syllables in the rows
}

// document is what the document tells.
func document(t *testing.T) told {
	t.Helper()
	d := told{map[rune]bool{}}
	for k := range 2350 {
		p, ok := wansung.Place(k)
		if !ok || d.rows[p] {
			t.Fatal(k, p, ok)
		}
		d.rows[p] = true
	}
	return d
}

// between says whether a sign is one from the first to the last.
func between(p, first, last rune) bool { return first <= p && p <= last }

// capital says whether a sign is such a capital.
func capital(p rune) bool { return between(p, 0x400, 0x42F) || p == 0x490 }

// small says whether a sign is such a small letter.
func small(p rune) bool { return between(p, 0x430, 0x45F) || p == 0x491 }

// kindOf is which signs a legacy charset is for.
func kindOf(c api.Charset) string {
	switch c {
	case api.KOI8R, api.KOI8U, api.CP866:
		return "letters"
	case api.CP949, api.Johab:
		return "syllables"
	case api.Big5:
		return "signs"
	}
	return ""
}

// weight is what a sign weighs in a legacy charset.
func (d told) weight(c api.Charset, p rune) int {
	switch kind := kindOf(c); {
	case p == 9, p == 0xA, p == 0xD, between(p, 0x20, 0x7E):
		return 0
	case p < 0x80:
		return -6
	case kind == "letters" && small(p):
		return 4
	case kind == "letters" && capital(p):
		return 2
	case kind == "letters":
		return -4
	case kind == "syllables" && d.rows[p]:
		return 6
	case kind == "syllables" && between(p, 0xAC00, 0xD7A3):
		return 2
	case kind == "syllables" && between(p, 0x3131, 0x318E):
		return -2
	case kind == "signs" && between(p, 0x4E00, 0x9FFF):
		return 5
	case kind != "":
		return 1
	case p < 0xA0: // what is left is Latin-1
		return -8
	case between(p, 0xA0, 0xBF), p == 0xD7, p == 0xF7:
		return -1
	}
	return 1
}

// score is a text's score in a legacy charset.
func (d told) score(c api.Charset, text string) int {
	sum, signs := 0, []rune(text)
	for i, p := range signs {
		sum += d.weight(c, p)
		if i > 0 && capital(p) && small(signs[i-1]) {
			sum -= 3
		}
	}
	return sum
}

// follows fails a test, if bytes don't have the score that the document tells; it says whether they have one.
func (d told) follows(t *testing.T, c api.Charset, b string) bool {
	t.Helper()
	text, f := charset.Decode(c, b)
	if f.Bad() {
		scores(t, c, b, 0, false)
		return false
	}
	scores(t, c, b, d.score(c, text), true)
	return true
}

// scores fails a test, if bytes don't have a score in a charset, or none.
func scores(t *testing.T, c api.Charset, b string, want int, has bool) {
	t.Helper()
	if got, ok := detect.Score(c, b); got != want || ok != has {
		t.Errorf("Score(%d, %x): %d, %v; should be %d, %v", c, b, got, ok, want, has)
	}
}

// likeliest is what Guess should tell of bytes: of those with the greatest score above 0 the first.
func likeliest(b string, l []api.Charset) (api.Charset, bool) {
	most := 0
	for _, c := range l {
		if n, ok := detect.Score(c, b); ok {
			most = max(most, n)
		}
	}
	for _, c := range l {
		if n, ok := detect.Score(c, b); ok && most > 0 && n == most {
			return c, true
		}
	}
	return 0, false
}

// guesses fails a test, if a charset isn't guessed of some.
func guesses(t *testing.T, b string, want api.Charset, l ...api.Charset) {
	t.Helper()
	if got, ok := detect.Guess(b, l...); got != want || !ok {
		t.Errorf("Guess(%x, %v): %d, %v; should be %d", b, l, got, ok, want)
	}
}

// guessesNone fails a test, if one of some charsets is guessed.
func guessesNone(t *testing.T, b string, l ...api.Charset) {
	t.Helper()
	if got, ok := detect.Guess(b, l...); got != 0 || ok {
		t.Errorf("Guess(%x, %v): %d, %v; should be none", b, l, got, ok)
	}
}

// marked fails a test, if another mark stands ahead of bytes, or none.
func marked(t *testing.T, b string, want api.Charset, size int) {
	t.Helper()
	if got, n := detect.Mark(b); got != want || n != size {
		t.Errorf("Mark(%x): %d, %d; should be %d, %d", b, got, n, want, size)
	}
}

// resolves fails a test, if bytes aren't in a charset.
func resolves(t *testing.T, b, declared string, o api.Options, want api.Charset) {
	t.Helper()
	if got := detect.Resolve(b, declared, o); got != want {
		t.Errorf("Resolve(%x, %q, %+v): %d; should be %d", b, declared, o, got, want)
	}
}
