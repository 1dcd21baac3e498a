package detect_test

import (
	"slices"
	"strings"
	"testing"

	"diacritic/api"
	"diacritic/charset"
	"diacritic/detect"
	"diacritic/point"
)

func TestExamples(t *testing.T) {
	scores(t, api.Latin1, "\xe9", 1, true)
	scores(t, api.KOI8R, "\xc1\xc2", 8, true)
	scores(t, api.CP866, "\x80\xa0", 6, true)
	guesses(t, "\xb0\xa1", api.CP949, detect.Order()...)
}

func TestScoreOfNoByte(t *testing.T) {
	for _, c := range legacyOf() {
		scores(t, c, "", 0, true)
	}
}

func TestScoreOfEachByte(t *testing.T) {
	d := document(t)
	for _, c := range legacyOf() {
		texts := 0
		for b := range 0x100 {
			if d.follows(t, c, string([]byte{byte(b)})) {
				texts++
			}
		}
		if want := map[bool]int{true: 0x100, false: 0x80}[c <= api.CP866]; texts != want {
			t.Errorf("%d: %d bytes have a score; should be %d", c, texts, want)
		}
	}
}

func TestScoreOfEachTwoBytes(t *testing.T) {
	d := document(t)
	for _, c := range legacyOf() {
		for code := 0x8000; code < 0x10000; code++ {
			b := string([]byte{byte(code >> 8), byte(code)})
			if code&0x80 != 0 || c > api.CP866 { // each of the others stands in TestScoreOfEachByte
				d.follows(t, c, b)
			}
			if c > api.CP866 {
				d.follows(t, c, "a"+b+"b") // a byte that is left over has another one behind it here
			}
		}
	}
}

func TestSyllablesInTheRowsAndBesideThem(t *testing.T) {
	scores(t, api.CP949, "\xb0\xa1", 6, true)
	scores(t, api.CP949, "\xc8\xfe", 6, true)
	scores(t, api.CP949, "\x81\x41", 2, true)
	scores(t, api.CP949, "\xc6\x52", 2, true)
	scores(t, api.CP949, "\xa4\xa1", -2, true)
	scores(t, api.CP949, "\xa4\xfe", -2, true)
	scores(t, api.CP949, "\xa1\xa1", 1, true)
	scores(t, api.Johab, "\x88\x61", 6, true) // in CP949's rows, though this isn't CP949
	scores(t, api.Johab, "\x88\x64", 2, true)
	scores(t, api.Johab, "\xd3\xbd", 2, true)
	scores(t, api.Johab, "\x88\x41", -2, true)
	scores(t, api.Johab, "\x84\x61", -2, true)
	scores(t, api.CP949, "\xb0\xa1 \x81\x41\xa4\xa1a\xa1\xa1\n", 7, true)
}

func TestChineseSigns(t *testing.T) {
	scores(t, api.Big5, "\xa4\x40", 5, true)
	scores(t, api.Big5, "\xa1\x40", 1, true)
	scores(t, api.Big5, "\x88\x66", 1, true)
	scores(t, api.Big5, "\x88\x62", 2, true) // two signs, each of them weighs
	scores(t, api.Big5, "\x88\xa5", 2, true)
	scores(t, api.Big5, "\xa4\x40a\x88\x62\x00\xa5\xfe", 6, true)
}

func TestCapitalsAndSmallLetters(t *testing.T) {
	for text, want := range map[string]int{
		"\u0430\u0410":                   3,  // a capital behind a small letter
		"\u0410\u0430":                   6,  // a small letter behind a capital
		"\u0410\u0411":                   4,  // a capital behind a capital
		"\u0430\u0431":                   8,  // a small letter behind a small letter
		"\u0430 \u0410":                  6,  // a capital behind another sign
		"\u0430\n\u0410":                 6,  // likewise
		"\u0430\u2500\u0410":             2,  // likewise
		"\u0430a\u0410":                  6,  // likewise
		"a\u0410":                        2,  // a small letter of another kind
		"\u0430A":                        4,  // a capital of another kind
		"\u0430\u0410\u0411":             5,  // only the first capital is right behind it
		"\u0430\u0431\u0410":             7,  // only the last small letter is right ahead of it
		"\u0430\u0410\u0430\u0410":       6,  // two
		"\u0410\u0430\u0410\u0430\u0410": 8,  // two
		"\u0451\u0401":                   3,  // letters beside the others
		"\u0401\u0451":                   6,  // likewise
		"\u041f\u0440\u0438\u0432\u0435": 18, // a word as it should be
		"\u043f\u0420\u0418\u0412\u0415": 9,  // and as it shouldn't
	} {
		for _, c := range []api.Charset{api.KOI8R, api.KOI8U, api.CP866} {
			b, f := charset.Encode(c, text)
			if f.Bad() {
				t.Fatal(c, f)
			}
			scores(t, c, b, want, true)
		}
	}
	scores(t, api.KOI8U, "\xad\xbd", 3, true) // 0491 0490
	scores(t, api.KOI8U, "\xbd\xad", 6, true)
	scores(t, api.KOI8U, "\xad\xad", 8, true)
	scores(t, api.KOI8U, "\xbd\xbd", 4, true)
	scores(t, api.KOI8U, "\xc1\xbd", 3, true) // 0430 0490
	scores(t, api.KOI8U, "\xad\xe1", 3, true) // 0491 0410
	scores(t, api.KOI8U, "\xbd\xe1", 4, true) // 0490 0410
	scores(t, api.KOI8U, "\xad \xbd", 6, true)
	scores(t, api.KOI8U, "\xa4\xb4", 3, true) // 0454 0404
	scores(t, api.CP866, "\xf3\xf2", 3, true) // likewise
	scores(t, api.KOI8R, "\xa3\xb3", 3, true) // 0451 0401
}

func TestLettersInCharsetsOfOthers(t *testing.T) {
	scores(t, api.CP949, "\xac\xd1\xac\xa1", -1, true) // 0430 0410: 1 and 1, less 3
	scores(t, api.CP949, "\xac\xa1\xac\xd1", 2, true)
	scores(t, api.CP949, "\xac\xd1 \xac\xa1", 2, true)
	scores(t, api.CP949, "\xac\xd7\xac\xa7", -1, true) // 0451 0401
	scores(t, api.CP949, "\xac\xd1\xb0\xa1\xac\xa1", 8, true)
	scores(t, api.CP949, "\xac\xd1\xac\xa1\xac\xd1\xac\xa1", -2, true)
	d := document(t)
	for code := range 94 * 94 {
		d.follows(t, api.CP949, string([]byte{0xAC, byte(0xA1 + code/94), 0xAC, byte(0xA1 + code%94)}))
	}
}

func TestScoreOfBytesThatAreNoText(t *testing.T) {
	for c, l := range map[api.Charset][]string{
		api.CP949: {"\xb0", "\x80", "\xff", "a\xb0", "\xb0\xa1\xb0", "\xb0\xa1\xb0\x40", "\xc6\x53", "\x80\x41", "\xb0\xa1\xff\xb0\xa1"},
		api.Johab: {"\x88", "\x80", "\xff", "a\x88", "\x88\x61\x88", "\x88\x61\x88\x40", "\x84\x41", "\x80\x61", "\x88\x61\xff\x88\x61"},
		api.Big5:  {"\xa4", "\x80", "\xff", "a\xa4", "\xa4\x40\xa4", "\xa4\x40\xa4\x3f", "\xa2\x40", "\x88\x55", "\xa4\x40\xff\xa4\x40"},
	} {
		for _, b := range l {
			scores(t, c, b, 0, false)
		}
	}
}

func TestScoreInCharsetsThatAreNotLegacy(t *testing.T) {
	for _, c := range append(unitsOf(), wrong()...) {
		for _, b := range []string{"", "a", "ab", "\xc3\xa9", "\xb0\xa1", "\xc1\xc2", "\xff", "a\x00b\x00", "\xea\xb0\x80"} {
			scores(t, c, b, 0, false)
		}
	}
}

func TestScoreOfRowsOfBytes(t *testing.T) {
	d := document(t)
	some := []byte{0x00, 0x0A, 0x41, 0x61, 0x81, 0x88, 0xAC, 0xAD, 0xBD, 0xC1, 0xD7, 0xE1, 0xFF}
	for _, c := range legacyOf() {
		rows := []string{""}
		for range 4 {
			var longer []string
			for _, row := range rows {
				d.follows(t, c, row)
				for _, b := range some {
					longer = append(longer, row+string([]byte{b}))
				}
			}
			rows = longer
		}
	}
}

func TestScoreOfLongTexts(t *testing.T) {
	n := 1 << 16
	scores(t, api.Latin1, strings.Repeat("\x80", n), -8*n, true)
	scores(t, api.Latin1, strings.Repeat("\xe9", n), n, true)
	scores(t, api.KOI8R, strings.Repeat("\xc1\xe1", n), 3*n, true)
	scores(t, api.CP949, strings.Repeat("\xb0\xa1", n), 6*n, true)
	scores(t, api.CP949, strings.Repeat("\xb0\xa1", n)+"\xb0", 0, false)
	scores(t, api.Big5, strings.Repeat("\xa4\x40a", n), 5*n, true)
	scores(t, api.Johab, strings.Repeat("a\x00", n), -6*n, true)
}

func TestOrder(t *testing.T) {
	want := []api.Charset{4, 6, 5, 1, 2, 3, 0}
	got := detect.Order()
	if !slices.Equal(got, want) {
		t.Fatal(got)
	}
	for i := range got {
		got[i] = api.UTF8
	}
	if again := detect.Order(); !slices.Equal(again, want) {
		t.Error("an answer that was changed comes again:", again)
	}
}

func TestGuessOfNoCharset(t *testing.T) {
	for _, b := range []string{"", "a", "\xb0\xa1", "\xc1\xc2", "\xff"} {
		guessesNone(t, b)
		guessesNone(t, b, []api.Charset{}...)
	}
}

func TestGuessOfOneCharset(t *testing.T) {
	for _, c := range append(append(legacyOf(), unitsOf()...), wrong()...) {
		for _, b := range []string{"", "a", "\xe9", "\xb0\xa1", "\xc1\xc2", "\xa4\x40", "\x88\x61", "\x00", "\xc3\xa9"} {
			if n, ok := detect.Score(c, b); ok && n > 0 {
				guesses(t, b, c, c)
				guesses(t, b, c, c, c, c) // several times
			} else {
				guessesNone(t, b, c)
				guessesNone(t, b, c, c)
			}
		}
	}
}

func TestGuessOfEqualScores(t *testing.T) {
	guesses(t, "\xc1\xc2", api.KOI8R, api.KOI8R, api.KOI8U)
	guesses(t, "\xc1\xc2", api.KOI8U, api.KOI8U, api.KOI8R)
	guesses(t, "\xc1\xc2", api.KOI8U, api.Latin1, api.KOI8U, api.CP866, api.KOI8R, api.KOI8U)
	guesses(t, "\xa4", api.KOI8U, api.KOI8R, api.KOI8U, api.CP866)
	guesses(t, "\xa4", api.CP866, api.KOI8R, api.CP866, api.KOI8U)
}

func TestGuessOfTheGreatest(t *testing.T) {
	guesses(t, "\x88\x61", api.Johab, api.CP949, api.Big5, api.Johab) // 2, 1, 6
	guesses(t, "\x88\x61", api.Johab, api.Johab, api.CP949, api.Big5)
	guesses(t, "\x88\x61", api.CP949, api.CP949, api.Big5)
	guesses(t, "\x88\x61", api.CP949, api.Big5, api.CP949)
	guesses(t, "\x88\x61", api.Big5, api.Big5, api.UTF8)
	guesses(t, "\xb0\xa1", api.CP949, api.Latin1, api.Big5, api.CP949, api.Johab)
	guesses(t, "\xff\xff\xb0", api.Latin1, api.KOI8R, api.CP866, api.Latin1, api.CP949) // 0, -12, 1, and no text
}

func TestGuessOfScoresOfNoWorth(t *testing.T) {
	for _, b := range []string{"", "a", "plain\r\n\ttext~", "\xe9\xb0", "\xb0", "\xbf", "\x00", "a\x7f", "\xff\xfea\x00"} { // 0 at most, in each
		guessesNone(t, b, detect.Order()...)
	}
	guessesNone(t, "\xc1\xb0", api.KOI8R)                // 0
	guessesNone(t, "\xc1\xb0\x00", api.KOI8R, api.KOI8U) // -6
	guessesNone(t, "\xa4\xa1", api.CP949)                // -2
	guessesNone(t, "\xb0\xa1", api.KOI8R, api.KOI8U)     // -8
}

func TestGuessOfCharsetsThatAreNotLegacy(t *testing.T) {
	others := append(unitsOf(), wrong()...)
	for _, b := range []string{"", "a", "\xc3\xa9", "a\x00", "\xb0\xa1", "\xff"} {
		guessesNone(t, b, others...)
	}
	guesses(t, "\xc1", api.KOI8R, append(others, api.KOI8R)...)
	guesses(t, "\xc1", api.KOI8R, append([]api.Charset{api.KOI8R}, others...)...)
}

func TestGuessOfEachInTheOrder(t *testing.T) {
	for b, c := range each() {
		guesses(t, b, c, detect.Order()...)
	}
}

// each are bytes that are guessed as each of the charsets, by the Order; none of them is made of signs.
func each() map[string]api.Charset {
	return map[string]api.Charset{
		"\xb0\xa1": api.CP949, "\xa4\x40": api.Big5, "\x88\x61": api.Johab, "\xc1": api.KOI8R, "\xa4": api.KOI8U, "\x80": api.CP866, "\xff\xff\xb0": api.Latin1,
	}
}

func TestGuessOfRowsOfBytes(t *testing.T) {
	back := detect.Order()
	slices.Reverse(back)
	some := []byte{0x00, 0x20, 0x40, 0x61, 0x80, 0x88, 0xA1, 0xA4, 0xB0, 0xC1, 0xE1, 0xFF}
	lists := [][]api.Charset{detect.Order(), back, {0, 1, 2, 3}, {3, 2, 1, 0, 3}, {4, 5, 6}, {6, 5, 4, 7, 8}, {-1, 2, 10, 5, 1}}
	for i := range len(some) * len(some) * len(some) {
		b := string([]byte{some[i/len(some)/len(some)], some[i/len(some)%len(some)], some[i%len(some)]})
		for _, l := range lists {
			kept := slices.Clone(l)
			if c, ok := likeliest(b, l); ok {
				guesses(t, b, c, l...)
			} else {
				guessesNone(t, b, l...)
			}
			if !slices.Equal(l, kept) {
				t.Fatal("the list is changed:", l)
			}
		}
	}
}

func TestMarks(t *testing.T) {
	for _, behind := range []string{"", "a", "a\x00", "\x00\x00", "\xff\xfe", "\xfe\xff", "\xef\xbb\xbf", "\xff", "\xb0\xa1"} {
		marked(t, "\xef\xbb\xbf"+behind, api.UTF8, 3)
		marked(t, "\xff\xfe"+behind, api.UTF16L, 2)
		marked(t, "\xfe\xff"+behind, api.UTF16B, 2)
	}
}

func TestNoMark(t *testing.T) {
	for _, b := range []string{"", "\xef", "\xef\xbb", "\xff", "\xfe", "a", "\xef\xbb\xbe", "\xef\xbb\xc0", "\xef\xba\xbf", "\xee\xbb\xbf", "\xef\xbf\xbb", "\xbb\xbf", "\xbb\xbf\xef", "\x00\x00\xfe\xff", "\xef\xbba\xbf", "\xffa\xfe"} {
		marked(t, b, 0, 0)
	}
	for _, mark := range []string{"\xef\xbb\xbf", "\xff\xfe", "\xfe\xff"} {
		for _, ahead := range []string{"a", "\x00", " ", "\n", "\xef", "\xbb"} {
			marked(t, ahead+mark, 0, 0) // behind a byte
		}
	}
	for code := range 0x10000 {
		switch b := string([]byte{byte(code >> 8), byte(code)}); b {
		case "\xff\xfe":
			marked(t, b, api.UTF16L, 2)
		case "\xfe\xff":
			marked(t, b, api.UTF16B, 2)
		default:
			marked(t, b, 0, 0)
		}
	}
}

// options are all kinds of options, with each Fallback, such as may not be too.
func options() []api.Options {
	var l []api.Options
	for _, c := range append(append(legacyOf(), unitsOf()...), wrong()...) {
		l = append(l, api.Options{Fallback: c}, api.Options{Fallback: c, Detect: true}, api.Options{Kind: api.LRC, Fallback: c, Detect: true, Budget: 1}, api.Options{Kind: -1, Fallback: c, Budget: -1})
	}
	return l
}

func TestResolveOfSigns(t *testing.T) {
	for _, b := range []string{"", "a", "\x00", "plain\r\n", "\xc3\xa9", "\xea\xb0\x80", "\xef\xbb\xbf", "\xef\xbb\xbfa", "\xf0\x9f\x98\x80", "\xd0\xb0\xd0\x91", "\xf4\x8f\xbf\xbf"} {
		for _, declared := range []string{"", "latin1", "koi8-r", "KOI8-R", "cp949", "big5", "utf-8", "utf-16le", "no such"} {
			for _, o := range options() {
				resolves(t, b, declared, o, api.UTF8)
			}
		}
	}
}

// noSigns are bytes that aren't made of signs.
func noSigns() []string {
	l := []string{"\xe9\xb0", "\xb0", "\xc3", "a\xff", "\xc0\x80", "\xed\xa0\x80", "\xf4\x90\x80\x80", "\xc3\xa9\xff", "\xff\xfea\x00", "\xfe\xff\x00a"}
	for b := range each() {
		l = append(l, b)
	}
	return l
}

func TestResolveByName(t *testing.T) {
	for declared, want := range map[string]api.Charset{
		"latin1": 0, "ISO-8859-1": 0, "koi8-r": 1, "KOI8-R": 1, "Koi8R": 1, "koi8-u": 2, "CP866": 3, "ibm866": 3, "cp949": 4, "EUC-KR": 4, "uhc": 4, "johab": 5, "CP1361": 5,
		"big5": 6, "BIG5-HKSCS": 6, "utf-8": 7, "UTF8": 7, "utf-16le": 8, "UTF16LE": 8, "utf-16be": 9, "Utf16Be": 9,
	} {
		for _, b := range noSigns() { // whether they are a text in it or not
			for _, o := range options() {
				resolves(t, b, declared, o, want)
			}
		}
	}
}

// noNames are names that no charset has.
func noNames() []string {
	return []string{"", "no such", "none", "koi8", " koi8-r", "koi8-r ", "koi8_r", "utf-16", "cp1251", "4", "auto", "\xb0\xa1", "koi8-r\x00", "\u212aoi8-r"}
}

func TestResolveByWhatIsGuessed(t *testing.T) {
	for b, want := range each() {
		for _, declared := range noNames() {
			for _, o := range options() {
				if o.Detect {
					resolves(t, b, declared, o, want)
				} else {
					resolves(t, b, declared, o, o.Fallback)
				}
			}
		}
	}
}

func TestResolveWhereNoneIsLikely(t *testing.T) {
	for _, b := range []string{"\xe9\xb0", "\xb0", "\xbf", "\xff\xfea\x00"} {
		for _, declared := range noNames() {
			for _, o := range options() {
				resolves(t, b, declared, o, o.Fallback)
			}
		}
	}
}

func TestResolveIsTheFirstThatHolds(t *testing.T) {
	firsts := "\x00a\x7f\x80\x81\x88\xa1\xa4\xac\xb0\xc1\xc2\xd7\xdf\xe0\xe1\xed\xf0\xf4\xf5\xfe\xff"
	for i := range len(firsts) * 0x100 {
		b := string([]byte{firsts[i/0x100], byte(i)})
		guessed, likely := likeliest(b, detect.Order())
		off, on := api.Options{Fallback: api.Johab}, api.Options{Fallback: api.Johab, Detect: true}
		switch {
		case point.Valid(b):
			resolves(t, b, "koi8-u", on, api.UTF8)
			resolves(t, b, "", on, api.UTF8)
			resolves(t, b, "", off, api.UTF8)
			continue
		case likely:
			resolves(t, b, "", on, guessed)
		default:
			resolves(t, b, "", on, api.Johab)
		}
		resolves(t, b, "koi8-u", on, api.KOI8U)
		resolves(t, b, "", off, api.Johab)
	}
}
