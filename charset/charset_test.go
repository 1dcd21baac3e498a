package charset_test

import (
	"math"
	"slices"
	"strings"
	"testing"

	"diacritic/api"
	"diacritic/charset"
	"diacritic/wide"
)

// none is no fault.
var none = api.Fault{}

// undecodable is a fault.
func undecodable(at int) api.Fault { return api.Fault{Errno: api.ErrUndecodable, At: at} }

// unencodable is a fault.
func unencodable(at int) api.Fault { return api.Fault{Errno: api.ErrUnencodable, At: at} }

// wrong are numbers that are no charset's, at the edges and at the ends of the type.
func wrong() []api.Charset {
	return []api.Charset{-1, 10, -2, 11, -10, 16, 256, 260, 1 << 32, 1<<32 + 4, -1 << 32, math.MinInt32, math.MaxInt32, math.MinInt, math.MinInt + 4, math.MaxInt}
}

// decodes fails a test, if bytes don't come to a text, or to a fault.
func decodes(t *testing.T, c api.Charset, b, text string, fault api.Fault) {
	t.Helper()
	if got, f := charset.Decode(c, b); got != text || f != fault {
		t.Errorf("Decode(%d, %x): %q, %v; should be %q, %v", c, b, got, f, text, fault)
	}
}

// encodes fails a test, if a text doesn't come to bytes, or to a fault.
func encodes(t *testing.T, c api.Charset, text, b string, fault api.Fault) {
	t.Helper()
	if got, f := charset.Encode(c, text); got != b || f != fault {
		t.Errorf("Encode(%d, %q): %x, %v; should be %x, %v", c, text, got, f, b, fault)
	}
}

// both fails a test, if bytes and a text aren't each other's.
func both(t *testing.T, c api.Charset, b, text string) {
	t.Helper()
	decodes(t, c, b, text, none)
	encodes(t, c, text, b, none)
}

// follows fails a test, if bytes don't come to what the document tells of them; it says whether they come to a text.
func follows(t *testing.T, d told, c api.Charset, b string) bool {
	t.Helper()
	text, at := d.decoded(b)
	if at >= 0 {
		decodes(t, c, b, "", undecodable(at))
		return false
	}
	both(t, c, b, text)
	return true
}

func TestExamples(t *testing.T) {
	both(t, api.CP949, "\x61\xb0\xa1", "a\uac00")
	decodes(t, api.CP949, "\x61\xb0", "", undecodable(1))
	both(t, api.Johab, "\x88\x61", "\uac00")
	named(t, "UTF8", 7, true)
	named(t, "Big5", 6, true)
	named(t, "", 0, false)
}

func TestRightAndLegacy(t *testing.T) {
	for i, c := range tenOf() {
		if c != api.Charset(i) || !charset.Right(c) || charset.Legacy(c) != (i < 7) {
			t.Errorf("%d: Right %v, Legacy %v", c, charset.Right(c), charset.Legacy(c))
		}
	}
	for _, c := range wrong() {
		if charset.Right(c) || charset.Legacy(c) {
			t.Errorf("%d: Right %v, Legacy %v", c, charset.Right(c), charset.Legacy(c))
		}
	}
}

func TestNoSuchCharset(t *testing.T) {
	for _, c := range wrong() {
		for _, s := range []string{"", "a", "ab", "\x80", "\xff", "a\u0430\xff", "\xb0\xa1"} { // this is told ahead of all that's wrong in the text
			decodes(t, c, s, "", api.Fault{Errno: api.ErrArg})
			encodes(t, c, s, "", api.Fault{Errno: api.ErrArg})
		}
	}
}

func TestNoBytesAndNoSigns(t *testing.T) {
	for _, c := range tenOf() {
		both(t, c, "", "")
	}
}

func TestOneByteInEachCharset(t *testing.T) {
	high := map[api.Charset][2]string{
		api.Latin1: {"\u0080", "\u00ff"}, api.KOI8R: {"\u2500", "\u042a"}, api.KOI8U: {"\u2500", "\u042a"}, api.CP866: {"\u0410", "\u00a0"},
	}
	for _, c := range tenOf() {
		if c == api.UTF16L || c == api.UTF16B {
			for b := range 0x100 { // a unit isn't one byte
				decodes(t, c, string([]byte{byte(b)}), "", undecodable(0))
			}
			continue
		}
		for b := range 0x80 {
			both(t, c, string([]byte{byte(b)}), string(rune(b)))
		}
		if signs, ok := high[c]; ok {
			both(t, c, "\x80", signs[0])
			both(t, c, "\xff", signs[1])
			continue
		}
		for b := 0x80; b < 0x100; b++ { // the first of two, or of none
			decodes(t, c, string([]byte{byte(b)}), "", undecodable(0))
			decodes(t, c, "ab"+string([]byte{byte(b)}), "", undecodable(2))
		}
	}
}

func TestOneByteASign(t *testing.T) {
	for _, c := range []api.Charset{api.Latin1, api.KOI8R, api.KOI8U, api.CP866} {
		d, bytes, text := document(t, c), "", ""
		for b := range 0x100 {
			s := string([]byte{byte(b)})
			both(t, c, s, d.texts[s])
			bytes, text = bytes+s, text+d.texts[s]
			both(t, c, bytes, text)
		}
	}
	both(t, api.Latin1, "\xa4\xb4", "\u00a4\u00b4")
	both(t, api.KOI8R, "\xa4\xb4", "\u2553\u2562")
	both(t, api.KOI8U, "\xa4\xb4", "\u0454\u0404")
	both(t, api.CP866, "\xa4\xb4", "\u0434\u2524")
}

func TestAllPairsOfBytes(t *testing.T) {
	for _, c := range mixedOf() {
		d, count := document(t, c), 0
		for code := range 0x10000 {
			b := string([]byte{byte(code >> 8), byte(code)})
			follows(t, d, c, "a"+b+"b") // a byte that is left over has another one behind it here
			if follows(t, d, c, b) {
				count++
			}
		}
		// Two bytes below 80, and the pairs.
		if want := len(d.texts) - 0x80 + 0x80*0x80; count != want {
			t.Errorf("%d: %d pairs of bytes; should be %d", c, count, want)
		}
	}
}

func TestPairsAndSingleBytesMixed(t *testing.T) {
	both(t, api.CP949, "a\xb0\xa1b\x81\x41\xc6\x52\xa1\xa1 \xa4\xa1\x7f", "a\uac00b\uac02\ud7a3\u3000 \u3131\u007f")
	both(t, api.Johab, "\x88\x61a\x90\x61\xd3\xbd\x00\x88\x41\x84\x61~", "\uac00a\ub098\ud7a3\u0000\u3131\u314f~")
	both(t, api.Big5, "\xa4\x40a\x88\x66\x88\x62b\xa1\x40\x88\xa5\xa5\xfe\x00", "\u4e00a\u00ca\u00ca\u0304b\u3000\u00ea\u030c\u5168\u0000")
	both(t, api.Johab, "\x88\x61\x61", "\uac00a") // a byte below 80 is the second of two, or a sign, by what stands ahead
	both(t, api.Johab, "\x61\x88\x61", "a\uac00")
	both(t, api.CP949, "\x81\x41\x41", "\uac02A")
	both(t, api.Big5, "\xa4\x40\x40", "\u4e00@")
}

func TestSecondBytesWithoutASign(t *testing.T) {
	bad := map[api.Charset][]string{
		api.CP949: {"\xb0\x40", "\xb0\x7f", "\xb0\xff", "\xb0\x20", "\xb0\x00", "\xc6\x53", "\xc9\xa1", "\x80\x41", "\x80\xa1", "\xff\xa1", "\xff\xff", "\xa2\xe8"},
		api.Johab: {"\x88\x00", "\x88\x20", "\x88\xff", "\x80\x61", "\xff\x61", "\xff\xff", "\x84\x41", "\x88\x40"},
		api.Big5:  {"\xa4\x3f", "\xa4\x7f", "\xa4\xa0", "\xa4\xff", "\xa4\x00", "\xa4\x20", "\x88\x40", "\x88\x55", "\xa2\x40", "\x80\x40", "\xff\x40", "\xff\xff", "\xa3\xc0"},
	}
	ahead := map[api.Charset]string{api.CP949: "ab\xb0\xa1\x81\x41", api.Johab: "ab\x88\x61\xd3\xbd", api.Big5: "ab\x88\x62\xa4\x40"}
	for c, l := range bad {
		for _, b := range l {
			decodes(t, c, b, "", undecodable(0))
			decodes(t, c, b+"a", "", undecodable(0))
			decodes(t, c, ahead[c]+b, "", undecodable(6))
			decodes(t, c, ahead[c]+b+ahead[c]+b, "", undecodable(6)) // the first of several
			decodes(t, c, ahead[c]+b+"\xff", "", undecodable(6))
		}
	}
}

func TestFirstBytesLeftOver(t *testing.T) {
	for c, l := range map[api.Charset]string{api.CP949: "\xb0\xa1", api.Johab: "\x88\x61", api.Big5: "\xa4\x40"} {
		text, f := charset.Decode(c, l)
		if f.Bad() {
			t.Fatal(c, f)
		}
		both(t, c, l+l+"a", text+text+"a")
		decodes(t, c, l[:1], "", undecodable(0))
		decodes(t, c, "a"+l[:1], "", undecodable(1))
		decodes(t, c, l+l[:1], "", undecodable(2))
		decodes(t, c, l+"a"+l+l[:1], "", undecodable(5))
		decodes(t, c, l+"a"+l+"\x80", "", undecodable(5))
		decodes(t, c, l+"a"+l+"\xff", "", undecodable(5))
	}
}

func TestRowsOfSomeBytes(t *testing.T) {
	some := []byte{0x00, 0x41, 0x61, 0x80, 0x81, 0x88, 0xA1, 0xB0, 0xFF}
	for _, c := range legacyOf() {
		d := document(t, c)
		rows := []string{""}
		for range 4 {
			var longer []string
			for _, row := range rows {
				follows(t, d, c, row)
				for _, b := range some {
					longer = append(longer, row+string([]byte{b}))
				}
			}
			rows = longer
		}
	}
}

func TestTwoSignsAtOnce(t *testing.T) {
	two := map[string]string{"\x88\x62": "\u00ca\u0304", "\x88\x64": "\u00ca\u030c", "\x88\xa3": "\u00ea\u0304", "\x88\xa5": "\u00ea\u030c"}
	one := map[string]string{"\x88\x66": "\u00ca", "\x88\xa7": "\u00ea"}
	for b, s := range two {
		both(t, api.Big5, b, s)
		both(t, api.Big5, "a"+b, "a"+s) // at the end of the text
		both(t, api.Big5, b+b, s+s)
		both(t, api.Big5, b+"a", s+"a")
		both(t, api.Big5, b+"\xa4\x40", s+"\u4e00")
		for other, o := range one {
			both(t, api.Big5, b+other, s+o) // a first sign behind them, and ahead
			both(t, api.Big5, other+b, o+s)
			both(t, api.Big5, other+other+b+other, o+o+s+o)
		}
		encodes(t, api.Big5, s+"\u0304", "", unencodable(4)) // one mark more
		encodes(t, api.Big5, s+"\u030c", "", unencodable(4))
		encodes(t, api.Big5, s[2:], "", unencodable(0)) // the mark alone
		encodes(t, api.Big5, "a"+s[2:], "", unencodable(1))
		encodes(t, api.Big5, s[:2]+"a"+s[2:], "", unencodable(3))
	}
	for b, s := range one {
		both(t, api.Big5, b, s)
		both(t, api.Big5, "a"+b, "a"+s)
		both(t, api.Big5, b+"a", s+"a")
		both(t, api.Big5, b+b, s+s)
		encodes(t, api.Big5, s+"\u0303", "", unencodable(2)) // another mark
		encodes(t, api.Big5, s+"\u030d", "", unencodable(2))
	}
	encodes(t, api.Latin1, "\u00ca\u0304", "", unencodable(2)) // elsewhere they aren't
	encodes(t, api.CP949, "\u3000\u00ca\u0304", "", unencodable(3))
}

func TestSignsAsBytes(t *testing.T) {
	for _, s := range []string{"a", "\u0000", "\u007f\u0080", "\u07ff\u0800", "\ud7ff\ue000", "\uffff\U00010000", "\U0010ffff", "\ufffd", "\ufeff", "a\ufeff", "\u00ca\u0304\uac00\U0001f600"} {
		both(t, api.UTF8, s, s)
	}
	both(t, api.UTF8, "\xef\xbb\xbfa", "\ufeffa") // a mark is a sign here
	both(t, api.UTF8, "\xc3\xa9\xea\xb0\x80", "\u00e9\uac00")
}

// noSigns are bytes at which no sign stands as bytes, of each kind.
func noSigns() []string {
	return []string{
		"\x80", "\xbf", "\xff", "\xfe", "\xf5\x80\x80\x80", "\xf8\x80\x80\x80\x80", "\xc0\x80", "\xc1\xbf", "\xe0\x80\x80", "\xe0\x9f\xbf", "\xf0\x80\x80\x80", "\xf0\x8f\xbf\xbf",
		"\xed\xa0\x80", "\xed\xbf\xbf", "\xed\xa0\xbd\xed\xb8\x80", "\xf4\x90\x80\x80", "\xc3", "\xe2", "\xe2\x82", "\xf0", "\xf0\x9f", "\xf0\x9f\x98", "\xc3a", "\xe2\x82a", "\xf0\x9f\x98a", "\xe2\u00e9", "\xff\xfea\x00", "\xfe\xff\x00a",
	}
}

func TestTextsThatAreNotMadeOfSigns(t *testing.T) {
	for _, bad := range noSigns() {
		decodes(t, api.UTF8, bad, "", undecodable(0))
		decodes(t, api.UTF8, "a\u00e9\uac00\U0001f600"+bad, "", undecodable(10))
		decodes(t, api.UTF8, "\ufffd"+bad+"a\xff", "", undecodable(3))
		for _, c := range tenOf() {
			encodes(t, c, bad, "", undecodable(0))
			encodes(t, c, "ab"+bad, "", undecodable(2))
			encodes(t, c, "\u0e01\U0001f600"+bad, "", undecodable(7)) // ahead of signs without bytes, wherever they stand
			encodes(t, c, "ab"+bad+"\U0001f600", "", undecodable(2))
		}
	}
}

func TestUnits(t *testing.T) {
	both(t, api.UTF16L, "a\x00\x00\xac", "a\uac00")
	both(t, api.UTF16B, "\x00a\xac\x00", "a\uac00")
	both(t, api.UTF16L, "\x3d\xd8\x00\xde", "\U0001f600")
	both(t, api.UTF16B, "\xd8\x3d\xde\x00", "\U0001f600")
	both(t, api.UTF16L, "\x00\xd8\x00\xdc\xff\xdb\xff\xdf", "\U00010000\U0010ffff")
	both(t, api.UTF16B, "\xd7\xff\xe0\x00\xff\xff\x00\x00", "\ud7ff\ue000\uffff\u0000")
	both(t, api.UTF16L, "\xff\xfea\x00", "\ufeffa") // no mark is taken off, none is put ahead
	both(t, api.UTF16B, "\xfe\xff\x00a", "\ufeffa")
	both(t, api.UTF16L, "\xfe\xff\x00a", "\ufffe\u6100")
	both(t, api.UTF16B, "\xff\xfea\x00", "\ufffe\u6100")
	both(t, api.UTF16L, "\x80\x00\xff\x00", "\u0080\u00ff")
	both(t, api.UTF16B, "\x80\xff\x80\x80", "\u80ff\u8080")
}

// noUnits are bytes, big, at which no sign's units stand, of each kind.
func noUnits() []string {
	return []string{
		"\x00", "\xd8", "\xff", "\xd8\x00", "\xdb\xff", "\xdc\x00", "\xdf\xff", "\xd8\x00\xdc", "\xd8\x00\x00", "\xd8\x00\x00\x41", "\xd8\x00\xd8\x00",
		"\xd8\x00\xe0\x00", "\xdb\xff\xdb\xff\xdf\xff", "\xdc\x00\xd8\x00", "\xdc\x00\xdc\x00", "\xd8\x00\xff\xff", "\xdf\xff\x00\x41",
	}
}

func TestUnitsOfNoSign(t *testing.T) {
	for _, bad := range noUnits() {
		for ahead, at := range map[string]int{"": 0, "\x00a": 2, "\xac\x00\xd8\x3d\xde\x00": 6, "\xfe\xff": 2} {
			decodes(t, api.UTF16B, ahead+bad, "", undecodable(at))
			little := turned(ahead + bad)
			_, f := wide.Decode(little, false)
			decodes(t, api.UTF16L, little, "", f)
			if f.Errno != api.ErrUndecodable || len(bad)%2 == 0 && f.At != at {
				t.Errorf("%x: %v", little, f)
			}
		}
	}
	decodes(t, api.UTF16L, "a\x00\x00", "", undecodable(2))
	decodes(t, api.UTF16L, "\x00\xd8a\x00", "", undecodable(0))
	decodes(t, api.UTF16L, "a\x00\x00\xdc", "", undecodable(2))
}

// turned is bytes, each two of which have changed places.
func turned(s string) string {
	b := []byte(s)
	for i := 0; i+1 < len(b); i += 2 {
		b[i], b[i+1] = b[i+1], b[i]
	}
	return string(b)
}

func TestAllSigns(t *testing.T) {
	for _, c := range legacyOf() {
		d, count := document(t, c), 0
		for p := range rune(0x11000) {
			if p >= 0xD800 && p < 0xE000 {
				continue
			}
			b, ok := d.bytes[string(p)]
			if !ok {
				encodes(t, c, string(p), "", unencodable(0))
				continue
			}
			both(t, c, b, string(p))
			count++
		}
		if doubles := 4; c == api.Big5 && count != len(d.texts)-doubles || c != api.Big5 && count != len(d.texts) {
			t.Errorf("%d: %d signs of %d", c, count, len(d.texts))
		}
		for _, p := range []rune{0x14E00, 0x1AC00, 0x1F600, 0x100041, 0x10FFFF} {
			encodes(t, c, string(p), "", unencodable(0))
		}
	}
	var all strings.Builder
	for p := range rune(0x110000) {
		if p < 0xD800 || p >= 0xE000 {
			all.WriteRune(p)
		}
	}
	for _, c := range tenOf()[7:] {
		leadsBack(t, c, all.String())
	}
}

func TestFirstSignWithoutBytes(t *testing.T) {
	has := map[api.Charset]string{
		api.Latin1: "a\u00e9\u0080", api.KOI8R: "a\u0430\u2500", api.KOI8U: "a\u0454\u2500", api.CP866: "a\u0430\u2591", api.CP949: "a\uac00\u0430", api.Johab: "a\uac00\u3131", api.Big5: "a\u00ca\u0304\u4e00",
	}
	for c, ahead := range has {
		for _, p := range []string{"\u0e01", "\ufffd", "\ufeff", "\ue000", "\U0001f600", "\U0010ffff"} {
			encodes(t, c, p, "", unencodable(0))
			encodes(t, c, p+"a", "", unencodable(0))
			encodes(t, c, ahead+p, "", unencodable(len(ahead))) // places are counted in the text's bytes
			encodes(t, c, ahead+ahead+p+ahead, "", unencodable(2*len(ahead)))
			encodes(t, c, ahead+p+"\u0e01"+p, "", unencodable(len(ahead)))
		}
	}
	encodes(t, api.Big5, "\u4e00\uac00", "", unencodable(3))
	encodes(t, api.Big5, "\u00ca\u0304\u0304", "", unencodable(4))
	encodes(t, api.Latin1, "\u0100", "", unencodable(0))
	encodes(t, api.KOI8R, "\u0454", "", unencodable(0))
	encodes(t, api.KOI8U, "\u0454\u2553", "", unencodable(2))
	encodes(t, api.CP949, "a\u0080", "", unencodable(1))
	encodes(t, api.Johab, "a\u00ff", "", unencodable(1))
	encodes(t, api.Johab, "\u3000", "", unencodable(0))
}

func TestSomeSignsInOrder(t *testing.T) {
	some := []string{"a", "\u0080", "\u00ca", "\u00ea", "\u0304", "\u030c", "\u0430", "\u3131", "\uac00", "\u4e00"}
	for _, c := range legacyOf() {
		d := document(t, c)
		for i := range 10000 {
			s := some[i%10] + some[i/10%10] + some[i/100%10] + some[i/1000]
			if b, at := d.encoded(s); at >= 0 {
				encodes(t, c, s, "", unencodable(at))
			} else {
				both(t, c, b, s)
			}
		}
	}
}

// tries fails a test, if just these of some charsets don't fit.
func tries(t *testing.T, b string, want []api.Charset, l ...api.Charset) {
	t.Helper()
	if got := charset.Try(b, l...); !slices.Equal(got, want) {
		t.Errorf("Try(%x, %v): %v; should be %v", b, l, got, want)
	}
}

func TestTry(t *testing.T) {
	tries(t, "\xff", []api.Charset{api.Latin1, api.KOI8R}, api.Latin1, api.UTF8, api.KOI8R)
	tries(t, "a", nil)
	tries(t, "", nil, []api.Charset{}...)
	tries(t, "", tenOf(), tenOf()...)
	tries(t, "a", tenOf()[:8], tenOf()...)
	tries(t, "ab", tenOf(), tenOf()...)
	tries(t, "\xb0\xa1", []api.Charset{0, 1, 2, 3, 4, 5, 8, 9}, tenOf()...)
	tries(t, "\x88\x61", []api.Charset{0, 1, 2, 3, 4, 5, 6, 8, 9}, tenOf()...)
	tries(t, "\xa4\x40", []api.Charset{9, 6, 6, 0}, 9, 6, 4, 6, 7, 5, 0) // in the order in which they came, as often as they came
	tries(t, "\xc3\xa9", []api.Charset{7, 7, 0, 7, 0}, 7, 7, 0, 7, 0)
	tries(t, "\xff", nil, 4, 5, 6, 7, 8, 9)
	tries(t, "a", nil, wrong()...)
	tries(t, "", nil, wrong()...)
	tries(t, "a", []api.Charset{api.UTF8, api.Latin1}, -1, api.UTF8, 10, math.MaxInt, api.Latin1, math.MinInt)
}

func TestTryIsWhereDecodeHasNoFault(t *testing.T) {
	all := append(tenOf(), wrong()...)
	slices.Reverse(all)
	for code := 0; code < 0x10000; code += 13 { // so many tell all first bytes, and all second ones
		b := string([]byte{byte(code >> 8), byte(code)})
		var want []api.Charset
		for _, c := range all {
			if _, f := charset.Decode(c, b); !f.Bad() {
				want = append(want, c)
			}
		}
		tries(t, b, want, all...)
	}
}

func TestListsStayAsTheyWere(t *testing.T) {
	room := []api.Charset{api.UTF8, api.CP949, api.Latin1, api.KOI8R, api.UTF16B}
	want := slices.Clone(room)
	got := charset.Try("\xc1", room[:4]...)
	if !slices.Equal(got, []api.Charset{api.Latin1, api.KOI8R}) || !slices.Equal(room, want) {
		t.Fatal(got, room)
	}
	whole := charset.Try("", room...)
	for i := range whole { // what was handed out is its owner's
		whole[i] = -1
	}
	_ = append(got, -1, -1, -1)
	if !slices.Equal(room, want) {
		t.Fatal(room)
	}
	tries(t, "\xc1", []api.Charset{api.Latin1, api.KOI8R}, room...)
}

// leadsBack fails a test, if a text that is encoded isn't decoded as it was.
func leadsBack(t *testing.T, c api.Charset, text string) {
	t.Helper()
	b, f := charset.Encode(c, text)
	if f.Bad() {
		t.Fatalf("Encode(%d, %q): %v", c, text, f)
	}
	both(t, c, b, text)
}

func TestWhatIsDecodedIsEncodedAsItWas(t *testing.T) {
	for _, c := range tenOf() {
		for code := range 0x1000 { // some rows of four bytes, spread over all of them
			n := uint32(code) * 0x9E3779B1
			b := string([]byte{byte(n >> 24), byte(n >> 16), byte(n >> 8), byte(n)})
			if text, f := charset.Decode(c, b); !f.Bad() {
				encodes(t, c, text, b, none)
			}
		}
	}
}

func TestLongTexts(t *testing.T) {
	for _, c := range legacyOf() {
		d, bytes, text := document(t, c), "", ""
		for _, b := range slices.Sorted(keys(d.texts)) {
			bytes, text = bytes+b, text+d.texts[b]
		}
		both(t, c, bytes, text)
		for _, other := range tenOf()[7:] { // what two charsets can write is written in the second as what was read of the first
			leadsBack(t, other, text)
			encodes(t, other, text+"\xff", "", undecodable(len(text)))
		}
		encodes(t, c, text+"\u0e01", "", unencodable(len(text)))
		both(t, c, strings.Repeat("a", 1<<12)+bytes, strings.Repeat("a", 1<<12)+text)
	}
}

// keys are a map's keys.
func keys(m map[string]string) func(func(string) bool) {
	return func(yield func(string) bool) {
		for k := range m {
			if !yield(k) {
				return
			}
		}
	}
}
