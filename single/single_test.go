package single_test

import (
	"maps"
	"math"
	"slices"
	"strconv"
	"strings"
	"testing"

	"diacritic/api"
	"diacritic/run"
	"diacritic/single"
)

// koi8r is the rows of KOI8-R, as the document has them.
const koi8r = `
	80: 2500 2502 250C 2510 2514 2518 251C 2524 252C 2534 253C 2580 2584 2588 258C 2590
	90: 2591 2592 2593 2320 25A0 2219 221A 2248 2264 2265 00A0 2321 00B0 00B2 00B7 00F7
	A0: 2550 2551 2552 0451 2553 2554 2555 2556 2557 2558 2559 255A 255B 255C 255D 255E
	B0: 255F 2560 2561 0401 2562 2563 2564 2565 2566 2567 2568 2569 256A 256B 256C 00A9
	C0: 044E 0430 0431 0446 0434 0435 0444 0433 0445 0438 0439 043A 043B 043C 043D 043E
	D0: 043F 044F 0440 0441 0442 0443 0436 0432 044C 044B 0437 0448 044D 0449 0447 044A
	E0: 042E 0410 0411 0426 0414 0415 0424 0413 0425 0418 0419 041A 041B 041C 041D 041E
	F0: 041F 042F 0420 0421 0422 0423 0416 0412 042C 042B 0417 0428 042D 0429 0427 042A
`

// cp866 is the rows of CP866 that the document has.
const cp866 = `
	B0: 2591 2592 2593 2502 2524 2561 2562 2556 2555 2563 2551 2557 255D 255C 255B 2510
	C0: 2514 2534 252C 251C 2500 253C 255E 255F 255A 2554 2569 2566 2560 2550 256C 2567
	D0: 2568 2564 2565 2559 2558 2552 2553 256B 256A 2518 250C 2588 2584 258C 2590 2580
	F0: 0401 0451 0404 0454 0407 0457 040E 045E 00B0 2219 00B7 221A 2116 00A4 25A0 00A0
`

// four are the charsets of one byte a sign.
func four() []api.Charset { return []api.Charset{api.Latin1, api.KOI8R, api.KOI8U, api.CP866} }

// laid notes the document's rows of bytes and their signs.
func laid(m map[int]rune, rows string) {
	number := func(s string) int {
		n, err := strconv.ParseInt(strings.TrimSuffix(s, ":"), 16, 32)
		if err != nil {
			panic(err)
		}
		return int(n)
	}
	for _, line := range strings.Split(strings.TrimSpace(rows), "\n") {
		words := strings.Fields(line)
		for i, w := range words[1:] {
			m[number(words[0])+i] = rune(number(w))
		}
	}
}

// told is a charset's bytes and their signs, by the document's words alone.
func told(c api.Charset) map[int]rune {
	m := map[int]rune{}
	for b := range 0x100 {
		if b < 0x80 || c == api.Latin1 {
			m[b] = rune(b)
		}
	}
	switch c {
	case api.KOI8R, api.KOI8U:
		laid(m, koi8r)
	case api.CP866:
		laid(m, cp866)
		for b := range 0x30 {
			m[0x80+b] = 0x0410 + rune(b)
		}
		for b := range 0x10 {
			m[0xE0+b] = 0x0440 + rune(b)
		}
	}
	if c == api.KOI8U {
		maps.Copy(m, map[int]rune{0xA4: 0x0454, 0xA6: 0x0456, 0xA7: 0x0457, 0xAD: 0x0491, 0xB4: 0x0404, 0xB6: 0x0406, 0xB7: 0x0407, 0xBD: 0x0490})
	}
	return m
}

// of is a charset that there is.
func of(t *testing.T, c api.Charset) single.Set {
	t.Helper()
	s, ok := single.Of(c)
	if !ok || s.Charset != c {
		t.Fatalf("Of(%d): %v, %v", c, s.Charset, ok)
	}
	return s
}

// decodes fails a test, if bytes don't come to a text, or to a fault.
func decodes(t *testing.T, s single.Set, b, text string, fault api.Fault) {
	t.Helper()
	if got, f := s.Decode(b); got != text || f != fault {
		t.Errorf("%d: Decode(%x): %q, %v; should be %q, %v", s.Charset, b, got, f, text, fault)
	}
}

// encodes fails a test, if a text doesn't come to bytes, or to a fault.
func encodes(t *testing.T, s single.Set, text, b string, fault api.Fault) {
	t.Helper()
	if got, f := s.Encode(text); got != b || f != fault {
		t.Errorf("%d: Encode(%q): %x, %v; should be %x, %v", s.Charset, text, got, f, b, fault)
	}
}

// undecodable is a fault.
func undecodable(at int) api.Fault { return api.Fault{Errno: api.ErrUndecodable, At: at} }

// unencodable is a fault.
func unencodable(at int) api.Fault { return api.Fault{Errno: api.ErrUnencodable, At: at} }

func TestExamples(t *testing.T) {
	decodes(t, of(t, api.KOI8R), "\xc1\xc2", "\u0430\u0431", api.Fault{})
	decodes(t, of(t, api.CP866), "\x80\xa0\xe0", "\u0410\u0430\u0440", api.Fault{})
	decodes(t, of(t, api.KOI8U), "\xb4", "\u0404", api.Fault{})
	decodes(t, of(t, api.KOI8R), "\xb4", "\u2562", api.Fault{})
	encodes(t, of(t, api.Latin1), "\u0404", "", unencodable(0))
}

func TestAllBytes(t *testing.T) {
	for _, c := range four() {
		s, m := of(t, c), told(c)
		if len(m) != 0x100 || s.Size() != len(m) {
			t.Fatal(c, len(m), s.Size())
		}
		bytes, text := "", ""
		for b := range 0x100 {
			bytes += string([]byte{byte(b)})
			text += string(m[b])
			decodes(t, s, bytes[b:], string(m[b]), api.Fault{})
			encodes(t, s, string(m[b]), bytes[b:], api.Fault{})
			decodes(t, s, bytes, text, api.Fault{})
			encodes(t, s, text, bytes, api.Fault{})
		}
		decodes(t, s, "", "", api.Fault{})
		encodes(t, s, "", "", api.Fault{})
	}
}

func TestSetsAreTables(t *testing.T) {
	for _, c := range four() {
		s, m := of(t, c), told(c)
		var pairs []run.Pair
		for _, b := range slices.Sorted(maps.Keys(m)) {
			pairs = append(pairs, run.Pair{Code: b, Point: m[b]})
		}
		if got := s.Pairs(); !slices.Equal(got, pairs) || !slices.Equal(s.Table.Pairs(), pairs) {
			t.Errorf("%d: Pairs: %v; should be %v", c, got, pairs)
		}
		for _, b := range []int{math.MinInt, -1, 0x100, 0x180, math.MaxInt} {
			if p, ok := s.Forward(b); p != 0 || ok {
				t.Errorf("%d: Forward(%d): %x, %v", c, b, p, ok)
			}
		}
	}
}

func TestSignsWithoutAByte(t *testing.T) {
	for _, c := range four() {
		s, has := of(t, c), map[rune]int{}
		for b, p := range told(c) {
			has[p] = b + 1
		}
		for p := rune(0); p <= 0x10FFFF; p++ {
			if p >= 0xD800 && p < 0xE000 {
				continue
			}
			code, ok := s.Reverse(p)
			if want := has[p]; ok != (want > 0) || ok && code != want-1 {
				t.Fatalf("%d: Reverse(%x): %x, %v; should be %x", c, p, code, ok, want-1)
			}
			if has[p] == 0 && (p < 0x3000 || p > 0x10FFF0) {
				encodes(t, s, string(p), "", unencodable(0))
				encodes(t, s, "ab\u00b0"+string(p)+"c", "", unencodable(4))
			}
		}
	}
}

func TestFirstFault(t *testing.T) {
	for _, c := range four() {
		s := of(t, c)
		encodes(t, s, "a\u00b7\u4e00b\uac00", "", unencodable(3))
		encodes(t, s, "\ufffd", "", unencodable(0))
		// A text that isn't made of signs is told first, wherever that is.
		encodes(t, s, "\xff", "", undecodable(0))
		encodes(t, s, "a\xffb", "", undecodable(1))
		encodes(t, s, "a\u4e00b\xff", "", undecodable(5))
		encodes(t, s, "a\xed\xa0\x80\u4e00", "", undecodable(1))
		encodes(t, s, "\u00b0\xc3", "", undecodable(2))
	}
}

func TestOtherCharsets(t *testing.T) {
	for _, c := range []api.Charset{math.MinInt, -1, api.CP949, api.Johab, api.Big5, api.UTF8, api.UTF16L, api.UTF16B, 10, 256, math.MaxInt} {
		s, ok := single.Of(c)
		if ok || s.Charset != 0 || s.Size() != 0 || len(s.Pairs()) != 0 {
			t.Errorf("Of(%d): %v, %v", c, s, ok)
		}
		empty(t, s)
	}
	empty(t, single.Set{})
}

// empty fails a test, if a Set has a code.
func empty(t *testing.T, s single.Set) {
	t.Helper()
	decodes(t, s, "", "", api.Fault{})
	encodes(t, s, "", "", api.Fault{})
	decodes(t, s, "\xff", "", undecodable(0))
	encodes(t, s, "\u00e9a", "", unencodable(0))
	encodes(t, s, "\u00e9\xff", "", undecodable(2))
	for b := range 0x100 {
		decodes(t, s, string([]byte{byte(b), 'a'}), "", undecodable(0))
		encodes(t, s, string(rune(b)), "", unencodable(0))
	}
}
