package unsync_test

import (
	"strings"
	"testing"

	"diacritic/unsync"
)

func TestExamples(t *testing.T) {
	puts(t, "\xff\xe0", "\xff\x00\xe0")
	puts(t, "\xff\x00", "\xff\x00\x00")
	puts(t, "\xff\x41", "\xff\x41")
	puts(t, "\xff", "\xff\x00")
	drops(t, "\xff\x00\x00", "\xff\x00")
}

func TestTextsThatAreClean(t *testing.T) {
	for _, b := range []string{
		"", "a", "\x00", "\x00\x00", "\xe0", "\xfe", "\xfe\xff\x41", "\xdf\xe0\xfe", "\x00\xe0\xfe\x00", "\xff\x01", "\xff\xdf", "\xff\x7f", "\xff\x80",
		"\xff\xdf\xff\xdf", "\xff\xdf\x00", "\xff\xdf\xe0", "\xff\x41\x00", "ID3\x04\x00\x00", strings.Repeat("\xff\x41", 9),
	} {
		puts(t, b, b)
	}
}

func TestTextsThatAreNot(t *testing.T) {
	for b, want := range map[string]string{
		"\xff":                         "\xff\x00",
		"a\xff":                        "a\xff\x00",
		"\x00\xff":                     "\x00\xff\x00",
		"\xff\xff":                     "\xff\x00\xff\x00",
		"\xff\xff\xff":                 "\xff\x00\xff\x00\xff\x00",
		"\xff\xff\xff\x41":             "\xff\x00\xff\x00\xff\x41",
		"\xff\x00":                     "\xff\x00\x00",
		"\xff\x00\x00":                 "\xff\x00\x00\x00",
		"\xff\x00\x00\x00":             "\xff\x00\x00\x00\x00",
		"\xff\x00\xff":                 "\xff\x00\x00\xff\x00",
		"\xff\x00\xff\x00":             "\xff\x00\x00\xff\x00\x00",
		"\xff\x00\xe0":                 "\xff\x00\x00\xe0",
		"\xff\xff\x00\x00":             "\xff\x00\xff\x00\x00\x00",
		"\xff\xe0":                     "\xff\x00\xe0",
		"\xff\xe1":                     "\xff\x00\xe1",
		"\xff\xfb\x90\x64":             "\xff\x00\xfb\x90\x64",
		"\xff\xfe":                     "\xff\x00\xfe",
		"\xff\xfea\x00":                "\xff\x00\xfea\x00",
		"\xfe\xff\x00a":                "\xfe\xff\x00\x00a",
		"\xff\xdf\xff":                 "\xff\xdf\xff\x00",
		"\xff\xe0\xff\xe0":             "\xff\x00\xe0\xff\x00\xe0",
		"\xff\xe0\xff\xdf":             "\xff\x00\xe0\xff\xdf",
		"\xff\xdf\xff\xe0":             "\xff\xdf\xff\x00\xe0",
		"a\xff\x00b\xff\xe0c\xff\x01d": "a\xff\x00\x00b\xff\x00\xe0c\xff\x01d",
	} {
		puts(t, b, want)
	}
}

func TestDrop(t *testing.T) {
	for b, want := range map[string]string{
		"":                         "",
		"a":                        "a",
		"\x00":                     "\x00",
		"\x00\x00":                 "\x00\x00",
		"\x00\xff":                 "\x00\xff",
		"\xff":                     "\xff",
		"\xff\xff":                 "\xff\xff",
		"\xff\xe0":                 "\xff\xe0",
		"\xff\xdf":                 "\xff\xdf",
		"\xff\xfe\x00":             "\xff\xfe\x00",
		"\xff\x41\x00":             "\xff\x41\x00",
		"\xff\x00":                 "\xff",
		"a\xff\x00":                "a\xff",
		"\xff\x00\x00":             "\xff\x00",
		"\xff\x00\x00\x00":         "\xff\x00\x00",
		"\xff\xff\x00\x00":         "\xff\xff\x00",
		"\xff\x00\xff\x00":         "\xff\xff",
		"\xff\x00\xff\x00\x00":     "\xff\xff\x00",
		"\xff\x00\x00\xff\x00\x00": "\xff\x00\xff\x00",
		"\xff\x00\xe0":             "\xff\xe0",
		"\xff\x00\x41":             "\xff\x41", // this 00 was never put
		"\xff\x00\xdf":             "\xff\xdf", // likewise
		"\xff\x00\xfe\xff\x00":     "\xff\xfe\xff",
		"\x00\xff\x00\x00\xff":     "\x00\xff\x00\xff",
		"\xfe\x00\xff\x00\xfe\x00": "\xfe\x00\xff\xfe\x00",
		"a\x00b\xff\x00c\x00\x00d": "a\x00b\xffc\x00\x00d",
	} {
		drops(t, b, want)
	}
}

func TestEachTwoBytes(t *testing.T) {
	for code := range 0x10000 {
		b := string([]byte{byte(code >> 8), byte(code)})
		follows(t, b)
		follows(t, b[1:])
	}
}

func TestEachByteBehindAnother(t *testing.T) {
	for code := range 0x10000 {
		b := string([]byte{byte(code >> 8), byte(code)})
		follows(t, "\xff"+b)
		follows(t, b+"\xff")
		follows(t, b+"\x00")
		follows(t, b+"\xe0")
	}
}

func TestRowsOfBytes(t *testing.T) {
	some := []byte{0x00, 0x01, 0x41, 0xDF, 0xE0, 0xFE, 0xFF}
	rows := []string{""}
	for range 6 {
		var longer []string
		for _, row := range rows {
			follows(t, row)
			for _, b := range some {
				longer = append(longer, row+string([]byte{b}))
			}
		}
		rows = longer
	}
	for _, row := range rows {
		follows(t, row)
	}
}

func TestLongTexts(t *testing.T) {
	n := 1 << 20
	puts(t, strings.Repeat("\xff", n), strings.Repeat("\xff\x00", n))
	puts(t, strings.Repeat("\xff\x00", n), strings.Repeat("\xff\x00\x00", n))
	puts(t, strings.Repeat("\xff\xe0", n), strings.Repeat("\xff\x00\xe0", n))
	puts(t, strings.Repeat("\x00\xff\x41", n), strings.Repeat("\x00\xff\x41", n))
	drops(t, strings.Repeat("\xff", n)+strings.Repeat("\x00", n), strings.Repeat("\xff", n)+strings.Repeat("\x00", n-1))
}

// puts tells where a text doesn't come out of Put as wanted, or doesn't come back of it.
func puts(t *testing.T, b, want string) {
	t.Helper()
	got := unsync.Put(b)
	if got != want {
		t.Errorf("Put of %s: %s; should be %s", short(b), short(got), short(want))
	}
	if n := unsync.Extra(b); n != len(want)-len(b) {
		t.Errorf("Extra of %s: %d; should be %d", short(b), n, len(want)-len(b))
	}
	if clean := unsync.Clean(b); clean != (b == want) {
		t.Errorf("Clean of %s: %t", short(b), clean)
	}
	drops(t, got, b)
}

// drops tells where a text doesn't come out of Drop as wanted.
func drops(t *testing.T, b, want string) {
	t.Helper()
	if got := unsync.Drop(b); got != want {
		t.Errorf("Drop of %s: %s; should be %s", short(b), short(got), short(want))
	}
}

// follows tells where a text comes out otherwise than the document's words say.
func follows(t *testing.T, b string) {
	t.Helper()
	puts(t, b, put(b))
	drops(t, b, strings.ReplaceAll(b, "\xff\x00", "\xff"))
	s := unsync.Put(b)
	if strings.HasSuffix(s, "\xff") {
		t.Errorf("Put of %q: FF is the last byte of %q", b, s)
	}
	for _, behind := range strings.Split(s, "\xff")[1:] {
		if behind == "" || behind[0] >= 0xE0 {
			t.Errorf("Put of %q: sound begins in %q", b, s)
		}
	}
}

// put is a text as the document's words have it put: cut behind each FF, and told by what comes then.
func put(b string) string {
	ahead, behind, found := strings.Cut(b, "\xff")
	if !found {
		return b
	}
	if behind == "" || behind[0] == 0 || behind[0] >= 0xE0 {
		return ahead + "\xff\x00" + put(behind)
	}
	return ahead + "\xff" + put(behind)
}

// short is a text as it is told: no more than its beginning.
func short(b string) string {
	const most = 16
	var s strings.Builder
	for i := 0; i < len(b) && i < most; i++ {
		s.WriteString(" " + string("0123456789ABCDEF"[b[i]>>4]) + string("0123456789ABCDEF"[b[i]&15]))
	}
	if len(b) > most {
		s.WriteString(" ..")
	}
	return "[" + strings.TrimSpace(s.String()) + "]"
}
