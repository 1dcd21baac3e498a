package charset_test

import (
	"strconv"
	"strings"
	"testing"

	"diacritic/api"
	"diacritic/big5"
	"diacritic/johab"
	"diacritic/single"
	"diacritic/wansung"
)

// documentNames are the charsets, as the document has them.
const documentNames = "Latin1 0: latin1, iso-8859-1, latin-1; KOI8R 1: koi8-r, koi8r; KOI8U 2: koi8-u, koi8u; CP866 3: cp866, ibm866; CP949 4: cp949, euc-kr, uhc; Johab 5: johab, cp1361; Big5 6: big5-hkscs, big5; UTF8 7: utf-8, utf8; UTF16L 8: utf-16le, utf16le; UTF16B 9: utf-16be, utf16be"

// tenOf are all charsets.
func tenOf() []api.Charset {
	return []api.Charset{api.Latin1, api.KOI8R, api.KOI8U, api.CP866, api.CP949, api.Johab, api.Big5, api.UTF8, api.UTF16L, api.UTF16B}
}

// legacyOf are the legacy ones.
func legacyOf() []api.Charset { return tenOf()[:7] }

// mixedOf are those of one byte or two a sign.
func mixedOf() []api.Charset { return []api.Charset{api.CP949, api.Johab, api.Big5} }

// names are each charset's names, in order.
func names(t *testing.T) map[api.Charset][]string {
	t.Helper()
	m := map[api.Charset][]string{}
	for part := range strings.SplitSeq(documentNames, "; ") {
		head, list, _ := strings.Cut(part, ": ")
		n, err := strconv.Atoi(strings.Fields(head)[1])
		if err != nil {
			t.Fatal(err)
		}
		m[api.Charset(n)] = strings.Split(list, ", ")
	}
	if len(m) != 10 {
		t.Fatalf("%d charsets", len(m))
	}
	return m
}

// owners are the charsets of all names.
func owners(t *testing.T) map[string]api.Charset {
	t.Helper()
	m := map[string]api.Charset{}
	for c, list := range names(t) {
		for _, name := range list {
			m[name] = c
		}
	}
	if len(m) != 22 {
		t.Fatalf("%d names", len(m))
	}
	return m
}

// told is a legacy charset by the document's words, of layers 5 to 8 what they tell sign by sign.
type told struct {
	texts map[string]string // the signs of one byte or two
	bytes map[string]string // the bytes of one sign or two
}

// add notes that bytes stand for signs.
func (d told) add(t *testing.T, bytes, text string) {
	t.Helper()
	if _, had := d.bytes[text]; had {
		t.Fatalf("%q has two pairs of bytes", text)
	}
	d.texts[bytes] = text
	d.bytes[text] = bytes
}

// document is a legacy charset by the document's words.
func document(t *testing.T, c api.Charset) told {
	t.Helper()
	d := told{map[string]string{}, map[string]string{}}
	if s, ok := single.Of(c); ok {
		for _, p := range s.Pairs() {
			d.add(t, string([]byte{byte(p.Code)}), string(p.Point))
		}
		return d
	}
	for b := range 0x80 {
		d.add(t, string([]byte{byte(b)}), string(rune(b)))
	}
	for code := 0x8000; code < 0x10000; code++ {
		if s, ok := signsOf(t, c, byte(code>>8), byte(code)); ok {
			d.add(t, string([]byte{byte(code >> 8), byte(code)}), s)
		}
	}
	return d
}

// signsOf are the signs of two bytes in a charset of such.
func signsOf(t *testing.T, c api.Charset, lead, second byte) (string, bool) {
	t.Helper()
	switch c {
	case api.CP949:
		p, ok := wansung.Sign(lead, second)
		return string(p), ok
	case api.Johab:
		p, ok := johab.Sign(lead, second)
		return string(p), ok
	case api.Big5:
		return big5.Signs(lead, second)
	}
	t.Fatal(c)
	return "", false
}

// decoded is the text of bytes, sign by sign, or the first place at which none stands; below 0: there is no such place.
func (d told) decoded(b string) (string, int) {
	text := ""
	for at := 0; at < len(b); {
		n := 1
		s, ok := d.texts[b[at:at+1]]
		if !ok && at+2 <= len(b) {
			n = 2
			s, ok = d.texts[b[at:at+2]]
		}
		if !ok {
			return "", at
		}
		text += s
		at += n
	}
	return text, -1
}

// encoded is the bytes of a text of signs, two at once wherever they have such, or the first place at which one has none; below 0: there is no such place.
func (d told) encoded(text string) (string, int) {
	bytes := ""
	for at := 0; at < len(text); {
		n, two := 0, 0
		for i, p := range text[at:] {
			two = i + len(string(p))
			if n > 0 {
				break
			}
			n = two
		}
		if b, ok := d.bytes[text[at:at+two]]; ok && two > n {
			bytes += b
			at += two
			continue
		}
		b, ok := d.bytes[text[at:at+n]]
		if !ok {
			return "", at
		}
		bytes += b
		at += n
	}
	return bytes, -1
}
