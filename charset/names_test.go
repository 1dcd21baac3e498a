package charset_test

import (
	"strings"
	"testing"

	"diacritic/api"
	"diacritic/charset"
)

// named fails a test, if a name isn't such a charset's (false: none's).
func named(t *testing.T, label string, want api.Charset, ok bool) {
	t.Helper()
	if c, had := charset.Named(label); c != want || had != ok {
		t.Errorf("Named(%q): %d, %v; should be %d, %v", label, c, had, want, ok)
	}
}

func TestName(t *testing.T) {
	for c, list := range names(t) {
		if got := charset.Name(c); got != list[0] {
			t.Errorf("Name(%d): %q; should be %q", c, got, list[0])
		}
		named(t, charset.Name(c), c, true)
	}
}

func TestNameOfNoCharset(t *testing.T) {
	for _, c := range wrong() {
		if got := charset.Name(c); got != "none" {
			t.Errorf("Name(%d): %q; should be %q", c, got, "none")
		}
		named(t, charset.Name(c), 0, false) // what is told there is no charset's name
	}
	for c := range api.Charset(1000) {
		if got := charset.Name(c); (got == "none") != (c >= 10) {
			t.Errorf("Name(%d): %q", c, got)
		}
		if got := charset.Name(-1 - c); got != "none" {
			t.Errorf("Name(%d): %q; should be %q", -1-c, got, "none")
		}
	}
}

func TestNamesInSmallLettersAndCapitals(t *testing.T) {
	for name, c := range owners(t) {
		named(t, name, c, true)
		named(t, strings.ToUpper(name), c, true)
		named(t, strings.ToUpper(name[:1])+name[1:], c, true)
		for mask := range 1 << len(name) { // some letters of it are capitals
			mixed := []byte(name)
			for i := range mixed {
				if mask>>i&1 == 1 && mixed[i] >= 'a' && mixed[i] <= 'z' {
					mixed[i] -= 0x20
				}
			}
			named(t, string(mixed), c, true)
		}
	}
	for label, c := range map[string]api.Charset{"EUC-KR": 4, "Latin1": 0, "ISO-8859-1": 0, "KOI8-R": 1, "koi8-U": 2, "IBM866": 3, "CP949": 4, "UHC": 4, "CP1361": 5, "Big5-HKSCS": 6, "UTF-8": 7, "utf-16LE": 8, "UTF16BE": 9} {
		named(t, label, c, true)
	}
}

// small is a label, its capitals A to Z as small letters.
func small(label string) string {
	out := ""
	for i := range len(label) {
		c := label[i : i+1]
		if at := strings.Index("ABCDEFGHIJKLMNOPQRSTUVWXYZ", c); at >= 0 {
			c = "abcdefghijklmnopqrstuvwxyz"[at : at+1]
		}
		out += c
	}
	return out
}

func TestNamesOfWhichOneByteIsOther(t *testing.T) {
	all := owners(t)
	for name := range all {
		for at := range len(name) {
			for v := range 0x100 {
				b := string([]byte{byte(v)})
				for _, label := range []string{name[:at] + b + name[at+1:], name[:at] + b + name[at:], name + b} {
					c, ok := all[small(label)]
					named(t, label, c, ok)
				}
			}
			label := name[:at] + name[at+1:] // one byte less
			c, ok := all[label]
			named(t, label, c, ok)
		}
	}
}

func TestNoNames(t *testing.T) {
	for _, label := range []string{
		"none", "None", "NONE", "", " ", "-", "a", "@", "[", "`", "{", "\x00", "0", "7", "latin", "latin2", "latin-2", "iso8859-1", "iso-8859-2", "koi8", "koi-8r", "koi8-t", "cp", "cp86", "cp8666", "euckr", "euc", "utf", "utf-", "utf-16", "utf16", "utf-32", "utf_8",
		" utf8", "utf8 ", "utf8\n", "utf8\x00", "\ufeffutf8", "utf8,utf-8", "Latin1, latin-1", "UTF16L", "UTF16B", "KOI8R 1", "big5hkscs", "big-5", "big5-", "x-johab", "ks_c_5601-1987", "cp1251",
		"@", "l@tin1", "big5-hksc[", "`hc", "{hc", "koi8\rr", "cp\x19\x14\x19", "big\x15",
		"\u212aoi8-r", "\u212aOI8R", "EUC-\u212ar", "big5-h\u212ascs", // signs beside A to Z whose small letters are some, or are taken as some
		"big5-hk\u017fcs", "i\u017fo-8859-1", "lat\u0131n1", "LAT\u0130N1", "\uff55\uff54\uff468", "utf\u20118",
		strings.Repeat("utf8", 1000), strings.Repeat("\xff", 1000),
	} {
		named(t, label, 0, false)
	}
}
