package charset

import "diacritic/api"

// nameless is told of a number that is no charset's. It stands beside the names, as Named must not find it.
const nameless = "none"

// named is a name, and the charset that has it.
type named struct {
	name    string
	charset api.Charset
}

// names are all names, of each charset the first one ahead.
var names = [...]named{
	{"latin1", api.Latin1},
	{"iso-8859-1", api.Latin1},
	{"latin-1", api.Latin1},
	{"koi8-r", api.KOI8R},
	{"koi8r", api.KOI8R},
	{"koi8-u", api.KOI8U},
	{"koi8u", api.KOI8U},
	{"cp866", api.CP866},
	{"ibm866", api.CP866},
	{"cp949", api.CP949},
	{"euc-kr", api.CP949},
	{"uhc", api.CP949},
	{"johab", api.Johab},
	{"cp1361", api.Johab},
	{"big5-hkscs", api.Big5},
	{"big5", api.Big5},
	{"utf-8", api.UTF8},
	{"utf8", api.UTF8},
	{"utf-16le", api.UTF16L},
	{"utf16le", api.UTF16L},
	{"utf-16be", api.UTF16B},
	{"utf16be", api.UTF16B},
}

// Name is a charset's first name; the word none, if there is no such charset.
func Name(c api.Charset) string {
	for _, n := range names {
		if n.charset == c {
			return n.name
		}
	}
	return nameless
}

// Named is the charset of a name; false: there is none.
func Named(label string) (api.Charset, bool) {
	small := lower(label)
	for _, n := range names {
		if n.name == small {
			return n.charset, true
		}
	}
	return 0, false
}

// lower is a text, its capitals A to Z as small letters. The library's takes other signs as letters, too: the Kelvin sign as a k.
func lower(s string) string {
	b := []byte(s)
	for i, c := range b {
		if c >= 'A' && c <= 'Z' {
			b[i] = c - 'A' + 'a'
		}
	}
	return string(b)
}
