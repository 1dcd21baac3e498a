// Package point is layer 2: signs, and texts made of them; see shared/doc/02-point.md.
package point

import (
	"unicode/utf8"

	"diacritic/api"
)

// Scalar says whether a number is that of a sign.
func Scalar(p rune) bool { return utf8.ValidRune(p) }

// Text is signs as a text; false: a number is no sign's.
func Text(points ...rune) (string, bool) {
	b := make([]byte, 0, len(points))
	for _, p := range points {
		if !Scalar(p) {
			return "", false
		}
		b = utf8.AppendRune(b, p)
	}
	return string(b), true
}

// Points are a text's signs, or where there is none.
func Points(s string) ([]rune, api.Fault) {
	if f := Check(s); f.Bad() {
		return nil, f
	}
	return []rune(s), api.Fault{}
}

// Check is where a text has no sign.
func Check(s string) api.Fault {
	for at, p := range s {
		if p == utf8.RuneError && !signAt(s[at:]) {
			return api.Fault{Errno: api.ErrUndecodable, At: at}
		}
	}
	return api.Fault{}
}

// Valid says whether a text is made of signs.
func Valid(s string) bool { return utf8.ValidString(s) }

// Count is how many signs a text has; 0, if it isn't made of signs.
func Count(s string) int {
	if !Valid(s) {
		return 0
	}
	return utf8.RuneCountInString(s)
}

// Plain says whether all bytes of a text are below 128.
func Plain(s string) bool {
	for i := range len(s) {
		if s[i] >= utf8.RuneSelf {
			return false
		}
	}
	return true
}

// signAt says whether a sign stands ahead. The sign FFFD is what the library tells where none does, too: only how many bytes it has keeps them apart.
func signAt(s string) bool {
	_, size := utf8.DecodeRuneInString(s)
	return size > 1
}
