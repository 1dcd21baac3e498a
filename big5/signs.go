package big5

import (
	"strings"

	"diacritic/point"
)

// twoSigns is two signs at once.
type twoSigns [2]rune

// double is a code that has two signs at once.
type double struct {
	code  int
	signs twoSigns
}

// doubles are all codes that have two signs at once: a letter with its mark, and a mark above both.
var doubles = [...]double{
	{0x8862, twoSigns{0x00CA, 0x0304}},
	{0x8864, twoSigns{0x00CA, 0x030C}},
	{0x88A3, twoSigns{0x00EA, 0x0304}},
	{0x88A5, twoSigns{0x00EA, 0x030C}},
}

// twoOf are the two signs at once of two bytes; false: they have none.
func twoOf(lead, second byte) (twoSigns, bool) {
	for _, d := range doubles {
		if d.code == codeOfBytes(lead, second) {
			return d.signs, true
		}
	}
	return twoSigns{}, false
}

// codeOfTwo is the code of two signs at once; false: they have none.
func codeOfTwo(two twoSigns) (int, bool) {
	for _, d := range doubles {
		if d.signs == two {
			return d.code, true
		}
	}
	return 0, false
}

// signOf is the one sign of two bytes; false: they have none. To make a table of a row for one sign would take too long.
func signOf(lead, second byte) (rune, bool) {
	cell, ok := cellOf(second)
	if !ok {
		return 0, false
	}
	for _, piece := range row(lead) {
		if p, ok := signAt(piece.Text, cell-piece.From); ok {
			return p, true
		}
	}
	return 0, false
}

// codeOfSign is the code of one sign; false: it has none.
func codeOfSign(p rune) (int, bool) {
	for i := range len(leads) {
		for _, piece := range row(leads[i]) {
			if at := strings.IndexRune(piece.Text, p); at >= 0 {
				return codeOfCell(leads[i], piece.From+point.Count(piece.Text[:at])), true
			}
		}
	}
	return 0, false
}

// signAt is the sign of a text that has so many ahead; false: there is none.
func signAt(text string, ahead int) (rune, bool) {
	for _, p := range text {
		if ahead == 0 {
			return p, true
		}
		ahead--
	}
	return 0, false
}
