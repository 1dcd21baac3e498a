package detect

import (
	"diacritic/api"
	"diacritic/wansung"
)

// afterSmall is what a capital right behind a small letter takes off: words hardly have such, a wrong charset often does.
const afterSmall = 3

// score is the sum of what a text's signs weigh in a legacy charset, less what capitals behind small letters take off.
func score(c api.Charset, text string) int {
	sum, small := 0, false
	for _, p := range text {
		sum += weight(c, p)
		if small && isCapital(p) {
			sum -= afterSmall
		}
		small = isSmall(p)
	}
	return sum
}

// weight is how much a sign speaks for a legacy charset, or against it.
func weight(c api.Charset, p rune) int {
	if p < 0x80 {
		return plain(p)
	}
	switch c {
	case api.Latin1:
		return latin(p)
	case api.KOI8R, api.KOI8U, api.CP866:
		return cyrillic(p)
	case api.CP949, api.Johab:
		return korean(p)
	}
	return chinese(p)
}

// plain is the weight of a sign that all legacy charsets have at one byte.
func plain(p rune) int {
	switch {
	case p == '\t' || p == '\n' || p == '\r':
		return 0
	case p < 0x20 || p == 0x7F:
		return -6
	}
	return 0
}

// latin is the weight of a sign in Latin-1.
func latin(p rune) int {
	switch {
	case p < 0xA0:
		return -8
	case p <= 0xBF || p == 0xD7 || p == 0xF7: // marks and the like, no letters
		return -1
	}
	return 1
}

// cyrillic is the weight of a sign in the charsets of Cyrillic letters.
func cyrillic(p rune) int {
	switch {
	case isSmall(p):
		return 4
	case isCapital(p):
		return 2
	}
	return -4
}

// korean is the weight of a sign in the charsets of syllables.
func korean(p rune) int {
	_, inRows, syllable := wansung.Rank(p)
	switch {
	case inRows:
		return 6
	case syllable:
		return 2
	case p >= 0x3131 && p <= 0x318E: // parts of syllables, alone
		return -2
	}
	return 1
}

// chinese is the weight of a sign in Big5.
func chinese(p rune) int {
	if p >= 0x4E00 && p <= 0x9FFF {
		return 5
	}
	return 1
}

// isSmall says whether a sign is a small letter of Cyrillic.
func isSmall(p rune) bool { return p >= 0x430 && p <= 0x45F || p == 0x491 }

// isCapital says whether a sign is a capital of Cyrillic.
func isCapital(p rune) bool { return p >= 0x400 && p <= 0x42F || p == 0x490 }
