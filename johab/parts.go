package johab

import "strings"

// The kinds of parts, in the order of their codes.
const (
	initial = iota
	medial
	final
)

// The numbers of parts that aren't there. A final that isn't there counts as one, so that syllables without one have their number, too.
const (
	none    = -1
	noFinal = 0
)

// top is the first bit of two bytes, partMask the bits of one part's code, once it stands last.
const (
	top      = 1 << 15
	partMask = 1<<5 - 1
)

// kind is a kind of parts: the codes of its numbers, from the first number on, and how many bits stand behind such a code.
type kind struct {
	codes string
	first int
	shift int
}

// kinds are all kinds of parts.
var kinds = [...]kind{
	{"\x01\x02\x03\x04\x05\x06\x07\x08\x09\x0a\x0b\x0c\x0d\x0e\x0f\x10\x11\x12\x13\x14", none, 10},
	{"\x02\x03\x04\x05\x06\x07\x0a\x0b\x0c\x0d\x0e\x0f\x12\x13\x14\x15\x16\x17\x1a\x1b\x1c\x1d", none, 5},
	{"\x01\x02\x03\x04\x05\x06\x07\x08\x09\x0a\x0b\x0c\x0d\x0e\x0f\x10\x11\x13\x14\x15\x16\x17\x18\x19\x1a\x1b\x1c\x1d", noFinal, 0},
}

// consonants are the parts of the consonants that stand alone, in the order of these: an initial counted from A on, or a final counted from a on.
const consonants = "ABdCfgDEFjklmnopGHIsJKLMNOPQRS"

// parts are the numbers of three parts, one of each kind.
type parts [3]int

// partsOfCode are the parts that two bytes tell; false: one of their codes isn't there.
func partsOfCode(code int) (parts, bool) {
	if code&top == 0 {
		return parts{}, false
	}
	var p parts
	for k := range p {
		n, ok := number(k, code>>kinds[k].shift&partMask)
		if !ok {
			return parts{}, false
		}
		p[k] = n
	}
	return p, true
}

// number is the number of a part of some kind; false: there is no such code.
func number(k, code int) (int, bool) {
	i := strings.IndexByte(kinds[k].codes, byte(code))
	if i < 0 {
		return 0, false
	}
	return kinds[k].first + i, true
}

// code is the two bytes of parts that are there.
func (p parts) code() int {
	code := top
	for k, n := range p {
		code |= int(kinds[k].codes[n-kinds[k].first]) << kinds[k].shift
	}
	return code
}

// sign is the sign of parts; false: together they have none.
func (p parts) sign() (rune, bool) {
	switch {
	case p[medial] == none:
		return p.consonant()
	case p[initial] != none:
		return Syllable(p[initial], p[medial], p[final])
	case p[final] == noFinal:
		return rune(firstMedial + p[medial]), true
	}
	return 0, false
}

// consonant is the sign of an initial or a final, without a medial; false: there are both of them, or neither, or it doesn't stand alone.
func (p parts) consonant() (rune, bool) {
	if (p[initial] == none) == (p[final] == noFinal) {
		return 0, false
	}
	letter := 'A' + p[initial]
	if p[initial] == none {
		letter = 'a' + p[final]
	}
	i := strings.IndexByte(consonants, byte(letter))
	if i < 0 {
		return 0, false
	}
	return rune(firstConsonant + i), true
}

// partsOfSign are the parts of a sign; false: it has none.
func partsOfSign(p rune) (parts, bool) {
	switch {
	case firstSyllable <= p && p <= lastSyllable:
		n := int(p - firstSyllable)
		return parts{n / finals / medials, n / finals % medials, n % finals}, true
	case firstMedial <= p && p <= lastMedial:
		return parts{none, int(p - firstMedial), noFinal}, true
	case firstConsonant <= p && p <= lastConsonant:
		return partsOfLetter(consonants[p-firstConsonant]), true
	}
	return parts{}, false
}

// partsOfLetter are the parts of a consonant that stands alone.
func partsOfLetter(letter byte) parts {
	if letter >= 'a' {
		return parts{none, none, int(letter - 'a')}
	}
	return parts{int(letter - 'A'), none, noFinal}
}
