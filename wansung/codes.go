package wansung

// Both bytes in the rows are from rowFirst to rowLast; firstPlace is the place of the first syllable there.
const (
	rowFirst   = 0xA1
	rowLast    = 0xFE
	rowSize    = rowLast - rowFirst + 1
	firstPlace = 1410
)

// The second bytes beside syllables that aren't in the rows: capitals, small letters, all above. Ahead of each of these stand so many others.
const (
	firstCapital  = 0x41
	lastCapital   = 0x5A
	firstSmall    = 0x61
	lastSmall     = 0x7A
	firstHigh     = 0x81
	lastHigh      = 0xFE
	capitalsAhead = 0
	smallAhead    = capitalsAhead + lastCapital - firstCapital + 1
	highAhead     = smallAhead + lastSmall - firstSmall + 1
)

// Ahead of the rows a first byte has all second bytes; beside the rows it has those that the rows leave.
const (
	firstLead   = 0x81
	fullSize    = highAhead + lastHigh - firstHigh + 1
	shortSize   = highAhead + rowFirst - firstHigh
	besideFirst = (rowFirst - firstLead) * fullSize
)

// inRows says whether two bytes are in the rows.
func inRows(lead, second byte) bool {
	return lead >= rowFirst && lead <= rowLast && second >= rowFirst && second <= rowLast
}

// place is the place of two bytes in the rows.
func place(lead, second byte) int { return int(lead-rowFirst)*rowSize + int(second-rowFirst) }

// codeOfPlace is the code of a place in the rows.
func codeOfPlace(k int) int { return (rowFirst+k/rowSize)<<8 | (rowFirst + k%rowSize) }

// extraOfBytes is the syllable of two bytes that aren't in the rows; false: there is none.
func extraOfBytes(lead, second byte) (rune, bool) {
	n, ok := secondNumber(second)
	switch {
	case !ok || lead < firstLead:
		return 0, false
	case lead < rowFirst:
		return Extra(int(lead-firstLead)*fullSize + n)
	case n < shortSize:
		return Extra(besideFirst + int(lead-rowFirst)*shortSize + n)
	}
	return 0, false
}

// codeOfExtra is the code of a syllable that isn't in the rows, by its number among such.
func codeOfExtra(k int) int {
	if k < besideFirst {
		return (firstLead+k/fullSize)<<8 | secondByte(k%fullSize)
	}
	k -= besideFirst
	return (rowFirst+k/shortSize)<<8 | secondByte(k%shortSize)
}

// secondNumber is the number of a second byte beside syllables that aren't in the rows; false: it is none.
func secondNumber(b byte) (int, bool) {
	switch {
	case b >= firstCapital && b <= lastCapital:
		return capitalsAhead + int(b-firstCapital), true
	case b >= firstSmall && b <= lastSmall:
		return smallAhead + int(b-firstSmall), true
	case b >= firstHigh && b <= lastHigh:
		return highAhead + int(b-firstHigh), true
	}
	return 0, false
}

// secondByte is the second byte of a number.
func secondByte(n int) int {
	switch {
	case n < smallAhead:
		return firstCapital + n - capitalsAhead
	case n < highAhead:
		return firstSmall + n - smallAhead
	}
	return firstHigh + n - highAhead
}
