package big5

// The second bytes, low and high ones; so many cells are those of low ones.
const (
	firstLow  = 0x40
	lastLow   = 0x7E
	firstHigh = 0xA1
	lastHigh  = 0xFE
	lowCells  = lastLow - firstLow + 1
)

// cellOf is the cell of a second byte, counted from 0 on; false: it is none.
func cellOf(second byte) (int, bool) {
	switch {
	case second >= firstLow && second <= lastLow:
		return int(second - firstLow), true
	case second >= firstHigh && second <= lastHigh:
		return lowCells + int(second-firstHigh), true
	}
	return 0, false
}

// secondOf is the second byte of a cell.
func secondOf(cell int) int {
	if cell < lowCells {
		return firstLow + cell
	}
	return firstHigh + cell - lowCells
}

// codeOfBytes is two bytes as one code.
func codeOfBytes(lead, second byte) int { return int(lead)<<8 | int(second) }

// codeOfCell is the code of a row's cell.
func codeOfCell(lead byte, cell int) int { return int(lead)<<8 | secondOf(cell) }
