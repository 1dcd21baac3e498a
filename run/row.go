package run

import "diacritic/point"

// row is codes, one behind the other, whose signs' numbers are one behind the other, too.
type row struct {
	from  int
	to    rune
	count int
}

// end is the code behind a row's last one.
func (r row) end() int { return r.from + r.count }

// last is the number of a row's last sign.
func (r row) last() rune { return r.to + rune(r.count-1) }

// side is where a code stands: 0 in a row, below 0 ahead of it, above 0 behind it.
func (r row) side(code int) int {
	switch {
	case code < r.from:
		return -1
	case code >= r.end():
		return 1
	}
	return 0
}

// sign is the sign of a code that a row has.
func (r row) sign(code int) rune { return r.to + rune(code-r.from) }

// tells says whether a row has a sign.
func (r row) tells(p rune) bool { return r.to <= p && p <= r.last() }

// code is the code of a sign that a row has.
func (r row) code(p rune) int { return r.from + int(p-r.to) }

// part is a row's codes from one on, up to another one.
func (r row) part(from, end int) row {
	return row{from: from, to: r.sign(from), count: end - from}
}

// signs says whether all numbers of a row that has codes are signs'. Between two signs on one side of the numbers that are none, all are.
func (r row) signs() bool {
	return point.Scalar(r.to) && point.Scalar(r.last()) && (r.to < firstNone) == (r.last() < firstNone)
}

// noted is which codes some row has.
type noted []bool

// note notes the codes of rows; false: one of them is noted by now.
func (n *noted) note(rows ...row) bool {
	for _, r := range rows {
		if r.end() > len(*n) {
			*n = append(*n, make([]bool, r.end()-len(*n))...)
		}
		for code := r.from; code < r.end(); code++ {
			if (*n)[code] {
				return false
			}
			(*n)[code] = true
		}
	}
	return true
}
