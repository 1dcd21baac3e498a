package octet

import (
	"math"
	"strings"

	"diacritic/api"
)

// In is a text that is read, from its beginning on, and where that stands in a greater one. The zero one has no bytes.
type In struct {
	text  string
	read  int
	base  int
	fault api.Fault
}

// Read is a text that is to be read.
func Read(text string) *In { return Inner(text, 0) }

// Inner is a text that is to be read, that stands at a place of a greater one.
func Inner(text string, base int) *In {
	return &In{text: text, base: max(base, 0)}
}

// Left is how many bytes aren't read.
func (r *In) Left() int {
	if r.stopped() {
		return 0
	}
	return len(r.text) - r.read
}

// At is the place of the next byte.
func (r *In) At() int {
	if r == nil {
		return 0
	}
	return r.place(r.read)
}

// Fault is what was wrong first.
func (r *In) Fault() api.Fault {
	if r == nil {
		return api.Fault{Errno: api.ErrNil}
	}
	return r.fault
}

// Fail notes what is wrong, if nothing was.
func (r *In) Fail(e api.Errno, at int) {
	if r.stopped() || e == api.OK {
		return
	}
	r.fault = api.Fault{Errno: e, At: at}
}

// Take is so many bytes more.
func (r *In) Take(n int) string {
	if r.stopped() {
		return ""
	}
	if n < 0 || n > r.Left() {
		r.short()
		return ""
	}
	taken := r.Peek(n)
	r.read += n
	return taken
}

// Rest is all that isn't read.
func (r *In) Rest() string { return r.Take(r.Left()) }

// Peek is so many bytes more, or as many as there are; they aren't read.
func (r *In) Peek(n int) string {
	if r.stopped() {
		return ""
	}
	n = min(max(n, 0), r.Left())
	return r.text[r.read : r.read+n]
}

// Big is a number of so many bytes, the highest first.
func (r *In) Big(size int) uint64 {
	var n uint64
	b := r.Take(bounded(size))
	for i := range len(b) {
		n = n<<8 | uint64(b[i])
	}
	return n
}

// Small is a number of so many bytes, the lowest first.
func (r *In) Small(size int) uint64 {
	var n uint64
	b := r.Take(bounded(size))
	for i := len(b) - 1; i >= 0; i-- {
		n = n<<8 | uint64(b[i])
	}
	return n
}

// Safe is a number of four bytes of seven bits.
func (r *In) Safe() int {
	n := 0
	b := r.Take(safeSize)
	for i := range len(b) {
		if b[i] >= 0x80 {
			// All of these bytes are read by now: their places are counted back.
			r.Fail(api.ErrMalformed, r.place(r.read-len(b)+i))
			return 0
		}
		n = n<<7 | int(b[i])
	}
	return n
}

// Want reads a text that must be there.
func (r *In) Want(s string) bool {
	if r.stopped() {
		return false
	}
	next := r.Peek(len(s))
	for i := range len(next) {
		if next[i] != s[i] {
			r.Fail(api.ErrMalformed, r.place(r.read+i))
			return false
		}
	}
	if len(next) < len(s) {
		r.short()
		return false
	}
	r.read += len(s)
	return true
}

// Until is what stands ahead of the next end, which is read too; ends of more bytes are looked for at each so manieth byte.
func (r *In) Until(end string) string {
	if r.stopped() {
		return ""
	}
	step := max(len(end), 1)
	for at := r.read; at <= len(r.text)-len(end); at += step {
		if strings.HasPrefix(r.text[at:], end) {
			ahead := r.text[r.read:at]
			r.read = at + len(end)
			return ahead
		}
	}
	r.short()
	return ""
}

// stopped says whether nothing is read any more.
func (r *In) stopped() bool { return r.Fault().Bad() }

// short notes that the text ends too early.
func (r *In) short() { r.Fail(api.ErrMalformed, r.place(len(r.text))) }

// place is where a byte of the text stands in the greater one. A base may be any number: a place that no int holds is told as the greatest one, for a sum that wraps would stand ahead of the text.
func (r *In) place(n int) int {
	if r.base > math.MaxInt-n {
		return math.MaxInt
	}
	return r.base + n
}
