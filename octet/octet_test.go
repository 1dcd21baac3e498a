package octet_test

import (
	"math"
	"strconv"
	"strings"
	"testing"

	"diacritic/api"
	"diacritic/octet"
)

// numbers are such as stand at the edges of sizes and of limits.
func numbers() []uint64 {
	l := []uint64{0, 1, 2, 127, 128, 129, 258, api.MaxSafe - 1, api.MaxSafe, api.MaxSafe + 1, 0x0102030405060708, 0xF1E2D3C4B5A69788, math.MaxUint64}
	for shift := range 64 {
		l = append(l, 1<<shift, 1<<shift-1, math.MaxUint64<<shift)
	}
	return l
}

// sizes are those that are meant as they are, and those that aren't.
func sizes() []int {
	return []int{math.MinInt, -9, -1, 0, 1, 2, 3, 4, 5, 6, 7, 8, 9, 64, math.MaxInt}
}

// meant is the size that the document takes for another one.
func meant(size int) int {
	if size < 0 {
		return 0
	}
	if size > 8 {
		return 8
	}
	return size
}

func TestJoin(t *testing.T) {
	if s := octet.Join(); s != "" {
		t.Errorf("of none: %q", s)
	}
	if s := octet.Join("", "", ""); s != "" {
		t.Errorf("of empty ones: %q", s)
	}
	if s := octet.Join("a\x00"); s != "a\x00" {
		t.Errorf("of one: %q", s)
	}
	if s := octet.Join("ab", "", "\xff\x00", "ab"); s != "ab\xff\x00ab" {
		t.Errorf("of four: %q", s)
	}
	if s := octet.Join([]string(nil)...); s != "" {
		t.Errorf("of nil: %q", s)
	}
	room := [3]string{"a", "b", "c"}
	if s := octet.Join(room[:2]...); s != "ab" || room != [3]string{"a", "b", "c"} {
		t.Errorf("with room behind: %q, %q", s, room)
	}
}

func TestBigAndSmallAsTold(t *testing.T) {
	tests := []struct {
		n          uint64
		size       int
		big, small string
	}{
		{258, 2, "\x01\x02", "\x02\x01"},
		{258, 3, "\x00\x01\x02", "\x02\x01\x00"},
		{258, 1, "\x02", "\x02"},
		{258, 0, "", ""},
		{258, -1, "", ""},
		{258, math.MinInt, "", ""},
		{0, 4, "\x00\x00\x00\x00", "\x00\x00\x00\x00"},
		{0x0102030405060708, 8, "\x01\x02\x03\x04\x05\x06\x07\x08", "\x08\x07\x06\x05\x04\x03\x02\x01"},
		{0x0102030405060708, 9, "\x01\x02\x03\x04\x05\x06\x07\x08", "\x08\x07\x06\x05\x04\x03\x02\x01"},
		{0x0102030405060708, math.MaxInt, "\x01\x02\x03\x04\x05\x06\x07\x08", "\x08\x07\x06\x05\x04\x03\x02\x01"},
		{0x0102030405060708, 3, "\x06\x07\x08", "\x08\x07\x06"},
		{math.MaxUint64, 7, "\xff\xff\xff\xff\xff\xff\xff", "\xff\xff\xff\xff\xff\xff\xff"},
	}
	for _, x := range tests {
		if s := octet.Big(x.n, x.size); s != x.big {
			t.Errorf("Big(%d, %d): %q", x.n, x.size, s)
		}
		if s := octet.Small(x.n, x.size); s != x.small {
			t.Errorf("Small(%d, %d): %q", x.n, x.size, s)
		}
	}
}

func TestBigAndSmallAreModulo(t *testing.T) {
	for _, n := range numbers() {
		for _, size := range sizes() {
			big, small := octet.Big(n, size), octet.Small(n, size)
			if len(big) != meant(size) || len(small) != meant(size) {
				t.Fatalf("%d in %d bytes: %q, %q", n, size, big, small)
			}
			for i := range small {
				if want := byte(n >> (8 * i)); small[i] != want || big[len(big)-1-i] != want {
					t.Fatalf("%d in %d bytes: %q, %q", n, size, big, small)
				}
			}
		}
	}
}

func TestSafeAsTold(t *testing.T) {
	tests := []struct {
		n    uint64
		want string
		ok   bool
	}{
		{0, "\x00\x00\x00\x00", true},
		{127, "\x00\x00\x00\x7f", true},
		{128, "\x00\x00\x01\x00", true},
		{129, "\x00\x00\x01\x01", true},
		{1 << 14, "\x00\x01\x00\x00", true},
		{1 << 21, "\x01\x00\x00\x00", true},
		{api.MaxSafe, "\x7f\x7f\x7f\x7f", true},
		{api.MaxSafe + 1, "", false},
		{1 << 32, "", false},
		{math.MaxUint64, "", false},
	}
	for _, x := range tests {
		if s, ok := octet.Safe(x.n); s != x.want || ok != x.ok {
			t.Errorf("Safe(%d): %q, %v", x.n, s, ok)
		}
	}
}

func TestWrittenIsReadAsItWas(t *testing.T) {
	for _, n := range numbers() {
		for _, size := range sizes() {
			want := n
			if bits := 8 * meant(size); bits < 64 {
				want = n & (1<<bits - 1)
			}
			big := octet.Read(octet.Big(n, size) + "x")
			small := octet.Read(octet.Small(n, size) + "x")
			if got := big.Big(size); got != want || big.At() != meant(size) || big.Fault().Bad() {
				t.Fatalf("Big of %d, %d: %d", n, size, got)
			}
			if got := small.Small(size); got != want || small.At() != meant(size) || small.Fault().Bad() {
				t.Fatalf("Small of %d, %d: %d", n, size, got)
			}
		}
		s, ok := octet.Safe(n)
		if ok != (n <= api.MaxSafe) {
			t.Fatalf("Safe(%d): %v", n, ok)
		}
		if r := octet.Read(s); ok && (r.Safe() != int(n) || r.Left() != 0 || r.Fault().Bad()) {
			t.Fatalf("Safe of %d: %v", n, r.Fault())
		}
	}
}

// step is one call to a reader, and what it answered.
type step struct {
	name string
	do   func(r *octet.In) string
}

// steps are calls that read; each tells its answer as a text, which is empty where the answer is zero.
func steps() []step {
	number := func(n uint64) string {
		if n == 0 {
			return ""
		}
		return strconv.FormatUint(n, 10)
	}
	truth := func(b bool) string {
		if b {
			return "true"
		}
		return ""
	}
	return []step{
		{"Take -1", func(r *octet.In) string { return r.Take(-1) }},
		{"Take 0", func(r *octet.In) string { return r.Take(0) }},
		{"Take 2", func(r *octet.In) string { return r.Take(2) }},
		{"Take all", func(r *octet.In) string { return r.Take(math.MaxInt) }},
		{"Rest", func(r *octet.In) string { return r.Rest() }},
		{"Peek -1", func(r *octet.In) string { return r.Peek(-1) }},
		{"Peek 3", func(r *octet.In) string { return r.Peek(3) }},
		{"Big 2", func(r *octet.In) string { return number(r.Big(2)) }},
		{"Small 3", func(r *octet.In) string { return number(r.Small(3)) }},
		{"Small 9", func(r *octet.In) string { return number(r.Small(9)) }},
		{"Safe", func(r *octet.In) string { return number(uint64(r.Safe())) }},
		{"Want a", func(r *octet.In) string { return truth(r.Want("a")) }},
		{"Want none", func(r *octet.In) string { return truth(r.Want("")) }},
		{"Until 0", func(r *octet.In) string { return r.Until("\x00") }},
		{"Until 0 0", func(r *octet.In) string { return r.Until("\x00\x00") }},
		{"Until none", func(r *octet.In) string { return r.Until("") }},
		{"Fail", func(r *octet.In) string { r.Fail(api.ErrNone, 77); return "" }},
	}
}

// keeps says whether a step has left a reader of so many bytes behind 5 as the document says of all steps.
func keeps(r *octet.In, size, at int, was api.Fault, answer string) bool {
	if r.At() < at || r.At() > 5+size || r.Left() < 0 {
		return false
	}
	if was.Bad() {
		return r.At() == at && r.Left() == 0 && r.Fault() == was && answer == ""
	}
	if r.Fault().Bad() {
		return r.Left() == 0 && answer == ""
	}
	return r.Left() == 5+size-r.At()
}

func TestNoStepsReadBehindTheText(t *testing.T) {
	texts := []string{"", "a", "\x00", "a\x00", "\x00\x00", "aa\x00\x00a", "a\x80\x00\x00\x00\x00\x01a\x00", strings.Repeat("a\x00\x01", 7)}
	all := steps()
	for _, text := range texts {
		for i := range len(all) * len(all) * len(all) {
			r := octet.Inner(text, 5)
			for _, s := range []step{all[i%len(all)], all[i/len(all)%len(all)], all[i/len(all)/len(all)]} {
				at, was := r.At(), r.Fault()
				if answer := s.do(r); !keeps(r, len(text), at, was, answer) {
					t.Fatalf("of %q at %d, fault %v: %s: %q, now at %d, left %d, fault %v", text, at, was, s.name, answer, r.At(), r.Left(), r.Fault())
				}
			}
		}
	}
}

func TestAllStepsOfNil(t *testing.T) {
	var r *octet.In
	for _, s := range steps() {
		if answer := s.do(r); answer != "" {
			t.Errorf("%s: %q", s.name, answer)
		}
		if r.Left() != 0 || r.At() != 0 || r.Fault() != (api.Fault{Errno: api.ErrNil}) {
			t.Errorf("behind %s: %d, %d, %v", s.name, r.Left(), r.At(), r.Fault())
		}
	}
}

func TestAllStepsBehindAFault(t *testing.T) {
	for _, s := range steps() {
		r := octet.Inner("a\x00\x00\x00\x01a\x00\x00", 5)
		r.Take(1)
		r.Fail(api.ErrTooLarge, 3)
		if answer := s.do(r); answer != "" {
			t.Errorf("%s: %q", s.name, answer)
		}
		if r.Left() != 0 || r.At() != 6 || r.Fault() != (api.Fault{Errno: api.ErrTooLarge, At: 3}) {
			t.Errorf("behind %s: %d, %d, %v", s.name, r.Left(), r.At(), r.Fault())
		}
	}
}
