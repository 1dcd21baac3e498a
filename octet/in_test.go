package octet_test

import (
	"math"
	"testing"

	"diacritic/api"
	"diacritic/octet"
)

// state fails a test, if a reader isn't as it should be.
func state(t *testing.T, r *octet.In, at, left int, f api.Fault) {
	t.Helper()
	if r.At() != at || r.Left() != left || r.Fault() != f {
		t.Errorf("at %d, left %d, fault %v; should be at %d, left %d, fault %v", r.At(), r.Left(), r.Fault(), at, left, f)
	}
}

// malformed is the fault that most calls note.
func malformed(at int) api.Fault { return api.Fault{Errno: api.ErrMalformed, At: at} }

func TestBases(t *testing.T) {
	state(t, octet.Read("abc"), 0, 3, api.Fault{})
	state(t, octet.Read(""), 0, 0, api.Fault{})
	state(t, octet.Inner("abc", 10), 10, 3, api.Fault{})
	state(t, octet.Inner("abc", 0), 0, 3, api.Fault{})
	state(t, octet.Inner("abc", -1), 0, 3, api.Fault{})
	state(t, octet.Inner("abc", math.MinInt), 0, 3, api.Fault{})
	state(t, new(octet.In), 0, 0, api.Fault{})
}

func TestBasesWhosePlacesEnd(t *testing.T) {
	r := octet.Inner("abc", math.MaxInt-1)
	r.Take(1)
	state(t, r, math.MaxInt, 2, api.Fault{})
	r.Take(2)
	state(t, r, math.MaxInt, 0, api.Fault{})
	r.Take(1)
	state(t, r, math.MaxInt, 0, malformed(math.MaxInt))
}

func TestFail(t *testing.T) {
	r := octet.Inner("abc", 10)
	r.Take(1)
	r.Fail(api.OK, 3)
	state(t, r, 11, 2, api.Fault{})
	r.Fail(api.ErrUnsupported, 3)
	state(t, r, 11, 0, api.Fault{Errno: api.ErrUnsupported, At: 3})
	r.Fail(api.ErrArg, 4)
	state(t, r, 11, 0, api.Fault{Errno: api.ErrUnsupported, At: 3})
	r.Fail(api.OK, 0)
	state(t, r, 11, 0, api.Fault{Errno: api.ErrUnsupported, At: 3})
	for _, f := range []api.Fault{{Errno: -1, At: -7}, {Errno: 99, At: math.MaxInt}, {Errno: api.ErrNil, At: math.MinInt}} {
		r := octet.Inner("abc", 10)
		r.Fail(f.Errno, f.At)
		state(t, r, 10, 0, f)
	}
}

func TestReadersAreTheirOwn(t *testing.T) {
	a, b := octet.Read("abc"), octet.Read("abc")
	a.Take(2)
	a.Fail(api.ErrArg, 1)
	state(t, b, 0, 3, api.Fault{})
}

func TestTake(t *testing.T) {
	r := octet.Inner("abcde", 10)
	if s := r.Take(2); s != "ab" {
		t.Errorf("two: %q", s)
	}
	if s := r.Take(0); s != "" {
		t.Errorf("none: %q", s)
	}
	state(t, r, 12, 3, api.Fault{})
	if s := r.Take(3); s != "cde" {
		t.Errorf("all: %q", s)
	}
	if s := r.Take(0); s != "" {
		t.Errorf("none at the end: %q", s)
	}
	state(t, r, 15, 0, api.Fault{})
	r.Take(1)
	state(t, r, 15, 0, malformed(15))
}

func TestTakeOfWrongNumbers(t *testing.T) {
	for _, n := range []int{3, 4, math.MaxInt, -1, -2, math.MinInt} {
		r := octet.Inner("abc", 10)
		r.Take(1)
		if s := r.Take(n); s != "" {
			t.Errorf("Take(%d): %q", n, s)
		}
		state(t, r, 11, 0, malformed(13))
	}
	r := octet.Inner("ab", 10)
	r.Take(3)
	state(t, r, 10, 0, malformed(12))
}

func TestRest(t *testing.T) {
	r := octet.Inner("abc", 10)
	r.Take(1)
	if s := r.Rest(); s != "bc" {
		t.Errorf("rest: %q", s)
	}
	if s := r.Rest(); s != "" {
		t.Errorf("rest of none: %q", s)
	}
	state(t, r, 13, 0, api.Fault{})
}

func TestPeek(t *testing.T) {
	r := octet.Inner("abc", 10)
	r.Take(1)
	for n, want := range map[int]string{math.MinInt: "", -1: "", 0: "", 1: "b", 2: "bc", 3: "bc", math.MaxInt: "bc"} {
		if s := r.Peek(n); s != want {
			t.Errorf("Peek(%d): %q", n, s)
		}
		state(t, r, 11, 2, api.Fault{})
	}
	if s := octet.Read("").Peek(1); s != "" {
		t.Errorf("of none: %q", s)
	}
}

func TestNumbersAreRead(t *testing.T) {
	text := "\x01\x02\x03\x04\x05\x06\x07\x08\x09"
	big := []uint64{0, 0x01, 0x0102, 0x010203, 0x01020304, 0x0102030405, 0x010203040506, 0x01020304050607, 0x0102030405060708}
	small := []uint64{0, 0x01, 0x0201, 0x030201, 0x04030201, 0x0504030201, 0x060504030201, 0x07060504030201, 0x0807060504030201}
	for _, size := range sizes() {
		r, q := octet.Inner(text, 10), octet.Inner(text, 10)
		if n := r.Big(size); n != big[meant(size)] {
			t.Errorf("Big(%d): %x", size, n)
		}
		if n := q.Small(size); n != small[meant(size)] {
			t.Errorf("Small(%d): %x", size, n)
		}
		state(t, r, 10+meant(size), 9-meant(size), api.Fault{})
		state(t, q, 10+meant(size), 9-meant(size), api.Fault{})
	}
	if n := octet.Read("\xff\xff\xff\xff\xff\xff\xff\xff").Big(8); n != math.MaxUint64 {
		t.Errorf("the greatest: %x", n)
	}
}

func TestNumbersThatAreCutOff(t *testing.T) {
	for _, size := range []int{4, 5, 8, 9, math.MaxInt} {
		r, q := octet.Inner("x\x01\x02\x03", 10), octet.Inner("x\x01\x02\x03", 10)
		r.Take(1)
		q.Take(1)
		if n := r.Big(size); n != 0 {
			t.Errorf("Big(%d): %x", size, n)
		}
		if n := q.Small(size); n != 0 {
			t.Errorf("Small(%d): %x", size, n)
		}
		state(t, r, 11, 0, malformed(14))
		state(t, q, 11, 0, malformed(14))
	}
	for _, size := range []int{math.MinInt, -1, 0} {
		r := octet.Inner("", 10)
		if r.Big(size) != 0 || r.Small(size) != 0 {
			t.Errorf("of %d bytes: not 0", size)
		}
		state(t, r, 10, 0, api.Fault{})
	}
}

func TestSafeIsRead(t *testing.T) {
	for text, want := range map[string]int{"\x00\x00\x00\x00": 0, "\x00\x00\x01\x01": 129, "\x01\x00\x00\x00": 1 << 21, "\x00\x00\x02\x00": 256, "\x7f\x7f\x7f\x7f": api.MaxSafe} {
		r := octet.Inner(text+"x", 10)
		if n := r.Safe(); n != want {
			t.Errorf("%q: %d", text, n)
		}
		state(t, r, 14, 1, api.Fault{})
	}
}

func TestSafeThatIsWrong(t *testing.T) {
	tests := []struct {
		text  string
		at    int
		fault api.Fault
	}{
		{"\x80\x00\x00\x00x", 14, malformed(10)},
		{"\x00\x80\x80\x00x", 14, malformed(11)},
		{"\x7f\x7f\xff\x00x", 14, malformed(12)},
		{"\x00\x00\x00\x80", 14, malformed(13)},
		{"\x00\x00\x00", 10, malformed(13)},
		{"\x80\x00\x00", 10, malformed(13)},
		{"", 10, malformed(10)},
	}
	for _, x := range tests {
		r := octet.Inner(x.text, 10)
		if n := r.Safe(); n != 0 {
			t.Errorf("%q: %d", x.text, n)
		}
		state(t, r, x.at, 0, x.fault)
	}
}

func TestWant(t *testing.T) {
	r := octet.Inner("abcd", 10)
	if !r.Want("") {
		t.Error("none isn't there")
	}
	if !r.Want("ab") {
		t.Error("ab isn't there")
	}
	state(t, r, 12, 2, api.Fault{})
	if !r.Want("cd") || !r.Want("") {
		t.Error("cd, or none behind it, isn't there")
	}
	state(t, r, 14, 0, api.Fault{})
}

func TestWantOfWhatIsNotThere(t *testing.T) {
	tests := []struct {
		text, want string
		fault      api.Fault
	}{
		{"abd", "abc", malformed(13)},
		{"xbc", "abc", malformed(11)},
		{"xyz", "abc", malformed(11)},
		{"ab", "abc", malformed(13)},
		{"", "abc", malformed(11)},
		{"x", "abc", malformed(11)},
		{"ABC", "abc", malformed(11)},
	}
	for _, x := range tests {
		r := octet.Inner("-"+x.text, 10)
		r.Take(1)
		if r.Want(x.want) {
			t.Errorf("%q of %q: there", x.want, x.text)
		}
		state(t, r, 11, 0, x.fault)
	}
}

func TestUntil(t *testing.T) {
	tests := []struct {
		text, end, ahead string
		at               int
	}{
		{"ab\x00cd", "\x00", "ab", 14},
		{"\x00cd", "\x00", "", 12},
		{"ab\x00", "\x00", "ab", 14},
		{"a\x00\x00b", "\x00", "a", 13},
		{"\x00\x01\x00\x00\x05", "\x00\x00", "\x00\x01", 15},
		{"\x01\x00\x00\x01\x00\x00", "\x00\x00", "\x01\x00\x00\x01", 17},
		{"\x00\x00", "\x00\x00", "", 13},
		{"xabcabc", "abc", "", 0},
		{"xyzabc-", "abc", "xyz", 17},
		{"abc", "", "", 11},
		{"", "", "", 11},
	}
	for _, x := range tests {
		r := octet.Inner("-"+x.text, 10)
		r.Take(1)
		if s := r.Until(x.end); s != x.ahead {
			t.Errorf("%q of %q: %q", x.end, x.text, s)
		}
		if x.at == 0 {
			state(t, r, 11, 0, malformed(11+len(x.text)))
		} else {
			state(t, r, x.at, 11+len(x.text)-x.at, api.Fault{})
		}
	}
}

func TestUntilOfWhatIsNotThere(t *testing.T) {
	for text, end := range map[string]string{"": "\x00", "abc": "\x00", "\x00": "\x00\x00", "a\x00\x00": "\x00\x00", "\x01\x00\x00\x01": "\x00\x00", "ab": "abc"} {
		r := octet.Inner("-"+text, 10)
		r.Take(1)
		if s := r.Until(end); s != "" {
			t.Errorf("%q of %q: %q", end, text, s)
		}
		state(t, r, 11, 0, malformed(11+len(text)))
	}
}

func TestUntilCountsFromTheNextByte(t *testing.T) {
	r := octet.Read("x\x01\x02\x00\x00y")
	r.Take(1)
	if s := r.Until("\x00\x00"); s != "\x01\x02" || r.Rest() != "y" {
		t.Errorf("at uneven places: %q", s)
	}
}
