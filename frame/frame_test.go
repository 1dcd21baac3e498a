package frame_test

import (
	"math"
	"strings"
	"testing"

	"diacritic/api"
	"diacritic/frame"
	"diacritic/octet"
)

// none are versions that there aren't.
func none() []int { return []int{0, 1, 5, -1, -2, 6, 258, math.MaxInt, math.MinInt} }

// all are those that there are, and those that there aren't.
func all() []int { return append([]int{2, 3, 4}, none()...) }

func TestExamples(t *testing.T) {
	prints(t, 3, frame.Frame{Head: frame.Head{ID: "TIT2"}, Body: "a"}, "\x54\x49\x54\x32\x00\x00\x00\x01\x00\x00\x61")
	x := frame.Frame{Head: frame.Head{ID: "TIT2", Format: 0x43}, Group: 5, Body: "\xff\xe0"}
	prints(t, 4, x, "TIT2\x00\x00\x00\x08\x00\x43\x05\x00\x00\x00\x02\xff\x00\xe0")
}

func TestUnsynced(t *testing.T) {
	if frame.Unsynced != 2 {
		t.Errorf("Unsynced: %x", frame.Unsynced)
	}
}

func TestFormats(t *testing.T) {
	for _, version := range all() {
		for format := range 256 {
			for _, status := range []byte{0, 255} {
				for _, id := range []string{"TIT2", ""} {
					h := frame.Head{ID: id, Status: status, Format: byte(format)}
					w := told(version, byte(format))
					if h.Locked(version) != w.locked || h.Grouped(version) != w.grouped || h.Measured(version) != w.measured || h.Spread(version) != w.spread {
						t.Errorf("version %d, %02x: %t %t %t %t", version, format, h.Locked(version), h.Grouped(version), h.Measured(version), h.Spread(version))
					}
					f := frame.Frame{Head: h}
					if f.Locked(version) != w.locked || f.Grouped(version) != w.grouped || f.Measured(version) != w.measured || f.Spread(version) != w.spread {
						t.Errorf("version %d, %02x: a frame tells other things than its head", version, format)
					}
				}
			}
		}
	}
}

func TestFormatsOneByOne(t *testing.T) {
	const locked, grouped, measured, spread = 1, 2, 4, 8
	for _, x := range []struct {
		version int
		format  byte
		want    int
	}{
		{2, 0xff, 0}, {3, 0x80, locked}, {3, 0x40, locked}, {3, 0xc0, locked}, {3, 0x20, grouped}, {3, 0x3f, grouped}, {3, 0x1f, 0}, {3, 0xa0, locked}, {3, 0x60, locked}, {3, 0xff, locked},
		{4, 0x40, grouped}, {4, 0x08, locked}, {4, 0x04, locked}, {4, 0x0c, locked}, {4, 0x02, spread}, {4, 0x01, measured}, {4, 0x43, grouped | spread | measured}, {4, 0xb0, 0}, {4, 0xf3, grouped | spread | measured},
		{4, 0x48, locked}, {4, 0x44, locked}, {4, 0x0a, locked}, {4, 0x06, locked}, {4, 0x09, locked}, {4, 0x05, locked}, {4, 0xff, locked}, {5, 0xff, 0}, {1, 0xff, 0},
	} {
		h, got := frame.Head{Format: x.format}, 0
		for bit, is := range map[int]bool{locked: h.Locked(x.version), grouped: h.Grouped(x.version), measured: h.Measured(x.version), spread: h.Spread(x.version)} {
			if is {
				got |= bit
			}
		}
		if got != x.want {
			t.Errorf("version %d, %02x: %x; should be %x", x.version, x.format, got, x.want)
		}
	}
}

func TestLetters(t *testing.T) {
	for version, want := range map[int]int{2: 3, 3: 4, 4: 4} {
		if n := frame.Letters(version); n != want {
			t.Errorf("version %d: %d", version, n)
		}
	}
	for _, version := range none() {
		if n := frame.Letters(version); n != 0 {
			t.Errorf("version %d: %d", version, n)
		}
	}
}

func TestNamed(t *testing.T) {
	for _, version := range all() {
		for _, id := range []string{"", "T", "TI", "TIT", "TIT2", "TIT22", "0000", "000", "999", "9999", "AAA", "ZZZZ", "A0Z9", "12", "TITTITTIT"} {
			named(t, version, id, len(id) == signs(version) && id != "")
		}
		for _, id := range []string{"T\u00e9", "T\u00e92", "\u00e9\u00e9", "T\U0001F600", "\U0001F600", "\u0422\u0422", "\u0410", "\uff21", "TIT\u00b2"} {
			named(t, version, id, false)
		}
	}
}

func TestNamedByEachByte(t *testing.T) {
	for _, version := range all() {
		for n := range 6 {
			for at := range n {
				for v := range 256 {
					b := []byte(strings.Repeat("X", n))
					b[at] = byte(v)
					named(t, version, string(b), n == signs(version) && allowed(byte(v)))
				}
			}
		}
	}
	for _, b := range []byte{0x2f, 0x3a, 0x40, 0x5b, 0x61, 0x7a} {
		if allowed(b) {
			t.Errorf("%02x may not be", b)
		}
	}
	for _, b := range []byte{0x30, 0x39, 0x41, 0x5a} {
		if !allowed(b) {
			t.Errorf("%02x may be", b)
		}
	}
}

func TestParse(t *testing.T) {
	parses(t, 2, "TT2\x00\x00\x03abcx", false, frame.Frame{Head: frame.Head{ID: "TT2"}, Body: "abc"}, 1)
	parses(t, 3, "TIT2\x00\x00\x00\x03\x00\x00abcx", false, frame.Frame{Head: frame.Head{ID: "TIT2"}, Body: "abc"}, 1)
	parses(t, 4, "TIT2\x00\x00\x00\x03\x00\x00abcx", false, frame.Frame{Head: frame.Head{ID: "TIT2"}, Body: "abc"}, 1)
	parses(t, 3, "TIT2\x00\x00\x00\x03\x80\x1fabc", false, frame.Frame{Head: frame.Head{ID: "TIT2", Status: 0x80, Format: 0x1f}, Body: "abc"}, 0)
	parses(t, 3, "TIT2\x00\x00\x00\x03\x00\x20abc", false, frame.Frame{Head: frame.Head{ID: "TIT2", Format: 0x20}, Group: 'a', Body: "bc"}, 0)
	parses(t, 3, "TIT2\x00\x00\x00\x03\x00\xa0abc", false, frame.Frame{Head: frame.Head{ID: "TIT2", Format: 0xa0}, Body: "abc"}, 0)
	parses(t, 4, "TIT2\x00\x00\x00\x03\x40\x40abc", false, frame.Frame{Head: frame.Head{ID: "TIT2", Status: 0x40, Format: 0x40}, Group: 'a', Body: "bc"}, 0)
	parses(t, 4, "TIT2\x00\x00\x00\x05\x00\x01\x00\x00\x00\x01a", false, frame.Frame{Head: frame.Head{ID: "TIT2", Format: 1}, Body: "a"}, 0)
	parses(t, 4, "TIT2\x00\x00\x00\x03\x00\x02\xff\x00\xe0", false, frame.Frame{Head: frame.Head{ID: "TIT2", Format: 2}, Body: "\xff\xe0"}, 0)
	parses(t, 4, "TIT2\x00\x00\x00\x03\x00\x0f\xff\x00\xe0", false, frame.Frame{Head: frame.Head{ID: "TIT2", Format: 15}, Body: "\xff\x00\xe0"}, 0)
}

func TestParseOfNoData(t *testing.T) {
	parses(t, 2, "TT2\x00\x00\x00", false, frame.Frame{Head: frame.Head{ID: "TT2"}}, 0)
	for _, version := range []int{3, 4} {
		parses(t, version, "TIT2"+zeros(6), false, frame.Frame{Head: frame.Head{ID: "TIT2"}}, 0)
		parses(t, version, "TIT2"+zeros(6)+"TIT2", false, frame.Frame{Head: frame.Head{ID: "TIT2"}}, 4)
	}
	parses(t, 4, "TIT2"+zeros(5)+"\x02", false, frame.Frame{Head: frame.Head{ID: "TIT2", Format: 2}}, 0)
	parses(t, 4, "TIT2"+zeros(5)+"\x4c", false, frame.Frame{Head: frame.Head{ID: "TIT2", Format: 0x4c}}, 0)
	parses(t, 4, "TIT2\x00\x00\x00\x04\x00\x01"+zeros(4), false, frame.Frame{Head: frame.Head{ID: "TIT2", Format: 1}}, 0)
	parses(t, 4, "TIT2\x00\x00\x00\x05\x00\x43\x07"+zeros(4), false, frame.Frame{Head: frame.Head{ID: "TIT2", Format: 0x43}, Group: 7}, 0)
	parses(t, 3, "TIT2\x00\x00\x00\x01\x00\x20\x07", false, frame.Frame{Head: frame.Head{ID: "TIT2", Format: 0x20}, Group: 7}, 0)
}

func TestParseOfSizesOfEachVersion(t *testing.T) {
	body := strings.Repeat("b", 1<<17)
	parses(t, 2, "TT2\x01\x02\x03"+body, false, frame.Frame{Head: frame.Head{ID: "TT2"}, Body: body[:0x10203]}, len(body)-0x10203)
	parses(t, 3, "TIT2\x00\x01\x02\x03\x00\x00"+body, false, frame.Frame{Head: frame.Head{ID: "TIT2"}, Body: body[:0x10203]}, len(body)-0x10203)
	parses(t, 3, "TIT2\x00\x00\x80\xff\x00\x00"+body, false, frame.Frame{Head: frame.Head{ID: "TIT2"}, Body: body[:0x80ff]}, len(body)-0x80ff)
	parses(t, 4, "TIT2\x00\x01\x02\x03\x00\x00"+body, false, frame.Frame{Head: frame.Head{ID: "TIT2"}, Body: body[:1<<14+2<<7+3]}, len(body)-(1<<14+2<<7+3))
	large := strings.Repeat("b", 1<<21+5)
	parses(t, 4, "TIT2\x01\x00\x00\x04\x00\x00"+large, false, frame.Frame{Head: frame.Head{ID: "TIT2"}, Body: large[:1<<21+4]}, 1)
	great := strings.Repeat("b", 1<<24+5)
	parses(t, 3, "TIT2\x01\x00\x00\x04\x00\x00"+great, false, frame.Frame{Head: frame.Head{ID: "TIT2"}, Body: great[:1<<24+4]}, 1)
}

func TestParseWhereNothingIsRead(t *testing.T) {
	for _, spread := range []bool{false, true} {
		for _, version := range all() {
			for _, b := range []string{"", "\x00", "\x00\x00\x00", zeros(20), "\x00TIT2\x00\x00\x00\x01\x00\x00a", "\x00\xff"} {
				readsNothing(t, version, b, spread)
			}
			if _, ok := frame.Parse(version, nil, spread); ok {
				t.Errorf("version %d: of a reader that is nil", version)
			}
			if _, ok := frame.Parse(version, new(octet.In), spread); ok {
				t.Errorf("version %d: of a zero reader", version)
			}
			for _, bad := range []api.Fault{{Errno: api.ErrArg, At: 3}, {Errno: api.ErrMalformed}, {Errno: -1, At: -1}, {Errno: 99, At: math.MaxInt}} {
				r := octet.Inner("..TIT2\x00\x00\x00\x01\x00\x00a", 10)
				r.Take(2)
				r.Fail(bad.Errno, bad.At)
				if got, ok := frame.Parse(version, r, spread); ok || got != (frame.Frame{}) || r.Fault() != bad || r.At() != 12 {
					t.Errorf("version %d: %v, %t, %v", version, got, ok, r.Fault())
				}
			}
		}
		for _, version := range none() {
			for _, b := range []string{"TIT2\x00\x00\x00\x01\x00\x00a", "TT2\x00\x00\x01a", "T", "\xff", "tit2", "a\x00"} {
				readsNothing(t, version, b, spread)
			}
		}
	}
}

func TestNamesCutOff(t *testing.T) {
	for _, version := range []int{2, 3, 4} {
		n := signs(version)
		for k := 1; k < n; k++ {
			refuses(t, version, "TIT2"[:k], k)
			for at := range k {
				b := []byte("TIT2"[:k])
				b[at] = 'a'
				refuses(t, version, string(b), k) // one is wrong, too
			}
		}
	}
	refuses(t, 2, "\xff", 1)
	refuses(t, 3, "T\x00\x00", 3)
	refuses(t, 2, "T\x00", 2)
}

func TestNamesWithWrongSigns(t *testing.T) {
	for _, version := range []int{2, 3, 4} {
		n := signs(version)
		for at := range n {
			for v := range 256 {
				b := []byte("TIT2"[:n])
				b[at] = byte(v)
				if allowed(byte(v)) || v == 0 && at == 0 {
					continue
				}
				for _, behind := range []string{"", "\x00", zeros(7) + "a", zeros(6), "\x80\x80\x80\x80\x00\x00", "\x00\x00\x00\x09\x00\x00a", strings.Repeat("\xff", 9)} {
					refuses(t, version, string(b)+behind, at)
				}
				for later := at + 1; later < n; later++ {
					c := []byte(string(b))
					c[later] = '?'
					refuses(t, version, string(c)+zeros(6), at)
				}
			}
		}
	}
}

func TestHeadsCutOff(t *testing.T) {
	for version, whole := range map[int]string{2: "TT2\x00\x00\x00", 3: "TIT2\x00\x00\x00\x00\x00\x00", 4: "TIT2\x00\x00\x00\x00\x00\x00"} {
		for n := 1; n < len(whole); n++ {
			refuses(t, version, whole[:n], n)
		}
		parses(t, version, whole, false, frame.Frame{Head: frame.Head{ID: whole[:signs(version)]}}, 0)
	}
}

func TestDataCutOff(t *testing.T) {
	for _, x := range []struct {
		version int
		ahead   string
		size    int
	}{
		{2, "TT2\x00\x00\x09", 9}, {3, "TIT2\x00\x00\x00\x09\x00\x00", 9}, {4, "TIT2\x00\x00\x00\x09\x00\x00", 9}, {4, "TIT2\x00\x00\x00\x09\x00\x43", 9}, {3, "TIT2\x00\x00\x00\x09\x00\xff", 9},
		{2, "TT2\x00\x01\x00", 256}, {3, "TIT2\x00\x00\x01\x00\x00\x00", 256}, {4, "TIT2\x00\x00\x01\x00\x00\x00", 128},
	} {
		for n := range x.size {
			refuses(t, x.version, x.ahead+strings.Repeat("d", n), len(x.ahead)+n)
		}
	}
	for version, b := range map[int]string{2: "TT2\xff\xff\xffabc", 3: "TIT2\xff\xff\xff\xff\x00\x00abc", 4: "TIT2\x7f\x7f\x7f\x7f\x00\x00abc"} {
		refuses(t, version, b, len(b))
	}
	refuses(t, 3, "TIT2\x80\x00\x00\x00\x00\x00", 10)
	refuses(t, 3, "TIT2\x80\x00\x00\x00\x00", 9)
}

func TestSizesOfHighBytes(t *testing.T) {
	for at := range 4 {
		for _, v := range []byte{0x80, 0x81, 0xff} {
			b := []byte(zeros(4))
			b[at] = v
			refuses(t, 4, "TIT2"+string(b)+"\x00\x00"+strings.Repeat("d", 400), 4+at)
			refuses(t, 4, "TIT2"+string(b), 4+at)
			refuses(t, 4, "TIT2"+string(b)+"\x00", 4+at)
			if at < 3 {
				b[3] = 0xff
				refuses(t, 4, "TIT2"+string(b)+zeros(9), 4+at) // two are too high
				refuses(t, 4, "TIT2"+string(b[:3]), 7)
			}
		}
	}
}

func TestGroupsCutOff(t *testing.T) {
	refuses(t, 3, "TIT2\x00\x00\x00\x00\x00\x20", 10)
	refuses(t, 3, "TIT2\x00\x00\x00\x00\x00\x20abc", 10)
	refuses(t, 4, "TIT2\x00\x00\x00\x00\x00\x40abc", 10)
	refuses(t, 4, "TIT2\x00\x00\x00\x00\x00\x43abcdefgh", 10)
	refuses(t, 3, "TIT2\x00\x00\x00\x01\x00\x20", 10) // the data isn't whole
}

func TestMeasuresCutOff(t *testing.T) {
	for n := range 4 {
		size := string([]byte{byte(n)})
		refuses(t, 4, "TIT2\x00\x00\x00"+size+"\x00\x01"+zeros(9), 10+n)
		refuses(t, 4, "TIT2\x00\x00\x00"+size+"\x00\x01\x80\x80\x80\x80", 10+n)
		size = string([]byte{byte(n + 1)})
		refuses(t, 4, "TIT2\x00\x00\x00"+size+"\x00\x43\x05"+zeros(9), 11+n)
		refuses(t, 4, "TIT2\x00\x00\x00"+size+"\x00\x41\x05"+zeros(n), 11+n)
	}
}

func TestMeasuresOfHighBytes(t *testing.T) {
	for at := range 4 {
		for _, v := range []byte{0x80, 0x81, 0xff} {
			b := []byte(zeros(4))
			b[at] = v
			refuses(t, 4, "TIT2\x00\x00\x00\x05\x00\x01"+string(b)+"ax", 10+at)
			refuses(t, 4, "TIT2\x00\x00\x00\x06\x00\x43\xff"+string(b)+"ax", 11+at)
			if at < 3 {
				b[3] = 0x80
				refuses(t, 4, "TIT2\x00\x00\x00\x05\x00\x03"+string(b)+"ax", 10+at)
			}
		}
	}
}

func TestMeasuresOfOtherBodies(t *testing.T) {
	for n := range 200 {
		body := strings.Repeat("b", n)
		size, _ := octet.Safe(uint64(n + 4))
		grouped, _ := octet.Safe(uint64(n + 5))
		for _, m := range []int{0, n - 1, n, n + 1, n + 4, n + 5, 127, 128, api.MaxSafe} {
			measure, ok := octet.Safe(uint64(m))
			if !ok {
				continue
			}
			plain, other := "TIT2"+size+"\x00\x01"+measure+body+"x", "TIT2"+grouped+"\x00\x41\x09"+measure+body+"x"
			if m == n {
				parses(t, 4, plain, false, frame.Frame{Head: frame.Head{ID: "TIT2", Format: 0x01}, Body: body}, 1)
				parses(t, 4, other, false, frame.Frame{Head: frame.Head{ID: "TIT2", Format: 0x41}, Group: 9, Body: body}, 1)
			} else {
				refuses(t, 4, plain, 10)
				refuses(t, 4, other, 11)
			}
		}
	}
}

func TestMeasuresOfSpreadBodies(t *testing.T) {
	ahead := "TIT2\x00\x00\x00\x08\x00\x43\x05\x00\x00\x00"
	x := frame.Frame{Head: frame.Head{ID: "TIT2", Format: 0x43}, Group: 5, Body: "\xff\xe0"}
	for m := range byte(6) {
		b := ahead + string([]byte{m}) + "\xff\x00\xe0"
		if m == 2 {
			parses(t, 4, b, false, x, 0)
			parses(t, 4, b, true, x, 0)
		} else {
			refuses(t, 4, b, 11)
		}
	}
	// Three bytes are measured: as spread is told from outside alone, the Body has but two.
	plain := "TIT2\x00\x00\x00\x07\x00\x01\x00\x00\x00\x03\xff\x00\xe0"
	parses(t, 4, plain, false, frame.Frame{Head: frame.Head{ID: "TIT2", Format: 1}, Body: "\xff\x00\xe0"}, 0)
	refusesWhere(t, 4, plain, true, 10)
	less := "TIT2\x00\x00\x00\x07\x00\x01\x00\x00\x00\x02\xff\x00\xe0"
	refusesWhere(t, 4, less, false, 10)
	parses(t, 4, less, true, frame.Frame{Head: frame.Head{ID: "TIT2", Format: 3}, Body: "\xff\xe0"}, 0)
}

func TestMeasuresOfNothing(t *testing.T) {
	for _, b := range []string{"\xff\x00\x00\x00", "\x7f\x7f\x7f\x7f"} {
		refuses(t, 4, "TIT2\x00\x00\x00\x04\x00\x01"+b, 10)
	}
	refuses(t, 4, "TIT2\x00\x00\x00\x04\x00\x01\x00\x00\x00\x01a", 10) // a stands behind the data
	parses(t, 4, "TIT2\x00\x00\x00\x04\x00\x03"+zeros(4)+"a", false, frame.Frame{Head: frame.Head{ID: "TIT2", Format: 3}}, 1)
}

func TestAllWays(t *testing.T) {
	bodies := []string{"", "a", "\xff", "\x00", "\xff\xe0", "\xff\x00", "\xff\x00\x00", "\xff\xff\xff", "abc\xff\xdf", "\xff\x41\xff\xfb\x00\xff", strings.Repeat("\xff", 130)}
	for format := range 256 {
		for _, version := range []int{3, 4} {
			w := told(version, byte(format))
			for _, body := range bodies {
				for _, group := range []byte{0, 1, 0xff} {
					x := frame.Frame{Head: frame.Head{ID: "APIC", Status: byte(format * 7), Format: byte(format)}, Group: group, Body: body}
					if group != 0 && !w.grouped {
						wrong(t, version, x)
						continue
					}
					prints(t, version, x, bytes(version, x))
				}
			}
		}
	}
}

func TestLockedFramesAreLeft(t *testing.T) {
	for format := range 256 {
		for _, version := range []int{3, 4} {
			if !told(version, byte(format)).locked {
				continue
			}
			for _, body := range []string{"", "a", "\xff\x00\xe0", "\xff\x00", "\xff\xe0", "\x80\x80\x80\x80\x80"} {
				b := "TIT2\x00\x00\x00" + string([]byte{byte(len(body)), 0, byte(format)}) + body
				parses(t, version, b, false, frame.Frame{Head: frame.Head{ID: "TIT2", Format: byte(format)}, Body: body}, 0)
				want := frame.Frame{Head: frame.Head{ID: "TIT2", Format: byte(format)}, Body: body}
				if version == 4 {
					want.Format |= 2
				}
				parses(t, version, b, true, want, 0)
			}
		}
	}
}

func TestSpreadToldFromOutside(t *testing.T) {
	for _, x := range []struct{ data, body string }{
		{"", ""}, {"a", "a"}, {"\xff\x00\xe0", "\xff\xe0"}, {"\xff\x00\x00", "\xff\x00"}, {"\xff\x00\x00\x00", "\xff\x00\x00"}, {"\xff\x00", "\xff"}, {"\xff\xe0", "\xff\xe0"}, {"\xff", "\xff"}, {"a\xff\x00\xff\x00", "a\xff\xff"},
	} {
		size := string([]byte{0, 0, byte(len(x.data))})
		parses(t, 2, "TT2"+size+x.data, true, frame.Frame{Head: frame.Head{ID: "TT2"}, Body: x.data}, 0)
		parses(t, 3, "TIT2\x00"+size+"\x00\x00"+x.data, true, frame.Frame{Head: frame.Head{ID: "TIT2"}, Body: x.data}, 0)
		parses(t, 3, "TIT2\x00"+size+"\x00\x02"+x.data, true, frame.Frame{Head: frame.Head{ID: "TIT2", Format: 2}, Body: x.data}, 0)
		parses(t, 4, "TIT2\x00"+size+"\x00\x00"+x.data, false, frame.Frame{Head: frame.Head{ID: "TIT2"}, Body: x.data}, 0)
		parses(t, 4, "TIT2\x00"+size+"\x00\x00"+x.data, true, frame.Frame{Head: frame.Head{ID: "TIT2", Format: 2}, Body: x.body}, 0)
		parses(t, 4, "TIT2\x00"+size+"\x00\x02"+x.data, true, frame.Frame{Head: frame.Head{ID: "TIT2", Format: 2}, Body: x.body}, 0)
		parses(t, 4, "TIT2\x00"+size+"\x00\x02"+x.data, false, frame.Frame{Head: frame.Head{ID: "TIT2", Format: 2}, Body: x.body}, 0)
		parses(t, 4, "TIT2\x00"+size+"\xff\xb0"+x.data, true, frame.Frame{Head: frame.Head{ID: "TIT2", Status: 0xff, Format: 0xb2}, Body: x.body}, 0)
	}
	// A Group isn't spread, nor does it make the byte behind it one that is put in.
	parses(t, 4, "TIT2\x00\x00\x00\x03\x00\x42\xff\x00\xe0", true, frame.Frame{Head: frame.Head{ID: "TIT2", Format: 0x42}, Group: 0xff, Body: "\x00\xe0"}, 0)
	parses(t, 4, "TIT2\x00\x00\x00\x05\x00\x43\xff\x00\x00\x00\x00", true, frame.Frame{Head: frame.Head{ID: "TIT2", Format: 0x43}, Group: 0xff}, 0)
}

func TestFramesInARow(t *testing.T) {
	text := "..TIT2\x00\x00\x00\x01\x00\x00aCOMM\x00\x00\x00\x03\x00\x40gbcTPE1\x00\x00\x00\x00\x00\x00\x00\x00"
	for _, base := range []int{0, 10, 1 << 20} {
		r := octet.Inner(text, base)
		r.Take(2)
		for _, want := range []frame.Frame{
			{Head: frame.Head{ID: "TIT2"}, Body: "a", At: base + 2},
			{Head: frame.Head{ID: "COMM", Format: 0x40}, Group: 'g', Body: "bc", At: base + 13},
			{Head: frame.Head{ID: "TPE1"}, At: base + 26},
		} {
			if got, ok := frame.Parse(4, r, false); !ok || got != want || r.Fault().Bad() {
				t.Errorf("%+v, %t, %v; should be %+v", got, ok, r.Fault(), want)
			}
		}
		if got, ok := frame.Parse(4, r, false); ok || got != (frame.Frame{}) || r.Fault().Bad() || r.Left() != 2 || r.At() != base+36 {
			t.Errorf("%+v, %t, %v, %d left at %d", got, ok, r.Fault(), r.Left(), r.At())
		}
	}
}

func TestFaultsBehindOtherFrames(t *testing.T) {
	first := "TIT2\x00\x00\x00\x01\x00\x00a"
	for b, at := range map[string]int{
		"T": 1, "tIT2": 0, "TI?2\x00": 2, "TIT2\x00\x00": 6, "TIT2\x00\x80\x00\x00": 5, "TIT2\x00\x00\x00\x00\x00": 9, "TIT2\x00\x00\x00\x03\x00\x00ab": 12,
		"TIT2\x00\x00\x00\x00\x00\x40ab": 10, "TIT2\x00\x00\x00\x02\x00\x01\x80\x80\x80": 12, "TIT2\x00\x00\x00\x05\x00\x41g\x00\x00\x80\x00xyz": 13, "TIT2\x00\x00\x00\x06\x00\x41g\x00\x00\x00\x02bxyz": 11,
	} {
		for _, base := range []int{0, 10, 1 << 40} {
			r := octet.Inner(first+b, base)
			if _, ok := frame.Parse(4, r, false); !ok {
				t.Errorf("the first one: %v", r.Fault())
			}
			if got, ok := frame.Parse(4, r, false); ok || got != (frame.Frame{}) || r.Fault() != malformed(base+11+at) {
				t.Errorf("%q: %+v, %t, %v; should be at %d", b, got, ok, r.Fault(), base+11+at)
			}
			if _, ok := frame.Parse(4, r, false); ok || r.Fault() != malformed(base+11+at) {
				t.Errorf("%q: once more: %t, %v", b, ok, r.Fault())
			}
		}
	}
}

func TestBasesWhosePlacesEnd(t *testing.T) {
	for _, b := range []string{"T", "TI?2", "TIT2\x00\x80\x00\x00", "TIT2\x00\x00\x00\x09\x00\x00a", "TIT2\x00\x00\x00\x00\x00\x40ab", "TIT2\x00\x00\x00\x05\x00\x01\x00\x00\x00\x00a"} {
		r := octet.Inner(b, math.MaxInt)
		if got, ok := frame.Parse(4, r, false); ok || got != (frame.Frame{}) || r.Fault() != malformed(math.MaxInt) {
			t.Errorf("%q: %+v, %t, %v", b, got, ok, r.Fault())
		}
	}
}

func TestCheckOfNames(t *testing.T) {
	for _, version := range all() {
		for n := range 6 {
			x := frame.Frame{Head: frame.Head{ID: "TIT22"[:n]}}
			if n == signs(version) && n > 0 {
				prints(t, version, x, bytes(version, x))
			} else {
				wrong(t, version, x)
			}
			for at := range n {
				for v := range 256 {
					b := []byte("TIT22"[:n])
					b[at] = byte(v)
					x.ID = string(b)
					if n == signs(version) && allowed(byte(v)) {
						prints(t, version, x, bytes(version, x))
					} else {
						wrong(t, version, x)
					}
				}
			}
		}
	}
}

func TestCheckOfFlagsInVersion2(t *testing.T) {
	for v := 1; v < 256; v++ {
		wrong(t, 2, frame.Frame{Head: frame.Head{ID: "TT2", Status: byte(v)}, Body: "a"})
		wrong(t, 2, frame.Frame{Head: frame.Head{ID: "TT2", Format: byte(v)}, Body: "a"})
		wrong(t, 2, frame.Frame{Head: frame.Head{ID: "TT2", Format: byte(v), Status: byte(v)}, Group: 1})
		wrong(t, 2, frame.Frame{Head: frame.Head{ID: "TT2"}, Group: byte(v), Body: "a"})
	}
	prints(t, 2, frame.Frame{Head: frame.Head{ID: "TT2"}, Body: "a"}, "TT2\x00\x00\x01a")
}

func TestCheckOfGroups(t *testing.T) {
	for _, version := range []int{3, 4} {
		for format := range 256 {
			for _, group := range []byte{1, 0x20, 0x40, 0x80, 0xff} {
				x := frame.Frame{Head: frame.Head{ID: "TIT2", Format: byte(format)}, Group: group}
				if told(version, byte(format)).grouped {
					prints(t, version, x, bytes(version, x))
				} else {
					wrong(t, version, x)
				}
			}
		}
	}
}

func TestPlacesAreNotPrinted(t *testing.T) {
	for _, at := range []int{0, 1, -1, math.MaxInt, math.MinInt, 1 << 30} {
		x := frame.Frame{Head: frame.Head{ID: "TIT2"}, Body: "a", At: at}
		prints(t, 3, x, "TIT2\x00\x00\x00\x01\x00\x00a")
		wrong(t, 3, frame.Frame{Head: frame.Head{ID: "TIT2"}, Group: 1, At: at})
	}
}

func TestTooLargeForVersion2(t *testing.T) {
	body := strings.Repeat("b", 1<<24)
	x := frame.Frame{Head: frame.Head{ID: "PIC"}, Body: body[:1<<24-1]}
	prints(t, 2, x, "PIC\xff\xff\xff"+x.Body)
	x.Body = body
	tooLarge(t, 2, x)
	x.ID = "PI?"
	wrong(t, 2, x)
	x.ID = "APIC"
	prints(t, 3, x, "APIC\x01\x00\x00\x00\x00\x00"+body)
	prints(t, 4, x, "APIC\x08\x00\x00\x00\x00\x00"+body)
}

func TestTooLarge(t *testing.T) {
	body := strings.Repeat("b", api.MaxSafe+1)
	for _, x := range []struct {
		version int
		format  byte
		ahead   int
	}{{3, 0, 0}, {3, 0x20, 1}, {3, 0x80, 0}, {4, 0, 0}, {4, 0x40, 1}, {4, 0x01, 4}, {4, 0x41, 5}, {4, 0x4f, 0}} {
		for more := range x.ahead + 1 {
			tooLarge(t, x.version, frame.Frame{Head: frame.Head{ID: "APIC", Format: x.format}, Body: body[:api.MaxSafe-x.ahead+more+1]})
		}
	}
	largest(t, 3, frame.Frame{Head: frame.Head{ID: "APIC", Format: 0x20}, Body: body[:api.MaxSafe-1]}, "\x0f\xff\xff\xff")
	largest(t, 4, frame.Frame{Head: frame.Head{ID: "APIC", Format: 0x41}, Body: body[:api.MaxSafe-5]}, "\x7f\x7f\x7f\x7f")
	wrong(t, 4, frame.Frame{Head: frame.Head{ID: "APIC"}, Group: 1, Body: body})
	wrong(t, 4, frame.Frame{Head: frame.Head{ID: "PIC"}, Body: body})
}

func TestTooLargeAsItIsSpread(t *testing.T) {
	high := strings.Repeat("\xff", 1<<27) // each has one more byte
	for format, ahead := range map[byte]int{0x02: 0, 0x42: 1, 0x03: 4, 0x43: 5} {
		x := frame.Frame{Head: frame.Head{ID: "APIC", Format: format}, Body: high}
		tooLarge(t, 4, x)
		x.Body = high[:(api.MaxSafe-ahead)/2+1]
		tooLarge(t, 4, x)
	}
	largest(t, 4, frame.Frame{Head: frame.Head{ID: "APIC", Format: 0x43}, Body: high[:(api.MaxSafe-5)/2]}, "\x7f\x7f\x7f\x7f")
	locked := frame.Frame{Head: frame.Head{ID: "APIC", Format: 0x06}, Body: high}
	if s, bad := locked.Print(4); bad.Bad() || len(s) != 10+len(high) {
		t.Errorf("locked: %d bytes, %v", len(s), bad)
	}
}

func TestWhatIsPrintedIsReadWhereSpreadIsTold(t *testing.T) {
	for format := range 256 {
		for _, body := range []string{"", "a", "\xff", "\xff\x00", "\xff\x00\x00", "ab\xff\xe0", "\xff\xff"} {
			x := frame.Frame{Head: frame.Head{ID: "TIT2", Format: byte(format), Status: 3}, Body: body}
			parses(t, 3, bytes(3, x), true, x, 0)
			y := frame.Frame{Head: frame.Head{ID: "TT2"}, Body: body}
			parses(t, 2, bytes(2, y), true, y, 0)
			if format&2 != 0 {
				parses(t, 4, bytes(4, x), true, x, 0)
			}
		}
	}
}

// meaning is what the bits tell.
type meaning struct{ locked, grouped, measured, spread bool }

// told is what they tell, as the document's words have it.
func told(version int, format byte) meaning {
	has := func(bit byte) bool { return format&bit != 0 }
	switch {
	case version == 3 && (has(0x80) || has(0x40)), version == 4 && (has(0x08) || has(0x04)):
		return meaning{locked: true}
	case version == 3:
		return meaning{grouped: has(0x20)}
	case version == 4:
		return meaning{grouped: has(0x40), spread: has(0x02), measured: has(0x01)}
	}
	return meaning{}
}

// bytes are a frame's bytes, as the document's words have it, where its data has fewer than 16384 of them.
func bytes(version int, x frame.Frame) string {
	body := x.Body
	w := told(version, x.Format)
	if w.spread {
		body = ""
		for i := range len(x.Body) {
			body += x.Body[i : i+1]
			if x.Body[i] == 0xff && (i+1 == len(x.Body) || x.Body[i+1] == 0 || x.Body[i+1] >= 0xe0) {
				body += "\x00"
			}
		}
	}
	data := body
	if w.measured {
		data = string([]byte{0, 0, byte(len(x.Body) >> 7), byte(len(x.Body) & 0x7f)}) + data
	}
	if w.grouped {
		data = string([]byte{x.Group}) + data
	}
	switch version {
	case 2:
		return x.ID + string([]byte{0, byte(len(data) >> 8), byte(len(data))}) + data
	case 3:
		return x.ID + string([]byte{0, 0, byte(len(data) >> 8), byte(len(data)), x.Status, x.Format}) + data
	}
	return x.ID + string([]byte{0, 0, byte(len(data) >> 7), byte(len(data) & 0x7f), x.Status, x.Format}) + data
}

// signs are how many signs a name has.
func signs(version int) int {
	return map[int]int{2: 3, 3: 4, 4: 4}[version]
}

// allowed says whether a byte may stand in a name.
func allowed(b byte) bool {
	return strings.IndexByte("ABCDEFGHIJKLMNOPQRSTUVWXYZ0123456789", b) >= 0
}

// named tells where Named answers wrongly.
func named(t *testing.T, version int, id string, want bool) {
	t.Helper()
	if frame.Named(version, id) != want {
		t.Errorf("version %d, %q: %t", version, id, !want)
	}
}

// parses tells where a frame isn't read as wanted, or not so many bytes are left.
func parses(t *testing.T, version int, b string, spread bool, want frame.Frame, left int) {
	t.Helper()
	for _, base := range []int{0, 10} {
		r := octet.Inner(b, base)
		want.At = base
		if got, ok := frame.Parse(version, r, spread); !ok || got != want || r.Fault().Bad() || r.Left() != left {
			t.Errorf("version %d: %.40q, %t: %.60q, %t, %v, %d left; should be %.60q", version, b, spread, got.Body, ok, r.Fault(), r.Left(), want.Body)
		}
	}
}

// readsNothing tells where Parse reads something, or has some answer.
func readsNothing(t *testing.T, version int, b string, spread bool) {
	t.Helper()
	r := octet.Inner(".."+b, 10)
	r.Take(2)
	if got, ok := frame.Parse(version, r, spread); ok || got != (frame.Frame{}) || r.Fault().Bad() || r.At() != 12 || r.Left() != len(b) {
		t.Errorf("version %d, %q: %+v, %t, %v, at %d", version, b, got, ok, r.Fault(), r.At())
	}
}

// refuses tells where bytes aren't refused at a place, whether spread is told or not.
func refuses(t *testing.T, version int, b string, at int) {
	t.Helper()
	refusesWhere(t, version, b, false, at)
	refusesWhere(t, version, b, true, at)
}

// refusesWhere is the same, where spread is told, or isn't.
func refusesWhere(t *testing.T, version int, b string, spread bool, at int) {
	t.Helper()
	for _, base := range []int{0, 10} {
		r := octet.Inner("."+b, base)
		r.Take(1)
		if got, ok := frame.Parse(version, r, spread); ok || got != (frame.Frame{}) || r.Fault() != malformed(base+1+at) {
			t.Errorf("version %d, %.40q, %t: %+v, %t, %v; should be at %d", version, b, spread, got, ok, r.Fault(), base+1+at)
		}
	}
}

// malformed is the one fault of Parse.
func malformed(at int) api.Fault { return api.Fault{Errno: api.ErrMalformed, At: at} }

// prints tells where a frame isn't printed as wanted, or isn't read again as it was.
func prints(t *testing.T, version int, x frame.Frame, want string) {
	t.Helper()
	if f := x.Check(version); f != (api.Fault{}) {
		t.Errorf("version %d: %.60q: %v", version, x.ID, f)
	}
	if s, f := x.Print(version); s != want || f != (api.Fault{}) {
		t.Errorf("version %d: %.60q, %v; should be %.60q", version, s, f, want)
	}
	parses(t, version, want+"T", false, x, 1)
}

// wrong tells where a frame isn't refused as an argument.
func wrong(t *testing.T, version int, x frame.Frame) {
	t.Helper()
	want := api.Fault{Errno: api.ErrArg}
	if f := x.Check(version); f != want {
		t.Errorf("version %d, %q: Check: %v", version, x.ID, f)
	}
	if s, f := x.Print(version); s != "" || f != want {
		t.Errorf("version %d, %q: Print: %.60q, %v", version, x.ID, s, f)
	}
}

// tooLarge tells where a frame isn't refused as too large, by Print alone.
func tooLarge(t *testing.T, version int, x frame.Frame) {
	t.Helper()
	if f := x.Check(version); f != (api.Fault{}) {
		t.Errorf("version %d: Check: %v", version, f)
	}
	if s, f := x.Print(version); s != "" || f != (api.Fault{Errno: api.ErrTooLarge}) {
		t.Errorf("version %d, %02x: %d bytes, %v", version, x.Format, len(s), f)
	}
}

// largest tells where a frame isn't printed, whose data has as many bytes as may be.
func largest(t *testing.T, version int, x frame.Frame, size string) {
	t.Helper()
	s, bad := x.Print(version)
	if bad.Bad() || len(s) != 10+api.MaxSafe || s[:10] != x.ID+size+string([]byte{x.Status, x.Format}) {
		t.Errorf("version %d, %02x: %d bytes, %v", version, x.Format, len(s), bad)
	}
}

// zeros are so many bytes 0.
func zeros(n int) string { return strings.Repeat("\x00", n) }
