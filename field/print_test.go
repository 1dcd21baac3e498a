package field_test

import (
	"slices"
	"strings"
	"testing"

	"diacritic/api"
	"diacritic/field"
)

// right are pieces that may be printed, whatever they are named.
func right(version int, id string) []field.Part {
	var l []field.Part
	for _, name := range toldPieces(version, id) {
		l = append(l, field.Part{Raw: raw(name), Text: strings.Repeat("x", max(sizeOf(name), 0))})
	}
	return l
}

// but is a list, with one piece in another's place.
func but(l []field.Part, at int, p field.Part) []field.Part {
	l = slices.Clone(l)
	l[at] = p
	return l
}

// piece is a raw piece or a text, without name.
func piece(raw bool, s string) field.Part { return field.Part{Raw: raw, Text: s} }

// row is a version, and a name.
type row struct {
	version int
	id      string
}

// allRows are all names of all versions, of data alone too.
func allRows() []row {
	var l []row
	for _, version := range there() {
		for _, id := range rows(version) {
			l = append(l, row{version, id})
		}
	}
	for _, version := range none() {
		l = append(l, row{version, "TIT2"}, row{version, "COM"}, row{version, "APIC"})
	}
	return append(l, row{2, "TXXX"}, row{3, "TXX"}, row{4, ""}, row{3, "T"})
}

func TestPrintOfEachRow(t *testing.T) {
	a, eng, jpg := piece(false, "a"), piece(true, "eng"), piece(true, "\xff\xd8\x00")
	accent := piece(false, "\u00e9\U0001F600")
	prints(t, 2, "TXX", "\x01\xff\xfea\x00\x00\x00\xff\xfe\xe9\x00\x3d\xd8\x00\xde", a, accent)
	prints(t, 3, "TXXX", "\x01\xff\xfea\x00\x00\x00\xff\xfe\xe9\x00\x3d\xd8\x00\xde", a, accent)
	prints(t, 4, "TXXX", "\x03a\x00\xc3\xa9\xf0\x9f\x98\x80", a, accent)
	for _, id := range []string{"COM", "ULT"} {
		prints(t, 2, id, "\x01eng\xff\xfe\xe9\x00\x3d\xd8\x00\xde\x00\x00\xff\xfea\x00", eng, accent, a)
	}
	for _, id := range []string{"COMM", "USLT"} {
		prints(t, 3, id, "\x01eng\xff\xfe\xe9\x00\x3d\xd8\x00\xde\x00\x00\xff\xfea\x00", eng, accent, a)
		prints(t, 4, id, "\x03eng\xc3\xa9\xf0\x9f\x98\x80\x00a", eng, accent, a)
	}
	prints(t, 2, "WXX", "\x01\xff\xfea\x00\x00\x00\xff\xd8\x00", a, jpg)
	prints(t, 3, "WXXX", "\x01\xff\xfea\x00\x00\x00\xff\xd8\x00", a, jpg)
	prints(t, 4, "WXXX", "\x03a\x00\xff\xd8\x00", a, jpg)
	prints(t, 2, "PIC", "\x01eng\x03\xff\xfea\x00\x00\x00\xff\xd8\x00", eng, piece(true, "\x03"), a, jpg)
	prints(t, 3, "APIC", "\x01i/p\x00\x03\xff\xfea\x00\x00\x00\xff\xd8\x00", piece(true, "i/p"), piece(true, "\x03"), a, jpg)
	prints(t, 4, "APIC", "\x03i/p\x00\x03a\x00\xff\xd8\x00", piece(true, "i/p"), piece(true, "\x03"), a, jpg)
	prints(t, 2, "TT2", "\x01\xff\xfea\x00", a)
	prints(t, 3, "TIT2", "\x01\xff\xfe\xe9\x00\x3d\xd8\x00\xde", accent)
	prints(t, 4, "TIT2", "\x03\xc3\xa9\xf0\x9f\x98\x80", accent)
	for _, version := range all() {
		prints(t, version, "PRIV", "\xff\xd8\x00", jpg)
		prints(t, version, "", "", piece(true, ""))
	}
}

func TestPrintOfEmptyPieces(t *testing.T) {
	prints(t, 3, "TIT2", "\x01\xff\xfe", piece(false, ""))
	prints(t, 4, "TIT2", "\x03", piece(false, ""))
	prints(t, 2, "TXX", "\x01\xff\xfe\x00\x00\xff\xfe", piece(false, ""), piece(false, ""))
	prints(t, 4, "TXXX", "\x03\x00", piece(false, ""), piece(false, ""))
	prints(t, 3, "WXXX", "\x01\xff\xfe\x00\x00", piece(false, ""), piece(true, ""))
	prints(t, 3, "APIC", "\x01\x00\x00\xff\xfe\x00\x00", piece(true, ""), piece(true, "\x00"), piece(false, ""), piece(true, ""))
	prints(t, 4, "APIC", "\x03\x00\x00\x00", piece(true, ""), piece(true, "\x00"), piece(false, ""), piece(true, ""))
}

func TestNamesAndSetsAreNotLookedAt(t *testing.T) {
	for _, name := range []string{"", "text", "language", "x\xff\x00"} {
		for _, c := range []api.Charset{0, api.UTF16B, api.KOI8R, -1, 99} {
			prints(t, 3, "TIT2", "\x01\xff\xfea\x00", field.Part{Name: name, Text: "a", Set: c})
			prints(t, 4, "COMM", "\x03eng\x00a", field.Part{Name: name, Raw: true, Text: "eng", Set: c}, field.Part{Name: name, Set: c}, field.Part{Name: name, Text: "a", Set: c})
			prints(t, 3, "PRIV", "\xff", field.Part{Name: name, Raw: true, Text: "\xff", Set: c})
		}
	}
}

func TestPiecesMissingOrTooMany(t *testing.T) {
	for _, x := range allRows() {
		l := right(x.version, x.id)
		if f := field.Check(x.version, x.id, l...); f.Bad() {
			t.Fatal(x, l, f)
		}
		for n := range l {
			wrong(t, x.version, x.id, argument(n), l[:n]...)
		}
		wrong(t, x.version, x.id, argument(0), []field.Part(nil)...)
		wrong(t, x.version, x.id, argument(0), []field.Part{}...)
		for _, more := range []field.Part{{}, {Raw: true}, {Text: "\xff"}, {Raw: true, Text: "\x00"}} {
			wrong(t, x.version, x.id, argument(len(l)), append(slices.Clone(l), more)...)
			wrong(t, x.version, x.id, argument(len(l)), append(slices.Clone(l), more, more)...)
		}
		for at := range l { // one is missing amid the others
			less := slices.Delete(slices.Clone(l), at, at+1)
			wrong(t, x.version, x.id, toldCheck(x.version, x.id, less), less...)
		}
	}
	wrong(t, 3, "COMM", argument(0), piece(false, ""), piece(false, ""))
	wrong(t, 3, "COMM", argument(2), piece(true, "eng"), piece(false, ""))
	wrong(t, 4, "APIC", argument(1), piece(true, ""), piece(false, ""), piece(true, ""))
	wrong(t, 4, "APIC", argument(3), piece(true, ""), piece(true, "\x03"), piece(false, ""))
	wrong(t, 4, "PRIV", argument(1), piece(true, ""), piece(true, ""))
}

func TestRawPiecesAndTexts(t *testing.T) {
	for _, x := range allRows() {
		l := right(x.version, x.id)
		for at, p := range l {
			for _, s := range []string{p.Text, "eng", "", "\xff", "\x00"} {
				wrong(t, x.version, x.id, argument(at), but(l, at, piece(!p.Raw, s))...)
			}
		}
	}
}

func TestSizes(t *testing.T) {
	for _, x := range allRows() {
		l := right(x.version, x.id)
		for at, name := range toldPieces(x.version, x.id) {
			for n := range 6 {
				for _, b := range []string{"x", "\x00", "\xff"} {
					m := but(l, at, piece(raw(name), strings.Repeat(b, n)))
					f := field.Check(x.version, x.id, m...)
					if want := toldCheck(x.version, x.id, m); f != want {
						t.Errorf("%v, %s of %d bytes: %v; should be %v", x, name, n, f, want)
					}
				}
			}
		}
	}
	for _, s := range []string{"", "x", "en", "engl", "english", "\x00\x00\x00\x00"} {
		wrong(t, 2, "COM", argument(0), piece(true, s), piece(false, ""), piece(false, ""))
		wrong(t, 3, "USLT", argument(0), piece(true, s), piece(false, ""), piece(false, ""))
		wrong(t, 2, "PIC", argument(0), piece(true, s), piece(true, "\x03"), piece(false, ""), piece(true, ""))
	}
	for _, s := range []string{"", "xx", "\x00\x00"} {
		wrong(t, 2, "PIC", argument(1), piece(true, "PNG"), piece(true, s), piece(false, ""), piece(true, ""))
		wrong(t, 4, "APIC", argument(1), piece(true, "PNG"), piece(true, s), piece(false, ""), piece(true, ""))
	}
}

func TestBytesThatEndPieces(t *testing.T) {
	for _, s := range []string{"\x00", "\x00ab", "a\x00b", "ab\x00", "\x00\x00", "\u0100\x00", "\xff\x00", "\x00\xff"} {
		for _, version := range []int{3, 4} {
			wrong(t, version, "APIC", argument(0), piece(true, s), piece(true, "\x03"), piece(false, ""), piece(true, ""))
			wrong(t, version, "APIC", argument(2), piece(true, ""), piece(true, "\x03"), piece(false, s), piece(true, ""))
			wrong(t, version, "TXXX", argument(0), piece(false, s), piece(false, ""))
			wrong(t, version, "COMM", argument(1), piece(true, "eng"), piece(false, s), piece(false, ""))
			wrong(t, version, "WXXX", argument(0), piece(false, s), piece(true, ""))
		}
		wrong(t, 2, "PIC", argument(2), piece(true, "\x00\x00\x00"), piece(true, "\x00"), piece(false, s), piece(true, ""))
		wrong(t, 2, "ULT", argument(1), piece(true, "\x00\x00\x00"), piece(false, s), piece(false, ""))
	}
	// Where no end stands behind, a byte 0 is one as any other.
	prints(t, 3, "TIT2", "\x01\xff\xfe\x00\x00a\x00\x00\x00", piece(false, "\x00a\x00"))
	prints(t, 4, "TXXX", "\x03\x00\x00a\x00", piece(false, ""), piece(false, "\x00a\x00"))
	prints(t, 4, "COMM", "\x03\x00\x00\x00\x00", piece(true, "\x00\x00\x00"), piece(false, ""), piece(false, ""))
	// A sign that has a byte 0 in its unit is no end.
	prints(t, 3, "TXXX", "\x01\xff\xfe\x00\x01\x00\x00\xff\xfe", piece(false, "\u0100"), piece(false, ""))
	prints(t, 3, "APIC", "\x01\xff\xc1\x00\x03\xff\xfe\x00\x00", piece(true, "\xff\xc1"), piece(true, "\x03"), piece(false, ""), piece(true, ""))
}

func TestTextsThatAreNotMadeOfSigns(t *testing.T) {
	for _, s := range []string{"\xff", "a\xff", "\xc3", "\xed\xa0\x80", "\xe0\x80\x80", "\xf4\x90\x80\x80", "\u0430\x80", "\xc0\x80"} {
		bad := piece(false, s)
		for _, version := range []int{3, 4} {
			wrong(t, version, "TIT2", undecodable(0), bad)
			wrong(t, version, "TXXX", undecodable(0), bad, piece(false, ""))
			wrong(t, version, "TXXX", undecodable(1), piece(false, ""), bad)
			wrong(t, version, "COMM", undecodable(1), piece(true, "eng"), bad, bad)
			wrong(t, version, "COMM", undecodable(2), piece(true, "eng"), piece(false, ""), bad)
			wrong(t, version, "WXXX", undecodable(0), bad, piece(true, ""))
			wrong(t, version, "APIC", undecodable(2), piece(true, ""), piece(true, "\x03"), bad, piece(true, ""))
			// Raw pieces may be any bytes.
			prints(t, version, "PRIV", s, piece(true, s))
		}
		wrong(t, 2, "TT2", undecodable(0), bad)
		wrong(t, 2, "PIC", undecodable(2), piece(true, "PNG"), piece(true, "\x03"), bad, piece(true, ""))
		prints(t, 4, "WXXX", "\x03\x00"+s, piece(false, ""), piece(true, s))
		prints(t, 4, "APIC", "\x03"+s+"\x00\xff\x00", piece(true, s), piece(true, "\xff"), piece(false, ""), piece(true, ""))
	}
}

func TestPiecesThatAreWrongTwice(t *testing.T) {
	wrong(t, 3, "TXXX", argument(0), piece(false, "\xff\x00"), piece(false, ""))
	wrong(t, 3, "TXXX", argument(0), piece(true, "\x00"), piece(false, ""))
	wrong(t, 3, "TXXX", argument(0), piece(true, "\xff"), piece(false, ""))
	wrong(t, 4, "TIT2", argument(0), piece(true, "\xff"))
	wrong(t, 4, "COMM", argument(0), piece(false, "\xff"), piece(false, ""), piece(false, ""))
	wrong(t, 4, "APIC", argument(0), piece(false, "\x00\xff"), piece(true, "\x03"), piece(false, ""), piece(true, ""))
	wrong(t, 4, "APIC", argument(1), piece(true, ""), piece(false, "\xff\xff"), piece(false, ""), piece(true, ""))
}

func TestTwoPiecesThatAreWrong(t *testing.T) {
	wrong(t, 3, "COMM", argument(0), piece(true, "en"), piece(false, "\xff"), piece(false, ""))
	wrong(t, 3, "COMM", undecodable(1), piece(true, "eng"), piece(false, "\xff"), piece(true, ""))
	wrong(t, 3, "COMM", undecodable(1), piece(true, "eng"), piece(false, "\xff"))
	wrong(t, 3, "COMM", undecodable(2), piece(true, "eng"), piece(false, ""), piece(false, "\xff"), piece(false, ""))
	wrong(t, 3, "COMM", argument(1), piece(true, "eng"), piece(false, "\x00"), piece(false, "\xff"), piece(false, ""))
	wrong(t, 3, "TIT2", undecodable(0), piece(false, "\xff"), piece(false, "a"))
	wrong(t, 3, "PRIV", argument(0), piece(false, ""), piece(true, ""))
	for _, x := range allRows() { // each two pieces, each in two ways
		l := right(x.version, x.id)
		for i := range l {
			for j := range l {
				for _, s := range []string{"", "\x00", "\xff", "xx"} {
					for n := range 4 {
						m := but(l, i, piece(n&1 == 0, s))
						m = but(m, j, piece(n&2 == 0, s))
						f := field.Check(x.version, x.id, m...)
						b, g := field.Print(x.version, x.id, m...)
						if want := toldCheck(x.version, x.id, m); f != want || g != want || f.Bad() && b != "" {
							t.Fatalf("%v, %v: %v, %v, %q; should be %v", x, m, f, g, b, want)
						}
					}
				}
			}
		}
	}
}

// samples are texts of signs in one unit and in two, with marks and bytes 0 among them.
func samples() []string {
	return words(2, "a", "\u00e9", "\u0100", "\u0430", "\ud7ff", "\ue000", "\ufeff", "\ufffe", "\uffff", "\U00010000", "\U0001F600", "\U0010FFFF", "\x00", "\x01")
}

// come fails a test, if pieces aren't printed as they should be, and read again as they were.
func come(t *testing.T, version int, id string, l ...field.Part) {
	t.Helper()
	b, f := field.Print(version, id, l...)
	if f.Bad() || b != toldPrint(version, id, l) {
		t.Fatalf("version %d, %s, %v: %q, %v", version, id, l, b, f)
	}
	for _, o := range options() {
		if m, f := field.Parse(version, id, b, o); f.Bad() || !slices.Equal(m, again(version, id, l)) {
			t.Fatalf("version %d, %s, %v: %q: %v, %v, with %v", version, id, l, b, m, f, o)
		}
	}
}

func TestPrintedIsReadAsItWas(t *testing.T) {
	for _, x := range allRows() {
		names := toldPieces(x.version, x.id)
		come(t, x.version, x.id, right(x.version, x.id)...)
		for _, s := range samples() {
			l := right(x.version, x.id)
			for i, name := range names {
				switch {
				case sizeOf(name) >= 0:
					l[i].Text = (s + "\x00\xff\x01")[:sizeOf(name)]
				case name == "mime" || name == "description":
					l[i].Text = strings.ReplaceAll(s, "\x00", "")
				default:
					l[i].Text = s
				}
			}
			come(t, x.version, x.id, l...)
		}
	}
}

func TestRawPiecesAreReadAsTheyWere(t *testing.T) {
	for v := range 256 {
		b := string([]byte{byte(v)})
		for _, version := range there() {
			l := rows(version)
			come(t, version, l[1], piece(true, b+b+b), piece(false, ""), piece(false, b[:0]))
			come(t, version, l[3], piece(false, "\u0100"), piece(true, b+"\x00"+b))
			come(t, version, l[6], piece(true, b))
			switch {
			case version == 2:
				come(t, version, l[4], piece(true, b+"\x00"+b), piece(true, b), piece(false, "a"), piece(true, b))
			case v != 0:
				come(t, version, l[4], piece(true, b+b), piece(true, b), piece(false, "a"), piece(true, b))
			}
		}
	}
}

func TestPartsReadArePrintedAndReadAgain(t *testing.T) {
	for _, version := range there() {
		for _, id := range rows(version) {
			for _, b := range words(4, "\x00", "a", "\xc1", "\xff\xfe", "\xfe\xff", "\x04") {
				for _, e := range []string{"\x00", "\x01", "\x02", "\x03"} {
					l, f := field.Parse(version, id, e+b, api.Options{Fallback: api.KOI8R})
					if !f.Bad() {
						come(t, version, id, l...)
					}
				}
			}
		}
	}
}

func TestListsAreNotChangedAndNotKept(t *testing.T) {
	room := [4]field.Part{piece(true, "eng"), piece(false, "a"), piece(false, "b"), piece(false, "room")}
	was := room
	field.Check(3, "COMM", room[:3]...)
	field.Print(3, "COMM", room[:3]...)
	field.Print(4, "COMM", room[:2]...)
	if room != was {
		t.Errorf("changed: %v", room)
	}
	a, _ := field.Parse(3, "COMM", "\x00eng\x00a", api.Options{})
	b, _ := field.Parse(3, "COMM", "\x00eng\x00a", api.Options{})
	a[0].Text, a[2].Name = "x", "y"
	if !slices.Equal(b, []field.Part{bytesOf("language", "eng"), textOf("description", "", api.UTF8), textOf("text", "a", api.UTF8)}) {
		t.Errorf("kept: %v", b)
	}
}

func TestLargeBodies(t *testing.T) {
	s := strings.Repeat("a\u0430\U0001F600", 1<<16)
	come(t, 3, "COMM", piece(true, "eng"), piece(false, s), piece(false, s))
	come(t, 4, "APIC", piece(true, strings.Repeat("i", 1<<20)), piece(true, "\x03"), piece(false, s), piece(true, s))
	refuses(t, 3, "APIC", "\x00"+strings.Repeat("i", 1<<20), api.Options{}, malformed(1<<20+1))
}
