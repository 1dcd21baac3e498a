package tail_test

import (
	"strings"
	"testing"

	"diacritic/api"
	"diacritic/tail"
)

// The texts' numbers.
const (
	title = iota
	artist
	album
	year
	comment
)

func TestExample(t *testing.T) {
	b := "TAG" + "a" + zeros(29) + zeros(93) + "\x05\x11"
	parses(t, b, tail.Tail{Names: tail.Names{Title: "a"}, Track: 5, Genre: 17})
}

func TestParseOfEachText(t *testing.T) {
	b := "TAG" + filled("title", 30) + filled("artist", 30) + filled("album", 30) + filled("1999", 4) + filled("comment", 30) + "\xff"
	parses(t, b, tail.Tail{Names: tail.Names{Title: "title", Artist: "artist", Album: "album", Year: "1999", Comment: "comment"}, Genre: 255})
	parses(t, "TAG"+zeros(125), tail.Tail{})
}

func TestParseOfTextsThatFillTheirBytes(t *testing.T) {
	b := "TAG" + strings.Repeat("a", 30) + strings.Repeat("b", 30) + strings.Repeat("c", 30) + "1234" + strings.Repeat("d", 30) + "\x01"
	n := tail.Names{Title: b[3:33], Artist: b[33:63], Album: b[63:93], Year: b[93:97], Comment: b[97:127]}
	parses(t, b, tail.Tail{Names: n, Genre: 1})
	n.Comment = n.Comment[:28]
	parses(t, b[:125]+"\x00\x07\x01", tail.Tail{Names: n, Track: 7, Genre: 1})
	parses(t, b[:125]+"\x00\x00\x01", tail.Tail{Names: n, Genre: 1})
	n.Comment += "d"
	parses(t, b[:126]+"\x00\x01", tail.Tail{Names: n, Genre: 1})
}

func TestParseOfWhatStandsBehindAByteZero(t *testing.T) {
	b := "TAG" + "ti\x00le" + strings.Repeat("x", 25) + "\x00rtist" + strings.Repeat("x", 24) + strings.Repeat("x", 29) + "\x00" + "1\x009\x00" + "comm\x00n\x00" + strings.Repeat("x", 23) + "\x01"
	want := tail.Tail{Names: tail.Names{Title: "ti", Album: strings.Repeat("x", 29), Year: "1", Comment: "comm"}, Genre: 1}
	parses(t, b, want)
	want.Track = 'x'
	parses(t, b[:125]+"\x00x\x01", want)
}

func TestParseOfEachByteZero(t *testing.T) {
	plain := "TAG" + strings.Repeat("x", 125)
	for at := 3; at < 127; at++ {
		b := plain[:at] + "\x00" + plain[at+1:]
		want := cut(b)
		if at == 125 {
			want.Track = 'x'
		}
		parses(t, b, want)
	}
	parses(t, plain[:127]+"\x00", tail.Tail{Names: cut(plain).Names})
}

func TestParseOfEachByte(t *testing.T) {
	plain := "TAG" + strings.Repeat("x", 125)
	for at := range plain {
		for v := 1; v < 256; v++ {
			b := plain[:at] + string([]byte{byte(v)}) + plain[at+1:]
			if at < 3 && b != plain {
				parsesNot(t, b)
			} else {
				parses(t, b, cut(b))
			}
		}
	}
}

func TestParseOfTheCommentsLastBytes(t *testing.T) {
	ahead := "TAG" + zeros(94)
	for _, s := range []string{"", "a", strings.Repeat("c", 27), strings.Repeat("c", 28), "\x00" + strings.Repeat("c", 27), "a\x00" + strings.Repeat("c", 26)} {
		text, _, _ := strings.Cut(s, "\x00")
		full := filled(s, 28)
		last := text
		if len(text) == 28 {
			last = text + "y"
		}
		both := text
		if len(text) == 28 {
			both = text + "yz"
		}
		parses(t, ahead+full+"\x00\x00\x02", tail.Tail{Names: tail.Names{Comment: text}, Genre: 2})
		parses(t, ahead+full+"\x00z\x02", tail.Tail{Names: tail.Names{Comment: text}, Track: 'z', Genre: 2})
		parses(t, ahead+full+"y\x00\x02", tail.Tail{Names: tail.Names{Comment: last}, Genre: 2})
		parses(t, ahead+full+"yz\x02", tail.Tail{Names: tail.Names{Comment: both}, Genre: 2})
	}
	for track := range 256 {
		b := ahead + filled("c", 29) + string([]byte{byte(track), 3})
		parses(t, b, tail.Tail{Names: tail.Names{Comment: "c"}, Track: byte(track), Genre: 3})
	}
}

func TestParseOfEachSize(t *testing.T) {
	b := "TAG" + strings.Repeat("x", 400)
	for n := range b {
		if n != 128 {
			parsesNot(t, b[:n])
		}
	}
	parses(t, b[:128], cut(b[:128]))
	parsesNot(t, "TAG"+zeros(124))
	parses(t, "TAG"+zeros(125), tail.Tail{})
	parsesNot(t, "TAG"+zeros(126))
}

func TestParseOfOtherLetters(t *testing.T) {
	for _, s := range []string{"tag", "Tag", "TAg", "tAG", "TAH", "TA\x00", "\x00AG", "ID3", "TGA", " TA", "\xd4AG"} {
		parsesNot(t, s+zeros(125))
	}
	parsesNot(t, zeros(128))
	parsesNot(t, zeros(1)+"TAG"+zeros(124))
	parsesNot(t, zeros(125)+"TAG")
}

func TestSplit(t *testing.T) {
	end := "TAG" + strings.Repeat("x", 125)
	splits(t, "", "", "")
	splits(t, end, "", end)
	splits(t, "sound"+end, "sound", end)
	splits(t, "\x00"+end, "\x00", end)
	splits(t, end+end, end, end)
	splits(t, "TAG"+end, "TAG", end)
	splits(t, strings.Repeat("s", 1<<20)+end, strings.Repeat("s", 1<<20), end)
	n := strings.Repeat("x", 122)
	splits(t, "TAG"+"TAG"+n+"abc", "TAG", "TAG"+n+"abc") // twice, the first time amid what stands ahead
}

func TestSplitOfFilesWithoutATail(t *testing.T) {
	end := "TAG" + strings.Repeat("x", 125)
	for n := range 128 {
		splits(t, end[:n], end[:n], "")
		splits(t, end[n+1:], end[n+1:], "")
	}
	for n := 1; n < 140; n++ {
		splits(t, end+strings.Repeat("y", n), end+strings.Repeat("y", n), "") // TAG stands elsewhere
	}
	for _, s := range []string{zeros(128), zeros(129), "sound" + zeros(128), "tag" + zeros(125), "soundTag" + zeros(125), zeros(400) + "TAG", "sound" + end[1:], "sound" + end + "s", "T" + "sound" + "AG" + end[3:]} {
		splits(t, s, s, "")
	}
}

func TestPrint(t *testing.T) {
	prints(t, tail.Tail{}, "TAG"+zeros(125))
	prints(t, tail.Tail{Genre: 255}, "TAG"+zeros(124)+"\xff")
	prints(t, tail.Tail{Track: 255}, "TAG"+zeros(123)+"\xff\x00")
	n := tail.Names{Title: "t", Artist: "ar", Album: "alb", Year: "y", Comment: "co"}
	ahead := "TAG" + filled("t", 30) + filled("ar", 30) + filled("alb", 30) + filled("y", 4)
	prints(t, tail.Tail{Names: n, Genre: 9}, ahead+filled("co", 30)+"\x09")
	prints(t, tail.Tail{Names: n, Track: 1, Genre: 9}, ahead+filled("co", 28)+"\x00\x01\x09")
}

func TestPrintOfTextsThatFillTheirBytes(t *testing.T) {
	full := strings.Repeat("\xff", 30)
	n := tail.Names{Title: full, Artist: full, Album: full, Year: full[:4], Comment: full}
	prints(t, tail.Tail{Names: n, Genre: 255}, "TAG"+strings.Repeat("\xff", 125))
	n.Comment = full[:29]
	prints(t, tail.Tail{Names: n, Genre: 255}, "TAG"+strings.Repeat("\xff", 123)+"\x00\xff")
	n.Comment = full[:28]
	prints(t, tail.Tail{Names: n, Genre: 255}, "TAG"+strings.Repeat("\xff", 122)+"\x00\x00\xff")
	prints(t, tail.Tail{Names: n, Track: 1, Genre: 255}, "TAG"+strings.Repeat("\xff", 122)+"\x00\x01\xff")
}

func TestPrintOfEachTrackAndGenre(t *testing.T) {
	for track := range 256 {
		for genre := range 256 {
			prints(t, tail.Tail{Track: byte(track), Genre: byte(genre)}, "TAG"+zeros(123)+string([]byte{byte(track), byte(genre)}))
		}
	}
}

func TestPrintOfEachSize(t *testing.T) {
	for _, track := range []byte{0, 1, 255} {
		for i := range 5 {
			for n := range 40 {
				x := with(tail.Tail{Track: track, Genre: 1}, i, strings.Repeat("x", n))
				if n > room(i, track) {
					refuses(t, x, api.ErrTooLarge, i)
					continue
				}
				at := 3 + 30*i
				if i == comment {
					at = 97
				}
				b := "TAG" + zeros(123) + string([]byte{track, 1})
				prints(t, x, b[:at]+strings.Repeat("x", n)+b[at+n:])
			}
			refuses(t, with(tail.Tail{Track: track}, i, strings.Repeat("x", 1<<20)), api.ErrTooLarge, i)
		}
	}
}

func TestCommentBesideATrack(t *testing.T) {
	for n, fits := range map[int]bool{27: true, 28: true, 29: false, 30: false, 31: false} {
		for _, track := range []byte{1, 'x', 255} {
			x := tail.Tail{Names: tail.Names{Comment: strings.Repeat("c", n)}, Track: track}
			if fits {
				prints(t, x, "TAG"+zeros(94)+filled(x.Comment, 28)+"\x00"+string([]byte{track})+"\x00")
			} else {
				refuses(t, x, api.ErrTooLarge, comment)
			}
		}
	}
}

func TestTextsWithAByteZero(t *testing.T) {
	for _, track := range []byte{0, 1} {
		for i := range 5 {
			for _, s := range []string{"\x00", "\x00a", "a\x00", "a\x00b", "\x00\x00"} {
				refuses(t, with(tail.Tail{Track: track}, i, s), api.ErrArg, i)
			}
			n := room(i, track)
			for at := range n + 3 {
				long := strings.Repeat("x", at) + "\x00" + strings.Repeat("x", n+3-at)
				refuses(t, with(tail.Tail{Track: track}, i, long), api.ErrArg, i) // too long, too
			}
			refuses(t, with(tail.Tail{Track: track}, i, zeros(n)), api.ErrArg, i)
			refuses(t, with(tail.Tail{Track: track}, i, strings.Repeat("x", 1<<20)+"\x00"), api.ErrArg, i)
		}
	}
}

func TestSeveralWrongTexts(t *testing.T) {
	bad := map[api.Errno]string{api.ErrArg: "\x00", api.ErrTooLarge: strings.Repeat("x", 31)}
	for _, track := range []byte{0, 1} {
		for i := range 5 {
			for k := i + 1; k < 5; k++ {
				for e, s := range bad {
					for _, other := range bad {
						refuses(t, with(with(tail.Tail{Track: track}, k, other), i, s), e, i)
					}
				}
			}
		}
	}
	x := tail.Tail{Names: tail.Names{Title: "ok", Artist: zeros(2), Album: zeros(40), Year: "20261", Comment: strings.Repeat("x", 29)}, Track: 1}
	refuses(t, x, api.ErrArg, artist)
	x.Artist = ""
	refuses(t, x, api.ErrArg, album)
	x.Album = ""
	refuses(t, x, api.ErrTooLarge, year)
	x.Year = ""
	refuses(t, x, api.ErrTooLarge, comment)
	x.Title = "\x00"
	refuses(t, x, api.ErrArg, title)
}

func TestAnyBytesOfNames(t *testing.T) {
	for v := 1; v < 256; v++ {
		for i := range 5 {
			s := strings.Repeat(string([]byte{byte(v)}), 3)
			x := with(tail.Tail{Genre: byte(v)}, i, s)
			at := 3 + 30*i
			if i == comment {
				at = 97
			}
			prints(t, x, "TAG"+zeros(at-3)+s+zeros(124-at)+s[:1])
		}
	}
}

func TestWhatIsPrintedIsRead(t *testing.T) {
	texts := []string{"", "a", "abcd", strings.Repeat("c", 27), strings.Repeat("c", 28), strings.Repeat("c", 29), strings.Repeat("c", 30), "TAG", "\xff\xfe"}
	for _, track := range []byte{0, 1, 32, 255} {
		for i, a := range texts {
			for k, b := range texts {
				x := tail.Tail{Names: tail.Names{Title: a, Artist: b, Album: texts[(i+k)%len(texts)], Year: texts[(i+k)%3], Comment: b}, Track: track, Genre: byte(i * k)}
				f := x.Check()
				if f.Bad() != (track != 0 && len(b) > 28) {
					t.Errorf("%q: %v", x, f)
				}
				if s, f := x.Print(); !f.Bad() {
					parses(t, s, x)
					splits(t, a+b+s, a+b, s)
				}
			}
		}
	}
}

// parses tells where bytes don't come out of Parse as wanted.
func parses(t *testing.T, b string, want tail.Tail) {
	t.Helper()
	if got, ok := tail.Parse(b); !ok || got != want {
		t.Errorf("%q: %+q, %t; should be %+q", b, got, ok, want)
	}
}

// parsesNot tells where Parse has something for bytes that are no tail.
func parsesNot(t *testing.T, b string) {
	t.Helper()
	if got, ok := tail.Parse(b); ok || got != (tail.Tail{}) {
		t.Errorf("%q: %+q, %t; should be none", b, got, ok)
	}
}

// splits tells where a file isn't split as wanted.
func splits(t *testing.T, file, rest, end string) {
	t.Helper()
	if a, b := tail.Split(file); a != rest || b != end {
		t.Errorf("%d bytes: %d ahead, %d behind; should be %d, %d", len(file), len(a), len(b), len(rest), len(end))
	}
}

// prints tells where a tail isn't printed as wanted, or isn't read again as it was.
func prints(t *testing.T, x tail.Tail, want string) {
	t.Helper()
	if f := x.Check(); f != (api.Fault{}) {
		t.Errorf("%+q: %v", x, f)
	}
	if s, f := x.Print(); s != want || f != (api.Fault{}) {
		t.Errorf("%+q: %q, %v; should be %q", x, s, f, want)
	}
	parses(t, want, x)
}

// refuses tells where a tail isn't refused as wanted.
func refuses(t *testing.T, x tail.Tail, e api.Errno, at int) {
	t.Helper()
	want := api.Fault{Errno: e, At: at}
	if f := x.Check(); f != want {
		t.Errorf("Check: %v; should be %v", f, want)
	}
	if s, f := x.Print(); s != "" || f != want {
		t.Errorf("Print: %q, %v; should be %v", s, f, want)
	}
}

// cut is a tail as the document's words have it, of 128 bytes in which no track stands.
func cut(b string) tail.Tail {
	texts := [5]string{b[3:33], b[33:63], b[63:93], b[93:97], b[97:127]}
	for i, s := range texts {
		texts[i] = strings.Split(s, "\x00")[0]
	}
	return tail.Tail{Names: tail.Names{Title: texts[title], Artist: texts[artist], Album: texts[album], Year: texts[year], Comment: texts[comment]}, Genre: b[127]}
}

// with is a tail with another text.
func with(x tail.Tail, i int, s string) tail.Tail {
	switch i {
	case title:
		x.Title = s
	case artist:
		x.Artist = s
	case album:
		x.Album = s
	case year:
		x.Year = s
	case comment:
		x.Comment = s
	}
	return x
}

// room is how many bytes a text may have.
func room(i int, track byte) int {
	switch {
	case i == year:
		return 4
	case i == comment && track != 0:
		return 28
	}
	return 30
}

// filled is a text with bytes 0 behind it.
func filled(s string, n int) string { return s + zeros(n-len(s)) }

// zeros are so many bytes 0.
func zeros(n int) string { return strings.Repeat("\x00", n) }
