package charset

import (
	"diacritic/api"
	"diacritic/big5"
	"diacritic/johab"
	"diacritic/octet"
	"diacritic/point"
	"diacritic/wansung"
)

// high is the first byte that isn't a sign by itself.
const high = 0x80

// decodePairs is the text of signs of one byte or of two.
func decodePairs(c api.Charset, b string) (string, api.Fault) {
	r := octet.Read(b)
	t := make([]byte, 0, len(b))
	for r.Left() > 0 {
		at := r.At()
		s, ok := next(r, c)
		if !ok {
			return "", api.Fault{Errno: api.ErrUndecodable, At: at}
		}
		t = append(t, s...)
	}
	return string(t), api.Fault{}
}

// next are the signs whose bytes stand next; false: no sign's do.
func next(r *octet.In, c api.Charset) (string, bool) {
	lead := byte(r.Big(1))
	if lead < high {
		return point.Text(rune(lead))
	}
	second := byte(r.Big(1))
	// Of a byte that isn't there the reader answers 0, which is no second one, whatever the charset has there.
	if r.Fault().Bad() {
		return "", false
	}
	return signsOfTwo(c, lead, second)
}

// signsOfTwo are the signs of two bytes; false: there are none.
func signsOfTwo(c api.Charset, lead, second byte) (string, bool) {
	switch c {
	case api.CP949:
		return textOf(wansung.Sign(lead, second))
	case api.Johab:
		return textOf(johab.Sign(lead, second))
	}
	return big5.Signs(lead, second)
}

// textOf is the text of a sign, if there is one.
func textOf(p rune, ok bool) (string, bool) {
	if !ok {
		return "", false
	}
	return point.Text(p)
}

// encodePairs is the bytes of signs of one byte or of two.
func encodePairs(c api.Charset, t string) (string, api.Fault) {
	points, f := point.Points(t)
	if f.Bad() {
		return "", f
	}
	b := make([]byte, 0, len(t))
	for done := 0; done < len(points); {
		s, n := bytesOf(c, points[done:]...)
		if n == 0 {
			ahead, _ := point.Text(points[:done]...)
			return "", api.Fault{Errno: api.ErrUnencodable, At: len(ahead)}
		}
		b = append(b, s...)
		done += n
	}
	return string(b), api.Fault{}
}

// bytesOf are the bytes of the signs with which some begin, and how many signs that are; 0: there are none.
func bytesOf(c api.Charset, l ...rune) (string, int) {
	if l[0] < high {
		return octet.Big(uint64(l[0]), 1), 1
	}
	switch c {
	case api.CP949:
		return one(wansung.Bytes(l[0]))
	case api.Johab:
		return one(johab.Bytes(l[0]))
	}
	return big5.Bytes(l...)
}

// one is the bytes of one sign, if it has some, and that it is one.
func one(b string, ok bool) (string, int) {
	if !ok {
		return "", 0
	}
	return b, 1
}
