package field

import (
	"diacritic/api"
	"diacritic/charset"
	"diacritic/detect"
	"diacritic/octet"
	"diacritic/wide"
)

// encoding is how a frame tells that its texts stand as bytes.
type encoding byte

// The encodings. Those behind marked are version 4's alone.
const (
	bytewise encoding = 0
	marked   encoding = 1
	unmarked encoding = 2
	signs    encoding = 3
)

// right says whether there is such an encoding in a version.
func (e encoding) right(version int) bool {
	return e <= marked || version == 4 && e <= signs
}

// printing is the encoding in which a version's texts are printed.
func printing(version int) encoding {
	if version == 4 {
		return signs
	}
	return marked
}

// end is what stands behind a piece that has an end.
func (e encoding) end(x shape) string {
	if x.raw || e == bytewise || e == signs {
		return "\x00"
	}
	return "\x00\x00"
}

// set is the charset of a text's bytes.
func (e encoding) set(b string, o api.Options) api.Charset {
	switch e {
	case bytewise:
		return detect.Resolve(b, "", o)
	case marked:
		if big, _ := wide.Mark(b); !big {
			return api.UTF16L
		}
		return api.UTF16B
	case unmarked:
		return api.UTF16B
	}
	return api.UTF8
}

// decode is the text of bytes, which stand in a charset.
func (e encoding) decode(b string, set api.Charset) (string, api.Fault) {
	if e == marked {
		return wide.Marked(b)
	}
	return charset.Decode(set, b)
}

// print is a piece's bytes, with what stands behind it.
func (e encoding) print(x shape, text string) string {
	if !x.raw && e == marked {
		// Print has asked whether the text is made of signs: this has no fault.
		text, _ = wide.WithMark(text)
	}
	if x.closed {
		return octet.Join(text, e.end(x))
	}
	return text
}

// scan is a body that is read, and what tells the charsets of its texts.
type scan struct {
	*octet.In
	options  api.Options
	encoding encoding
}

// readEncoding reads how the texts stand.
func (s *scan) readEncoding(version int) {
	s.encoding = encoding(s.Big(1))
	if !s.encoding.right(version) {
		s.Fail(api.ErrMalformed, 0)
	}
}

// part reads a piece.
func (s *scan) part(x shape) Part {
	at := s.At()
	b := s.piece(x)
	if x.raw {
		return Part{Name: x.name, Raw: true, Text: b}
	}
	set := s.encoding.set(b, s.options)
	text, f := s.encoding.decode(b, set)
	s.Fail(f.Errno, at+f.At)
	return Part{Name: x.name, Text: text, Set: set}
}

// piece reads a piece's bytes, and the end behind them.
func (s *scan) piece(x shape) string {
	switch {
	case x.size > 0:
		return s.Take(x.size)
	case x.closed:
		return s.Until(s.encoding.end(x))
	}
	return s.Rest()
}
