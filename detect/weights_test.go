package detect

import (
	"testing"

	"diacritic/api"
	"diacritic/charset"
)

// edges are what signs weigh at both ends of each range, in some charsets.
type edges struct {
	charsets []api.Charset
	weights  map[rune]int
}

// edgesOf are what the document tells, sign by sign; many of these signs have no bytes in one charset or all, but the tables may grow.
func edgesOf() []edges {
	return []edges{
		{[]api.Charset{api.Latin1, api.KOI8R, api.KOI8U, api.CP866, api.CP949, api.Johab, api.Big5}, map[rune]int{
			0: -6, 1: -6, 8: -6, 9: 0, 0xA: 0, 0xB: -6, 0xC: -6, 0xD: 0, 0xE: -6, 0x1F: -6, 0x20: 0, '0': 0, 'A': 0, 'z': 0, 0x7E: 0, 0x7F: -6,
		}},
		{[]api.Charset{api.Latin1}, map[rune]int{
			0x80: -8, 0x85: -8, 0x9F: -8, 0xA0: -1, 0xA1: -1, 0xBF: -1, 0xC0: 1, 0xD6: 1, 0xD7: -1, 0xD8: 1, 0xE9: 1, 0xF6: 1, 0xF7: -1, 0xF8: 1, 0xFF: 1,
		}},
		{[]api.Charset{api.KOI8R, api.KOI8U, api.CP866}, map[rune]int{
			0x80: -4, 0x9F: -4, 0xA0: -4, 0xBF: -4, 0xC0: -4, 0xD7: -4, 0xF7: -4, 0xFF: -4,
			0x3FF: -4, 0x400: 2, 0x401: 2, 0x40F: 2, 0x410: 2, 0x42F: 2, 0x430: 4, 0x44F: 4, 0x450: 4, 0x451: 4, 0x45F: 4, 0x460: -4, 0x461: -4,
			0x48F: -4, 0x490: 2, 0x491: 4, 0x492: -4, 0x493: -4, 0x2500: -4, 0x3131: -4, 0x4E00: -4, 0xAC00: -4, 0x10FFFF: -4,
		}},
		{[]api.Charset{api.CP949, api.Johab}, map[rune]int{
			0x80: 1, 0x9F: 1, 0xA0: 1, 0xBF: 1, 0xC0: 1, 0xD7: 1, 0xF7: 1, 0xFF: 1, 0x3FF: 1, 0x400: 1, 0x42F: 1, 0x430: 1, 0x45F: 1, 0x490: 1, 0x491: 1,
			0x3130: 1, 0x3131: -2, 0x314E: -2, 0x3163: -2, 0x318E: -2, 0x318F: 1, 0x4DFF: 1, 0x4E00: 1, 0x9FFF: 1, 0xA000: 1,
			0xABFF: 1, 0xAC00: 6, 0xAC01: 6, 0xAC02: 2, 0xAC03: 2, 0xAC04: 6, 0xD79C: 2, 0xD79D: 6, 0xD79E: 2, 0xD7A3: 2, 0xD7A4: 1, 0x10FFFF: 1,
		}},
		{[]api.Charset{api.Big5}, map[rune]int{
			0x80: 1, 0x9F: 1, 0xA0: 1, 0xBF: 1, 0xC0: 1, 0xD7: 1, 0xF7: 1, 0xFF: 1, 0x304: 1, 0x3FF: 1, 0x400: 1, 0x430: 1, 0x491: 1, 0x3000: 1, 0x3131: 1,
			0x4DFF: 1, 0x4E00: 5, 0x4E01: 5, 0x9FFE: 5, 0x9FFF: 5, 0xA000: 1, 0xAC00: 1, 0x10FFFF: 1,
		}},
	}
}

func TestWeightsAtTheEdges(t *testing.T) {
	for _, e := range edgesOf() {
		for _, c := range e.charsets {
			for p, want := range e.weights {
				if got := weight(c, p); got != want {
					t.Errorf("weight(%d, %#x): %d; should be %d", c, p, got, want)
				}
				b, f := charset.Encode(c, string(p))
				if f.Bad() {
					continue
				}
				if got, ok := Score(c, b); got != want || !ok {
					t.Errorf("Score(%d, %x): %d, %v; should be %d", c, b, got, ok, want)
				}
			}
		}
	}
}

func TestLettersAtTheEdges(t *testing.T) {
	capitals := map[rune]bool{0x3FF: false, 0x400: true, 0x410: true, 0x42F: true, 0x430: false, 0x45F: false, 0x460: false, 0x48F: false, 0x490: true, 0x491: false, 0x492: false, 'A': false, 0xC0: false}
	for p, want := range capitals {
		if isCapital(p) != want {
			t.Errorf("isCapital(%#x): %v", p, !want)
		}
	}
	small := map[rune]bool{0x3FF: false, 0x400: false, 0x42F: false, 0x430: true, 0x44F: true, 0x45F: true, 0x460: false, 0x461: false, 0x490: false, 0x491: true, 0x492: false, 0x493: false, 'a': false, 0xE0: false}
	for p, want := range small {
		if isSmall(p) != want {
			t.Errorf("isSmall(%#x): %v", p, !want)
		}
	}
}

func TestCapitalsBehindSmallLettersInAllCharsets(t *testing.T) {
	for c := api.Latin1; c <= api.Big5; c++ {
		for _, capital := range []rune{0x400, 0x40F, 0x410, 0x42F, 0x490} {
			for _, small := range []rune{0x430, 0x44F, 0x45F, 0x491} {
				sum := weight(c, capital) + weight(c, small)
				if got := score(c, string(small)+string(capital)); got != sum-3 {
					t.Errorf("%d: %#x behind %#x: %d; should be %d", c, capital, small, got, sum-3)
				}
				if got := score(c, string(capital)+string(small)); got != sum {
					t.Errorf("%d: %#x behind %#x: %d; should be %d", c, small, capital, got, sum)
				}
			}
		}
	}
}
