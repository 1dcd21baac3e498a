package wansung_test

import (
	"maps"
	"slices"
	"strconv"
	"strings"
	"testing"

	"diacritic/run"
)

// memberDigits are the syllables in the rows, as the document has them: seven digits for each 28 syllables.
const memberDigits = `
	eff079303b011302801130000111e7b059303b011123b019700a011106b959302b0513032011102b011300a011106b8793
	0300113008000100b0113000011102b0393000000146b059323b051703b01130000103000000003b011702900132180111
	00000010eb0153030010302000030230111000000106b8113030010101301130030111000000122b8553000000002b0113
	afb079703b01130210113000000083b0d1b03b011313301130000011c2b05130100111000000000b011102a011302b0193
	010000100000010030111023010346b0713000011142b05138fb8f9703b0113000000100000004ab0d9703b01130300111
	00000112ab15930000111010000100b0111000000102b01130100001020000102a0111021011102b0593000000107b0193
	83b011303b01130000000000000083b0d1303b011301000010000000020011300001010000001000001100000000218113
	000000000000010230111000000000b0193003011102b0111c7b011303b01130280013000000083b011302b011303b0113
	00a001102b01130200011010000002b011102a011102b011301000010000001029011302b011366b0113000000002b0113
	a6b07d307b01130200103000000086b051303b01130b80113000000102b051b0300011000000002a011100a0111a2b0797
	00a0111000000100001110090111009011100000002bb059322b0f9f23b01130020013000000006b059303b019323a0113
	000001102b0117010001101000010030113000001162b0793010010100000010200113029011100b011300000000eb0513
	83b051303b0113001000300000000390193020000103b00030000000023011300000000000000000000102000010290113
	00000000000000000000002000010030111000000002b011323b079b03b011302b0113021011143b0d9f03b011303b0113
	020011122b05170200113019011100b011102b01136ab01930100001021011302b0113029010302b0313000000042b8193
	833011b0330113020000000000000330513000011100000000000010023059301000130100001003011100000010230113
	01000010000001000001102000000038513001011102b011363b877303b0113a2b0913002011157f07b302b0113e3f0d17
	01b01110ab971303b0113029001302b011302b011302b07130330113023011302b01130ab0113feb4113009011147b8713
	07b05d303b01130210153000011106b051302b0113033011100000018eb051302a0103030000102b0111020001302b0713
	0100001000000100b0113001011102b0113000000066b059303b095303b01130200011000000003b011302000010100001
	00000000ab0113010010301000010030111020000002301130300001000000000000010000001029000100000008630113
	07b015303b01130210151000000003b011302b01130100011020001102b01130200111000000002b0111001000102b0113
	0100001000001102b0111021011102b0113000000002b039302b011303b01130200003000000003b019302b011303b0111
	000000102b0113021011302000010000101000000102b01130200111020000102b011300101110230113000000002b0113
	03b031303b01130200001000000003b051302b01130100011000001142b0113000001100000010280011000000102b0113
	010000100000010230113021011100b0593003011102b011323b051703b01130000003000000003b011302b01130330111
	00a010102b011302000010000000000001100a011102b0593020000100000000090111029011100b0111000000002b0113
	02b211303b01130200001000000002b051302b011303b0113002011122b21130280113028001302a011300a01110292113
	0210111020011302b0113029011322b03d3023011102b0113
`

// listedRows are the rows of other signs that the document lists, sign by sign.
var listedRows = map[int]string{
	0xA1: `
		3000 3001 3002 00B7 2025 2026 00A8 3003 00AD 2015 2225 FF3C 223C 2018 2019 201C
		201D 3014 3015 3008 3009 300A 300B 300C 300D 300E 300F 3010 3011 00B1 00D7 00F7
		2260 2264 2265 221E 2234 00B0 2032 2033 2103 212B FFE0 FFE1 FFE5 2642 2640 2220
		22A5 2312 2202 2207 2261 2252 00A7 203B 2606 2605 25CB 25CF 25CE 25C7 25C6 25A1
		25A0 25B3 25B2 25BD 25BC 2192 2190 2191 2193 2194 3013 226A 226B 221A 223D 221D
		2235 222B 222C 2208 220B 2286 2287 2282 2283 222A 2229 2227 2228 FFE2
	`,
	0xA2: `
		21D2 21D4 2200 2203 00B4 FF5E 02C7 02D8 02DD 02DA 02D9 00B8 02DB 00A1 00BF 02D0
		222E 2211 220F 00A4 2109 2030 25C1 25C0 25B7 25B6 2664 2660 2661 2665 2667 2663
		2299 25C8 25A3 25D0 25D1 2592 25A4 25A5 25A8 25A7 25A6 25A9 2668 260F 260E 261C
		261E 00B6 2020 2021 2195 2197 2199 2196 2198 266D 2669 266A 266C 327F 321C 2116
		33C7 2122 33C2 33D8 2121 20AC 00AE
	`,
	0xA6: `
		2500 2502 250C 2510 2518 2514 251C 252C 2524 2534 253C 2501 2503 250F 2513 251B
		2517 2523 2533 252B 253B 254B 2520 252F 2528 2537 253F 251D 2530 2525 2538 2542
		2512 2511 251A 2519 2516 2515 250E 250D 251E 251F 2521 2522 2526 2527 2529 252A
		252D 252E 2531 2532 2535 2536 2539 253A 253D 253E 2540 2541 2543 2544 2545 2546
		2547 2548 2549 254A
	`,
}

// spannedRows are the other rows of other signs, as the document has them.
var spannedRows = map[int]string{
	0xA3: "A1-DB FF01-FF3B, DC FFE6, DD-FD FF3D-FF5D, FE FFE3",
	0xA4: "A1-FE 3131-318E",
	0xA5: "A1-AA 2170-2179, B0-B9 2160-2169, C1-D1 0391-03A1, D2-D8 03A3-03A9, E1-F1 03B1-03C1, F2-F8 03C3-03C9",
	0xAA: "A1-F3 3041-3093",
	0xAB: "A1-F6 30A1-30F6",
	0xAC: "A1-A6 0410-0415, A7 0401, A8-C1 0416-042F, D1-D6 0430-0435, D7 0451, D8-F1 0436-044F",
}

// told is the charset by the document's words alone.
type told struct {
	rows, extras []rune       // the syllables, in order
	others       map[int]rune // the other signs in the rows, by their codes
	signs        map[int]rune // all signs, by their codes
	codes        map[rune]int // all codes, by their signs
}

// base16 is a number's digits of base sixteen.
func base16(t *testing.T, digits string) int {
	t.Helper()
	n, err := strconv.ParseInt(digits, 16, 32)
	if err != nil {
		t.Fatal(err)
	}
	return int(n)
}

// syllables are those in the rows, and the others.
func syllables(t *testing.T) (rows, extras []rune) {
	t.Helper()
	digits := strings.Join(strings.Fields(memberDigits), "")
	for at := 0; at < len(digits); at += 7 {
		bits := base16(t, digits[at:at+7])
		for bit := range 28 {
			p := rune(0xAC00 + at/7*28 + bit)
			if bits>>bit&1 == 1 {
				rows = append(rows, p)
			} else {
				extras = append(extras, p)
			}
		}
	}
	if len(rows) != 2350 || len(extras) != 8822 {
		t.Fatalf("%d syllables in the rows, %d others", len(rows), len(extras))
	}
	return rows, extras
}

// ends are the first and the last number of a span: of one number alone it is both.
func ends(t *testing.T, span string) (int, int) {
	t.Helper()
	first, last, two := strings.Cut(span, "-")
	if !two {
		last = first
	}
	return base16(t, first), base16(t, last)
}

// others are the other signs in the rows, by their codes.
func others(t *testing.T) map[int]rune {
	t.Helper()
	m := map[int]rune{}
	for lead, list := range listedRows {
		for i, p := range strings.Fields(list) {
			m[lead<<8+0xA1+i] = rune(base16(t, p))
		}
	}
	for lead, spans := range spannedRows {
		for span := range strings.SplitSeq(spans, ", ") {
			bytes, points, _ := strings.Cut(span, " ")
			second, lastSecond := ends(t, bytes)
			p, last := ends(t, points)
			if last-p != lastSecond-second {
				t.Fatalf("%x: %s", lead, span)
			}
			for i := range last - p + 1 {
				m[lead<<8+second+i] = rune(p + i)
			}
		}
	}
	return m
}

// numberOfSecond is the number of a second byte beside the other syllables; below 0: it has none.
func numberOfSecond(second int) int {
	switch {
	case 0x41 <= second && second <= 0x5A:
		return second - 0x41
	case 0x61 <= second && second <= 0x7A:
		return second - 0x61 + 26
	case 0x81 <= second && second <= 0xFE:
		return second - 0x81 + 52
	}
	return -1
}

// numberOfExtra is the number among the other syllables that two bytes tell; below 0: they tell none.
func numberOfExtra(lead, second int) int {
	n := numberOfSecond(second)
	switch {
	case n < 0 || lead < 0x81:
		return -1
	case lead <= 0xA0:
		return (lead-0x81)*178 + n
	case second <= 0xA0:
		return 5696 + (lead-0xA1)*84 + n
	}
	return -1
}

// document is the charset by the document's words alone.
func document(t *testing.T) told {
	t.Helper()
	d := told{others: others(t), codes: map[rune]int{}}
	d.rows, d.extras = syllables(t)
	d.signs = maps.Clone(d.others)
	for k, p := range d.rows {
		d.signs[(0xA1+(1410+k)/94)<<8+0xA1+(1410+k)%94] = p
	}
	for code := range 0x10000 {
		if k := numberOfExtra(code>>8, code&0xFF); k >= 0 && k < len(d.extras) {
			d.signs[code] = d.extras[k]
		}
	}
	for code, p := range d.signs {
		if other, had := d.codes[p]; had {
			t.Fatalf("%x and %x have one sign, %x", other, code, p)
		}
		d.codes[p] = code
	}
	if len(d.others) != 724 || len(d.signs) != 724+11172 {
		t.Fatalf("%d other signs in the rows, %d signs", len(d.others), len(d.signs))
	}
	return d
}

// pairs are the other signs in the rows, by rising codes.
func (d told) pairs() []run.Pair {
	var pairs []run.Pair
	for _, code := range slices.Sorted(maps.Keys(d.others)) {
		pairs = append(pairs, run.Pair{Code: code, Point: d.others[code]})
	}
	return pairs
}

// bytes are the two bytes of a sign; none: it has none.
func (d told) bytes(p rune) string {
	code, ok := d.codes[p]
	if !ok {
		return ""
	}
	return string([]byte{byte(code >> 8), byte(code)})
}
