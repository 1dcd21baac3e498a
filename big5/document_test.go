package big5_test

import (
	"maps"
	"slices"
	"strconv"
	"strings"
	"testing"

	"diacritic/run"
)

// documentRuns are the signs that stand alone, as the document has them: the first byte and the second byte of the first cell, and the signs from there on.
func documentRuns() map[string]string {
	return map[string]string{
		"8856": "0100 00C1 01CD 00C0 0112 00C9 011A 00C8 014C 00D3 01D1 00D2",
		"8863": "1EBE",
		"8865": "1EC0 00CA 0101 00E1 01CE 00E0 0251 0113 00E9 011B 00E8 012B 00ED 01D0 00EC 014D",
		"8875": "00F3 01D2 00F2 016B 00FA 01D4 00F9 01D6 01D8 01DA",
		"88A1": "01DC 00FC",
		"88A4": "1EBF",
		"88A6": "1EC1 00EA 0261",
		"A140": `
			3000 FF0C 3001 3002 FF0E 2022 FF1B FF1A FF1F FF01 FE30 2026 2025 FE50 FF64 FE52
			00B7 FE54 FE55 FE56 FE57 FF5C 2013 FE31 2014 FE33 2574 FE34 FE4F FF08 FF09 FE35
			FE36 FF5B FF5D FE37 FE38 3014 3015 FE39 FE3A 3010 3011 FE3B FE3C 300A 300B FE3D
			FE3E 3008 3009 FE3F FE40 300C 300D FE41 FE42 300E 300F FE43 FE44 FE59 FE5A FE5B
			FE5C FE5D FE5E 2018 2019 201C 201D 301D 301E 2035 2032 FF03 FF06 FF0A 203B 00A7
			3003 25CB 25CF 25B3 25B2 25CE 2606 2605 25C7 25C6 25A1 25A0 25BD 25BC 32A3 2105
			203E FFE3 FF3F 02CD FE49 FE4A FE4D FE4E FE4B FE4C FE5F FE60 FE61 FF0B FF0D 00D7
			00F7 00B1 221A FF1C FF1E FF1D 2266 2267 2260 221E 2252 2261 FE62 FE63 FE64 FE65
			FE66 223C 2229 222A 22A5 2220 221F 22BF 33D2 33D1 222B 222E 2235 2234 2640 2642
			2641 2609 2191 2193 2190 2192 2196 2197 2199 2198 2225 2223 FF0F
		`,
		"A340": `
			FF57 FF58 FF59 FF5A 0391 0392 0393 0394 0395 0396 0397 0398 0399 039A 039B 039C
			039D 039E 039F 03A0 03A1 03A3 03A4 03A5 03A6 03A7 03A8 03A9 03B1 03B2 03B3 03B4
			03B5 03B6 03B7 03B8 03B9 03BA 03BB 03BC 03BD 03BE 03BF 03C0 03C1 03C3 03C4 03C5
			03C6 03C7 03C8 03C9 3105 3106 3107 3108 3109 310A 310B 310C 310D 310E 310F 3110
			3111 3112 3113 3114 3115 3116 3117 3118 3119 311A 311B 311C 311D 311E 311F 3120
			3121 3122 3123 3124 3125 3126 3127 3128 3129 02D9 02C9 02CA 02C7 02CB
		`,
		"A440": `
			4E00 4E59 4E01 4E03 4E43 4E5D 4E86 4E8C 4EBA 513F 5165 516B 51E0 5200 5201 529B
			5315 5341 535C 53C8 4E09 4E0B 4E08 4E0A 4E2B 4E38 51E1 4E45 4E48 4E5F 4E5E 4E8E
			4EA1 5140 5203 52FA 5343 53C9 53E3 571F 58EB 5915 5927 5973 5B50 5B51 5B53 5BF8
			5C0F 5C22 5C38 5C71 5DDD 5DE5 5DF1 5DF2 5DF3 5DFE 5E72 5EFE 5F0B 5F13 624D 4E11
			4E10 4E0D 4E2D 4E30 4E39 4E4B 5C39 4E88 4E91 4E95 4E92 4E94 4EA2 4EC1 4EC0 4EC3
			4EC6 4EC7 4ECD 4ECA 4ECB 4EC4 5143 5141 5167 516D 516E 516C 5197 51F6 5206 5207
			5208 52FB 52FE 52FF 5316 5339 5348 5347 5345 535E 5384 53CB 53CA 53CD 58EC 5929
			592B 592A 592D 5B54 5C11 5C24 5C3A 5C6F 5DF4 5E7B 5EFF 5F14 5F15 5FC3 6208 6236
			624B 624E 652F 6587 6597 65A4 65B9 65E5 66F0 6708 6728 6B20 6B62 6B79 6BCB 6BD4
			6BDB 6C0F 6C34 706B 722A 7236 723B 7247 7259 725B 72AC 738B 4E19
		`,
		"A540": `
			4E16 4E15 4E14 4E18 4E3B 4E4D 4E4F 4E4E 4EE5 4ED8 4ED4 4ED5 4ED6 4ED7 4EE3 4EE4
			4ED9 4EDE 5145 5144 5189 518A 51AC 51F9 51FA 51F8 520A 52A0 529F 5305 5306 5317
			531D 4EDF 534A 5349 5361 5360 536F 536E 53BB 53EF 53E4 53F3 53EC 53EE 53E9 53E8
			53FC 53F8 53F5 53EB 53E6 53EA 53F2 53F1 53F0 53E5 53ED 53FB 56DB 56DA 5916 592E
			5931 5974 5976 5B55 5B83 5C3C 5DE8 5DE7 5DE6 5E02 5E03 5E73 5E7C 5F01 5F18 5F17
			5FC5 620A 6253 6254 6252 6251 65A5 65E6 672E 672C 672A 672B 672D 6B63 6BCD 6C11
			6C10 6C38 6C41 6C40 6C3E 72AF 7384 7389 74DC 74E6 7518 751F 7528 7529 7530 7531
			7532 7533 758B 767D 76AE 76BF 76EE 77DB 77E2 77F3 793A 79BE 7A74 7ACB 4E1E 4E1F
			4E52 4E53 4E69 4E99 4EA4 4EA6 4EA5 4EFF 4F09 4F19 4F0A 4F15 4F0D 4F10 4F11 4F0F
			4EF2 4EF6 4EFB 4EF0 4EF3 4EFD 4F01 4F0B 5149 5147 5146 5148 5168
		`,
	}
}

// documentDoubles are the codes of two signs at once, as the document has them.
func documentDoubles() map[int]string {
	return map[int]string{0x8862: "\u00ca\u0304", 0x8864: "\u00ca\u030c", 0x88A3: "\u00ea\u0304", 0x88A5: "\u00ea\u030c"}
}

// told is the charset by the document's words alone.
type told struct {
	signs map[int]rune   // the signs that stand alone, by their codes
	texts map[int]string // all signs as texts, two at once too
	codes map[rune]int   // the codes of the signs that stand alone
}

// base16 is a number's digits of base sixteen.
func base16(t *testing.T, digits string) int {
	t.Helper()
	n, err := strconv.ParseInt(digits, 16, 32)
	if err != nil {
		t.Fatal(err)
	}
	return int(n)
}

// next is the code whose cell follows that of another one in its row.
func next(code int) int {
	if code&0xFF == 0x7E {
		return code - 0x7E + 0xA1
	}
	return code + 1
}

// document is the charset by the document's words alone.
func document(t *testing.T) told {
	t.Helper()
	d := told{signs: map[int]rune{}, texts: documentDoubles(), codes: map[rune]int{}}
	for from, list := range documentRuns() {
		code := base16(t, from)
		for word := range strings.FieldsSeq(list) {
			d.add(t, code, rune(base16(t, word)))
			code = next(code)
		}
	}
	if len(d.signs) != 610 || len(d.texts) != 614 {
		t.Fatalf("%d signs that stand alone, %d codes", len(d.signs), len(d.texts))
	}
	return d
}

// add notes a code and its sign.
func (d told) add(t *testing.T, code int, p rune) {
	t.Helper()
	if text, had := d.texts[code]; had {
		t.Fatalf("%x has %q and %x", code, text, p)
	}
	if other, had := d.codes[p]; had {
		t.Fatalf("%x and %x have one sign, %x", other, code, p)
	}
	d.signs[code], d.texts[code], d.codes[p] = p, string(p), code
}

// pairs are the signs that stand alone, by rising codes.
func (d told) pairs() []run.Pair {
	var pairs []run.Pair
	for _, code := range slices.Sorted(maps.Keys(d.signs)) {
		pairs = append(pairs, run.Pair{Code: code, Point: d.signs[code]})
	}
	return pairs
}

// bytes are the two bytes of signs with which a list begins, and how many these are.
func (d told) bytes(l ...rune) (string, int) {
	for code, text := range documentDoubles() {
		if len(l) > 1 && string(l[:2]) == text {
			return twoBytes(code), 2
		}
	}
	if len(l) > 0 {
		if code, ok := d.codes[l[0]]; ok {
			return twoBytes(code), 1
		}
	}
	return "", 0
}

// twoBytes are the bytes of a code.
func twoBytes(code int) string { return string([]byte{byte(code >> 8), byte(code)}) }
