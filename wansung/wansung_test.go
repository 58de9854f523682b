package wansung_test

import (
	"math"
	"slices"
	"strconv"
	"strings"
	"testing"

	"diacritic/run"
	"diacritic/wansung"
)

// rows are the other signs of the rows whose signs follow no rule, each row's first byte ahead.
const rows = `
A1: 3000 3001 3002 00B7 2025 2026 00A8 3003 00AD 2015 2225 FF3C 223C 2018 2019 201C
201D 3014 3015 3008 3009 300A 300B 300C 300D 300E 300F 3010 3011 00B1 00D7 00F7
2260 2264 2265 221E 2234 00B0 2032 2033 2103 212B FFE0 FFE1 FFE5 2642 2640 2220
22A5 2312 2202 2207 2261 2252 00A7 203B 2606 2605 25CB 25CF 25CE 25C7 25C6 25A1
25A0 25B3 25B2 25BD 25BC 2192 2190 2191 2193 2194 3013 226A 226B 221A 223D 221D
2235 222B 222C 2208 220B 2286 2287 2282 2283 222A 2229 2227 2228 FFE2
A2: 21D2 21D4 2200 2203 00B4 FF5E 02C7 02D8 02DD 02DA 02D9 00B8 02DB 00A1 00BF 02D0
222E 2211 220F 00A4 2109 2030 25C1 25C0 25B7 25B6 2664 2660 2661 2665 2667 2663
2299 25C8 25A3 25D0 25D1 2592 25A4 25A5 25A8 25A7 25A6 25A9 2668 260F 260E 261C
261E 00B6 2020 2021 2195 2197 2199 2196 2198 266D 2669 266A 266C 327F 321C 2116
33C7 2122 33C2 33D8 2121 20AC 00AE
A6: 2500 2502 250C 2510 2518 2514 251C 252C 2524 2534 253C 2501 2503 250F 2513 251B
2517 2523 2533 252B 253B 254B 2520 252F 2528 2537 253F 251D 2530 2525 2538 2542
2512 2511 251A 2519 2516 2515 250E 250D 251E 251F 2521 2522 2526 2527 2529 252A
252D 252E 2531 2532 2535 2536 2539 253A 253D 253E 2540 2541 2543 2544 2545 2546
2547 2548 2549 254A
`

// spans are the others, as the chapter tells them: the first byte, the first and the last second byte, the first and the last sign.
const spans = `
A3 A1 DB FF01 FF3B
A3 DC DC FFE6 FFE6
A3 DD FD FF3D FF5D
A3 FE FE FFE3 FFE3
A4 A1 FE 3131 318E
A5 A1 AA 2170 2179
A5 B0 B9 2160 2169
A5 C1 D1 0391 03A1
A5 D2 D8 03A3 03A9
A5 E1 F1 03B1 03C1
A5 F2 F8 03C3 03C9
AA A1 F3 3041 3093
AB A1 F6 30A1 30F6
AC A1 A6 0410 0415
AC A7 A7 0401 0401
AC A8 C1 0416 042F
AC D1 D6 0430 0435
AC D7 D7 0451 0451
AC D8 F1 0436 044F
`

// far are numbers far beyond all lists, those too that would be near if they wrapped round.
var far = []int{
	math.MinInt, math.MinInt + 1, -1 << 62, -1 << 33, -1 << 32, math.MinInt32, -0x10000, -0xAC00, -11172, -8822, -2350, -1410, -784, -178, -94, -28,
	11171, 11172, 0x10000, math.MaxInt32, 1 << 32, 1<<32 + 5, 1<<32 + 2349, 1 << 33, 1 << 62, math.MaxInt - 1, math.MaxInt,
}

// number is a number in base sixteen.
func number(t *testing.T, s string) int {
	t.Helper()
	n, err := strconv.ParseInt(s, 16, 32)
	if err != nil {
		t.Fatal(err)
	}
	return int(n)
}

// syllables are those in the rows, and the others, in order.
func syllables(t *testing.T) (in, others []rune) {
	t.Helper()
	for _, p := range inRows {
		if p != '\n' {
			in = append(in, p)
		}
	}
	for p := rune(0xAC00); p <= 0xD7A3; p++ {
		if !slices.Contains(in, p) {
			others = append(others, p)
		}
	}
	if len(in) != 2350 || len(others) != 8822 || !slices.IsSorted(in) {
		t.Fatalf("%d syllables in the rows, %d others", len(in), len(others))
	}
	return in, others
}

// told are the other signs of the rows by their codes, as the chapter tells them.
func told(t *testing.T) map[int]rune {
	t.Helper()
	all := map[int]rune{}
	code := 0
	for _, s := range strings.Fields(rows) {
		if lead, ok := strings.CutSuffix(s, ":"); ok {
			code = number(t, lead)*256 + 0xA1
			continue
		}
		all[code] = rune(number(t, s))
		code++
	}
	for line := range strings.Lines(strings.TrimSpace(spans)) {
		f := strings.Fields(line)
		p := rune(number(t, f[3]))
		for second := number(t, f[1]); second <= number(t, f[2]); second++ {
			all[number(t, f[0])*256+second] = p
			p++
		}
		if last := rune(number(t, f[4])); p != last+1 {
			t.Fatalf("%s ends with %x", line, p-1)
		}
	}
	return all
}

// beside are the codes of the syllables that aren't in the rows, in order.
func beside() []int {
	var all []int
	for lead := 0x81; lead <= 0xFE; lead++ {
		for second := range 0xFF {
			letter := second >= 'A' && second <= 'Z' || second >= 'a' && second <= 'z'
			if letter || second >= 0x81 && (lead < 0xA1 || second < 0xA1) {
				all = append(all, lead*256+second)
			}
		}
	}
	return all[:8822]
}

// whole are all signs by their codes.
func whole(t *testing.T) map[int]rune {
	t.Helper()
	all := told(t)
	in, others := syllables(t)
	code := 0xB0A1
	for _, p := range in {
		all[code] = p
		if code++; code%256 == 0xFF {
			code += 256 - 94
		}
	}
	for i, code := range beside() {
		all[code] = others[i]
	}
	return all
}

// two are a code's two bytes.
func two(code int) string { return string([]byte{byte(code / 256), byte(code % 256)}) }

// nth holds what Place or Extra answers against what it should.
func nth(t *testing.T, call func(int) (rune, bool), list []rune) {
	t.Helper()
	for k := -300; k < len(list)+3000; k++ {
		want, there := rune(0), k >= 0 && k < len(list)
		if there {
			want = list[k]
		}
		if p, ok := call(k); p != want || ok != there {
			t.Errorf("the syllable %d = %x, %v; not %x, %v", k, p, ok, want, there)
		}
	}
	for _, k := range far {
		if k > 0 && k < len(list)+3000 {
			continue
		}
		if p, ok := call(k); p != 0 || ok {
			t.Errorf("the syllable %d = %x, %v", k, p, ok)
		}
	}
}

// sign holds what Sign answers against what it should.
func sign(t *testing.T, code int, want rune, there bool) {
	t.Helper()
	if p, ok := wansung.Sign(byte(code/256), byte(code%256)); p != want || ok != there {
		t.Errorf("Sign of %04x = %x, %v; not %x, %v", code, p, ok, want, there)
	}
}

// bytes holds what Bytes answers against what it should.
func bytes(t *testing.T, p rune, want string, there bool) {
	t.Helper()
	if b, ok := wansung.Bytes(p); b != want || ok != there {
		t.Errorf("Bytes(%x) = %x, %v; not %x, %v", p, b, ok, want, there)
	}
}

// none holds that a number is no sign of this charset's, nor a syllable.
func none(t *testing.T, p rune) {
	t.Helper()
	bytes(t, p, "", false)
	if k, in, ok := wansung.Rank(p); k != 0 || in || ok {
		t.Errorf("Rank(%x) = %d, %v, %v", p, k, in, ok)
	}
}

// P7.1: all syllables by their numbers, and numbers that none has.
func TestNumbers(t *testing.T) {
	in, others := syllables(t)
	nth(t, wansung.Place, in)
	nth(t, wansung.Extra, others)
}

// P7.1: the numbers of all syllables, and of what is no syllable.
func TestRank(t *testing.T) {
	in, others := syllables(t)
	for p := rune(-0x20000); p < 0x120000; p++ {
		k, there := slices.BinarySearch(in, p)
		among, other := slices.BinarySearch(others, p)
		switch {
		case other:
			k = among
		case !there:
			k = 0
		}
		if got, rows, ok := wansung.Rank(p); got != k || rows != there || ok != (there || other) {
			t.Errorf("Rank(%x) = %d, %v, %v; not %d, %v, %v", p, got, rows, ok, k, there, there || other)
		}
	}
}

// P7.2: the sign, or none, of all pairs of bytes.
func TestAllBytes(t *testing.T) {
	want := whole(t)
	for code := range 1 << 16 {
		p, ok := want[code]
		sign(t, code, p, ok)
	}
}

// P7.2, P7.3: the bytes, or none, of all signs, and of numbers that are no sign's.
func TestAllSigns(t *testing.T) {
	want := map[rune]string{}
	for code, p := range whole(t) {
		want[p] = two(code)
	}
	for p := rune(-0x20000); p < 0x120000; p++ {
		b, ok := want[p]
		bytes(t, p, b, ok)
	}
}

// P7.1, P7.2: numbers that wrap round if anything is taken off them, or that have a sign's lower half.
func TestFarSigns(t *testing.T) {
	for n := range rune(0x10000) {
		for _, p := range []rune{math.MinInt32 + n, math.MaxInt32 - n, 0x7FFF0000 | n, 1<<24 | n, -1<<24 | n} {
			none(t, p)
		}
	}
}

// P7.2: the other signs in the rows, by rising codes, as the chapter tells them.
func TestRows(t *testing.T) {
	var want []run.Pair
	for code, p := range told(t) {
		want = append(want, run.Pair{Code: code, Point: p})
	}
	slices.SortFunc(want, func(a, b run.Pair) int { return a.Code - b.Code })
	got := wansung.Rows()
	if len(got) != 724 || !slices.Equal(got, want) {
		t.Errorf("%d other signs: not those that the chapter tells", len(got))
	}
	for i, x := range got {
		sign(t, x.Code, x.Point, true)
		bytes(t, x.Point, two(x.Code), true)
		if i > 0 && x.Code <= got[i-1].Code {
			t.Errorf("%04x behind %04x", x.Code, got[i-1].Code)
		}
	}
}

// P7.2: Rows hands out new memory: whoever changes it changes nothing else.
func TestRowsAreNew(t *testing.T) {
	first := wansung.Rows()
	kept := slices.Clone(first)
	second := wansung.Rows()
	clear(first[:cap(first)])
	if !slices.Equal(second, kept) || !slices.Equal(wansung.Rows(), kept) {
		t.Error("two answers share memory")
	}
	sign(t, 0xA1A1, 0x3000, true)
	sign(t, 0xACA1, 0x0410, true)
}

// P7.3: no two pairs of bytes have one sign, and each syllable has two bytes.
func TestOneEach(t *testing.T) {
	seen := map[rune]int{}
	for code := range 1 << 16 {
		p, ok := wansung.Sign(byte(code>>8), byte(code))
		if !ok {
			continue
		}
		if other, there := seen[p]; there {
			t.Errorf("%x is the sign of %04x and of %04x", p, other, code)
		}
		seen[p] = code
		bytes(t, p, two(code), true)
	}
	if len(seen) != 11172+724 {
		t.Errorf("%d signs", len(seen))
	}
	for p := rune(0xAC00); p <= 0xD7A3; p++ {
		code, ok := seen[p]
		if b, there := wansung.Bytes(p); !ok || !there || b != two(code) {
			t.Errorf("%x: %x, %v", p, b, there)
		}
	}
}

// P7.1, P7.2: the chapter's examples, and the document's.
func TestExamples(t *testing.T) {
	for code, p := range map[int]rune{
		0xB0A1: 0xAC00, 0xB0A2: 0xAC01, 0x8141: 0xAC02, 0xC8FE: 0xD79D, 0xC652: 0xD7A3,
		0xA4A1: 0x3131, 0xAAA1: 0x3041, 0xACA1: 0x0410, 0xACA7: 0x0401, 0xA1FE: 0xFFE2,
	} {
		sign(t, code, p, true)
		bytes(t, p, two(code), true)
	}
	for p, want := range map[rune][2]int{0xAC00: {0, 1}, 0xAC01: {1, 1}, 0xD79D: {2349, 1}, 0xAC02: {0, 0}, 0xD7A3: {8821, 0}} {
		if k, in, ok := wansung.Rank(p); k != want[0] || in != (want[1] == 1) || !ok {
			t.Errorf("Rank(%x) = %d, %v, %v", p, k, in, ok)
		}
	}
}

// P7.2: what stands beside what has a sign.
func TestNoSign(t *testing.T) {
	for what, codes := range map[string][]int{
		"bytes of letters":              {0x0000, 0x4141, 0x6162, 0x7FA1},
		"a first byte too low":          {0x8041, 0x80A1, 0x80FE},
		"a first byte too high":         {0xFF41, 0xFFA1, 0xFFFE, 0xFFFF},
		"a second byte between others":  {0x8140, 0x815B, 0x8160, 0x817B, 0x8180, 0x81FF, 0xA140, 0xA15B, 0xA160, 0xA17B, 0xA180, 0xA1FF},
		"a second byte in the rows":     {0xB000, 0xB040, 0xB05B, 0xB060, 0xB07B, 0xB080, 0xB0FF},
		"behind the last other one":     {0xC653, 0xC65A, 0xC661, 0xC6A0, 0xC741, 0xC7A0, 0xFE41, 0xFEA0},
		"no syllable's place":           {0xAFA1, 0xAFFE, 0xC9A1, 0xC9FE, 0xFEA1, 0xFEFE},
		"behind a row's last sign":      {0xA2E8, 0xA2FE, 0xA6E5, 0xA6FE, 0xAAF4, 0xABF7, 0xACF2},
		"between a row's signs":         {0xA5AB, 0xA5AF, 0xA5BA, 0xA5C0, 0xA5D9, 0xA5E0, 0xA5F9, 0xACC2, 0xACD0},
		"a row that isn't told of":      {0xA7A1, 0xA8A1, 0xA9A1, 0xADA1, 0xAEFE},
		"a syllable's bytes turned":     {0x4181, 0x52C6},
		"a syllable by another charset": {0xD3BD},
	} {
		for _, code := range codes {
			if p, ok := wansung.Sign(byte(code>>8), byte(code)); p != 0 || ok {
				t.Errorf("%s: %04x has the sign %x, %v", what, code, p, ok)
			}
		}
	}
	for _, p := range []rune{
		math.MinInt32, -1, 0, 'a', 0x7F, 0xA0, 0x0390, 0x03A2, 0x03C2, 0x0400, 0x0450, 0x2593, 0x3040, 0x3094, 0x30A0, 0x30F7, 0x3130, 0x318F,
		0xABFF, 0xD7A4, 0xD800, 0xDFFF, 0xFF00, 0xFF5F, 0xFFE4, 0xFFFD, 0x10000, 0x1AC00, 0x10FFFF, 0x110000, math.MaxInt32,
	} {
		none(t, p)
	}
	bytes(t, 0xFF3C, "\xa1\xac", true) // A3 has another sign at its place, and no code for it
	bytes(t, 0xFF5E, "\xa2\xa6", true)
}
