package johab_test

import (
	"math"
	"slices"
	"strconv"
	"strings"
	"testing"

	"diacritic/johab"
	"diacritic/run"
)

// The codes of parts, as the chapter's table tells them: the code's number ahead, the part's behind it; none is -1 (of finals: 0).
const (
	initialCodes = "1=-1 2..20=0"
	medialCodes  = "2=-1 3..7=0 10..15=5 18..23=11 26..29=17"
	finalCodes   = "1=0 2..17=1 19..29=17"
)

// alone are the parts of the consonants 3131 to 314E, in order.
const alone = "i0 i1 f3 i2 f5 f6 i3 i4 i5 f9 f10 f11 f12 f13 f14 f15 i6 i7 i8 f18 i9 i10 i11 i12 i13 i14 i15 i16 i17 i18"

// number is a decimal number.
func number(t *testing.T, s string) int {
	t.Helper()
	n, err := strconv.Atoi(s)
	if err != nil {
		t.Fatal(err)
	}
	return n
}

// codes are the parts of the codes that a line tells.
func codes(t *testing.T, line string) map[int]int {
	t.Helper()
	all := map[int]int{}
	for _, s := range strings.Fields(line) {
		span, part, _ := strings.Cut(s, "=")
		from, to, ok := strings.Cut(span, "..")
		if !ok {
			to = from
		}
		first := number(t, from)
		for code := first; code <= number(t, to); code++ {
			all[code] = number(t, part) + code - first
		}
	}
	return all
}

// consonants are the signs of the parts that stand alone, by their words.
func consonants() map[string]rune {
	all := map[string]rune{}
	for i, word := range strings.Fields(alone) {
		all[word] = rune(0x3131 + i)
	}
	return all
}

// signOf is the sign of three parts (-1: none; of finals 0), as the chapter tells it, and whether there is one.
func signOf(i, m, f int, alone map[string]rune) (rune, bool) {
	var p rune
	switch {
	case i >= 0 && m >= 0:
		p = rune(0xAC00 + ((i*21)+m)*28 + f)
	case i < 0 && m >= 0 && f == 0:
		p = rune(0x314F + m)
	case i >= 0 && m < 0 && f == 0:
		p = alone["i"+strconv.Itoa(i)]
	case i < 0 && m < 0 && f > 0:
		p = alone["f"+strconv.Itoa(f)]
	}
	return p, p > 0
}

// told are the signs of all codes that have one, as the chapter tells them.
func told(t *testing.T) map[int]rune {
	t.Helper()
	all, single := map[int]rune{}, consonants()
	for ci, i := range codes(t, initialCodes) {
		for cm, m := range codes(t, medialCodes) {
			for cf, f := range codes(t, finalCodes) {
				if p, ok := signOf(i, m, f, single); ok {
					all[0x8000+ci*0x400+cm*0x20+cf] = p
				}
			}
		}
	}
	return all
}

// signs holds what Sign answers against what it should.
func signs(t *testing.T, code int, want rune, there bool) {
	t.Helper()
	if p, ok := johab.Sign(byte(code/256), byte(code%256)); p != want || ok != there {
		t.Errorf("Sign of %04x = %x, %v; not %x, %v", code, p, ok, want, there)
	}
}

// bytes holds what Bytes answers against what it should.
func bytes(t *testing.T, p rune, want string, there bool) {
	t.Helper()
	if b, ok := johab.Bytes(p); b != want || ok != there {
		t.Errorf("Bytes(%x) = %x, %v; not %x, %v", p, b, ok, want, there)
	}
}

// two are a code's two bytes.
func two(code int) string { return string([]byte{byte(code / 256), byte(code % 256)}) }

// P6.1: all parts that are there, and those beside them.
func TestSyllables(t *testing.T) {
	next := rune(0xAC00)
	for i := -3; i < 40; i++ {
		for m := -3; m < 40; m++ {
			for f := -3; f < 40; f++ {
				want, there := rune(0), i >= 0 && i <= 18 && m >= 0 && m <= 20 && f >= 0 && f <= 27
				if there {
					want = next
					next++
				}
				if p, ok := johab.Syllable(i, m, f); p != want || ok != there {
					t.Errorf("Syllable(%d, %d, %d) = %x, %v; not %x, %v", i, m, f, p, ok, want, there)
				}
			}
		}
	}
	if next != 0xD7A4 {
		t.Errorf("the last syllable stands ahead of %x", next)
	}
}

// P6.1: parts far beyond, those too that would make a syllable if numbers wrapped round.
func TestNoParts(t *testing.T) {
	far := []int{
		math.MinInt, math.MinInt + 1, -1 << 62, -1 << 60, math.MinInt32, -588, -256, -28, -21, -19, 256, 588, 11172, math.MaxInt32, 1 << 32, 1<<32 + 5, 1 << 60, 1 << 62, 1<<62 + 1, math.MaxInt - 1, math.MaxInt,
	}
	for _, n := range far {
		for _, a := range append([]int{0, 1, 18, 20, 27}, far...) {
			for _, b := range append([]int{0, 1, 18, 20, 27}, far...) {
				for _, x := range [][3]int{{n, a, b}, {a, n, b}, {a, b, n}} {
					if p, ok := johab.Syllable(x[0], x[1], x[2]); p != 0 || ok {
						t.Errorf("Syllable(%v) = %x, %v", x, p, ok)
					}
				}
			}
		}
	}
}

// P6.2: the sign, or none, of all pairs of bytes.
func TestAllBytes(t *testing.T) {
	want := told(t)
	for code := range 1 << 16 {
		p, ok := want[code]
		signs(t, code, p, ok)
	}
}

// P6.2: the bytes, or none, of all signs, and of numbers that are no sign's.
func TestAllSigns(t *testing.T) {
	want := map[rune]string{}
	for code, p := range told(t) {
		want[p] = two(code)
	}
	for p := rune(-0x20000); p < 0x120000; p++ {
		b, ok := want[p]
		bytes(t, p, b, ok)
	}
	for n := range rune(0x10000) { // numbers that wrap round if anything is taken off, or that have a sign's lower half
		for _, p := range []rune{math.MinInt32 + n, math.MaxInt32 - n, 0x7FFF0000 | n, 1<<24 | n} {
			bytes(t, p, "", false)
		}
	}
}

// P6.2: all pairs, by rising codes, as the chapter tells them; P6.3: how many there are.
func TestPairs(t *testing.T) {
	var want []run.Pair
	for code, p := range told(t) {
		want = append(want, run.Pair{Code: code, Point: p})
	}
	slices.SortFunc(want, func(a, b run.Pair) int { return a.Code - b.Code })
	got := johab.Pairs()
	if len(got) != 11223 {
		t.Errorf("%d pairs", len(got))
	}
	if !slices.Equal(got, want) {
		t.Error("other pairs than those that the chapter tells")
	}
}

// P6.2, P6.3: what Pairs lists is what Sign and Bytes do; no sign is there twice.
func TestThereAndBack(t *testing.T) {
	seen := map[rune]int{}
	last := -1
	for _, x := range johab.Pairs() {
		if x.Code <= last {
			t.Errorf("%04x behind %04x", x.Code, last)
		}
		last = x.Code
		if code, ok := seen[x.Point]; ok {
			t.Errorf("%x is the sign of %04x and of %04x", x.Point, code, x.Code)
		}
		seen[x.Point] = x.Code
		signs(t, x.Code, x.Point, true)
		bytes(t, x.Point, two(x.Code), true)
	}
	if len(seen) != 11223 {
		t.Errorf("%d signs", len(seen))
	}
}

// P6.2: Pairs hands out new memory: whoever changes it changes nothing else.
func TestPairsAreNew(t *testing.T) {
	first := johab.Pairs()
	kept := slices.Clone(first)
	second := johab.Pairs()
	clear(first[:cap(first)])
	if !slices.Equal(second, kept) || !slices.Equal(johab.Pairs(), kept) {
		t.Error("two answers share memory")
	}
	signs(t, 0x8861, 0xAC00, true)
}

// P6.1, P6.2: the chapter's examples.
func TestExamples(t *testing.T) {
	for code, p := range map[int]rune{0x8861: 0xAC00, 0x9061: 0xB098, 0xD3BD: 0xD7A3, 0x8841: 0x3131, 0x8444: 0x3133, 0x8461: 0x314F} {
		signs(t, code, p, true)
		bytes(t, p, two(code), true)
	}
	if p, ok := johab.Syllable(2, 0, 0); p != 0xB098 || !ok {
		t.Errorf("Syllable(2, 0, 0) = %x, %v", p, ok)
	}
}

// P6.2: what stands beside what has a sign.
func TestNoSign(t *testing.T) {
	for _, c := range []struct {
		what string
		code int
	}{
		{"nothing", 0x0000},
		{"a syllable without the highest bit", 0x0861},
		{"two letters", 0x6162},
		{"no parts at all", 0x8441},
		{"an initial's code 0", 0x8061},
		{"an initial's code 21", 0xD461},
		{"an initial's code 31", 0xFC61},
		{"a medial's code 0", 0x8801},
		{"a medial's code 1", 0x8821},
		{"a medial's code 8", 0x8901},
		{"a medial's code 9", 0x8921},
		{"a medial's code 16", 0x8A01},
		{"a medial's code 17", 0x8A21},
		{"a medial's code 24", 0x8B01},
		{"a medial's code 25", 0x8B21},
		{"a medial's code 30", 0x8BC1},
		{"a medial's code 31", 0x8BE1},
		{"a final's code 0", 0x8860},
		{"a final's code 18", 0x8872},
		{"a final's code 30", 0x887E},
		{"a final's code 31", 0x887F},
		{"a final that stands alone as an initial", 0x8442},
		{"the last final alone", 0x845D},
		{"an initial and a final without a medial", 0x8842},
		{"a medial and a final without an initial", 0x8462},
		{"all bits", 0xFFFF},
	} {
		if p, ok := johab.Sign(byte(c.code>>8), byte(c.code)); p != 0 || ok {
			t.Errorf("%s: %04x has the sign %x, %v", c.what, c.code, p, ok)
		}
	}
	for _, p := range []rune{math.MinInt32, -1, 0, 'a', 0x3130, 0x3164, 0x318E, 0x1100, 0x1161, 0xABFF, 0xD7A4, 0xD800, 0x10FFFF, 0x110000, 0x1AC00, math.MaxInt32} {
		bytes(t, p, "", false)
	}
}
