package big5_test

import (
	"math"
	"slices"
	"strconv"
	"strings"
	"testing"

	"diacritic/big5"
	"diacritic/run"
)

// number is a number in base sixteen.
func number(t *testing.T, s string) int {
	t.Helper()
	n, err := strconv.ParseInt(s, 16, 32)
	if err != nil {
		t.Fatal(err)
	}
	return int(n)
}

// cells are the second bytes, in order.
func cells() []int {
	var all []int
	for second := range 256 {
		if second >= 0x40 && second <= 0x7E || second >= 0xA1 && second <= 0xFE {
			all = append(all, second)
		}
	}
	return all
}

// single are the signs of the codes that have one.
func single(t *testing.T) map[int]rune {
	t.Helper()
	all := map[int]rune{}
	put := func(code int, s string) {
		if p, ok := all[code]; ok {
			t.Fatalf("%04x has the signs %x and %s", code, p, s)
		}
		all[code] = rune(number(t, s))
	}
	second := 0
	for _, s := range strings.Fields(row88) {
		if first, ok := strings.CutSuffix(s, ":"); ok {
			second = number(t, first)
			continue
		}
		put(0x8800+second, s)
		second++
	}
	lead, cell := 0, 0
	for _, s := range strings.Fields(rows) {
		if first, ok := strings.CutSuffix(s, ":"); ok {
			lead, cell = number(t, first), 0
			continue
		}
		put(lead*256+cells()[cell], s)
		cell++
	}
	if len(all) != 610 {
		t.Fatalf("%d codes of one sign", len(all))
	}
	return all
}

// double are the signs of the codes that have two.
func double(t *testing.T) map[int][]rune {
	t.Helper()
	all := map[int][]rune{}
	for line := range strings.Lines(strings.TrimSpace(two)) {
		f := strings.Fields(line)
		all[number(t, f[0])] = []rune{rune(number(t, f[1])), rune(number(t, f[2]))}
	}
	return all
}

// whole are the signs of all codes.
func whole(t *testing.T) map[int]string {
	t.Helper()
	all := map[int]string{}
	for code, p := range single(t) {
		all[code] = string(p)
	}
	for code, l := range double(t) {
		all[code] = string(l)
	}
	return all
}

// inBytes are a code's two bytes.
func inBytes(code int) string { return string([]byte{byte(code / 256), byte(code % 256)}) }

// signs holds what Signs answers against what it should.
func signs(t *testing.T, code int, want string, there bool) {
	t.Helper()
	if s, ok := big5.Signs(byte(code/256), byte(code%256)); s != want || ok != there {
		t.Errorf("Signs of %04x = %x, %v; not %x, %v", code, []rune(s), ok, []rune(want), there)
	}
}

// bytes holds what Bytes answers against what it should.
func bytes(t *testing.T, l []rune, want string, count int) {
	t.Helper()
	if b, n := big5.Bytes(l...); b != want || n != count {
		t.Errorf("Bytes(%x) = %x, %d; not %x, %d", l, b, n, want, count)
	}
}

// all are numbers of signs and many that are none's, below 0 and behind the last sign too.
func all(yield func(rune) bool) {
	for p := rune(-0x20000); p < 0x120000; p++ {
		if !yield(p) {
			return
		}
	}
	for n := range rune(0x10000) {
		for _, p := range []rune{math.MinInt32 + n, math.MaxInt32 - n, 0x7FFF0000 | n, 1<<24 | n, -1<<24 | n} {
			if !yield(p) {
				return
			}
		}
	}
}

// P8.1: the signs, or none, of all pairs of bytes.
func TestAllBytes(t *testing.T) {
	want := whole(t)
	if len(want) != 614 {
		t.Fatalf("%d codes", len(want))
	}
	for code := range 1 << 16 {
		s, ok := want[code]
		signs(t, code, s, ok)
	}
}

// P8.1: the bytes, or none, of each sign that stands alone, and of numbers that are no sign's.
func TestAllSigns(t *testing.T) {
	want := map[rune]string{}
	for code, p := range single(t) {
		want[p] = inBytes(code)
	}
	for p := range all {
		b, ok := want[p]
		n := 0
		if ok {
			n = 1
		}
		bytes(t, []rune{p}, b, n)
	}
}

// P8.1: what stands behind a sign tells whether two bytes stand for both.
func TestSecondSigns(t *testing.T) {
	want := map[[2]rune]string{}
	for code, l := range double(t) {
		want[[2]rune{l[0], l[1]}] = inBytes(code)
	}
	for first, alone := range map[rune]string{0x00CA: "\x88\x66", 0x00EA: "\x88\xa7"} {
		for p := range all {
			b, n := alone, 1
			if both, ok := want[[2]rune{first, p}]; ok {
				b, n = both, 2
			}
			bytes(t, []rune{first, p}, b, n)
		}
	}
}

// P8.1: what stands ahead of a second of two signs tells whether two bytes stand for both.
func TestFirstSigns(t *testing.T) {
	want := map[rune]string{}
	for code, p := range single(t) {
		want[p] = inBytes(code)
	}
	for _, mark := range []rune{0x0304, 0x030C} {
		for p := range all {
			if p == 0x00CA || p == 0x00EA {
				continue
			}
			b, ok := want[p]
			n := 0
			if ok {
				n = 1
			}
			bytes(t, []rune{p, mark}, b, n)
		}
	}
}

// P8.1: no more than the first two of some signs are looked at.
func TestManySigns(t *testing.T) {
	for _, x := range []struct {
		l    []rune
		want string
		n    int
	}{
		{nil, "", 0},
		{[]rune{}, "", 0},
		{[]rune{0x00CA}, "\x88\x66", 1},
		{[]rune{0x00EA}, "\x88\xa7", 1},
		{[]rune{0x00CA, 0x00CA, 0x0304}, "\x88\x66", 1},
		{[]rune{0x00CA, 'A', 0x0304}, "\x88\x66", 1},
		{[]rune{0x00CA, 0x0304, 0x030C}, "\x88\x62", 2},
		{[]rune{0x00CA, 0x030C, 0x0304}, "\x88\x64", 2},
		{[]rune{0x00EA, 0x0304, 0x4E00}, "\x88\xa3", 2},
		{[]rune{0x00EA, 0x030C, -1, math.MinInt32}, "\x88\xa5", 2},
		{[]rune{0x4E00, 0x00CA, 0x0304}, "\xa4\x40", 1},
		{[]rune{0x3000, 0xD800}, "\xa1\x40", 1},
		{[]rune{'A', 0x4E00}, "", 0},
		{[]rune{'A', 0x00CA, 0x0304}, "", 0},
		{[]rune{0x0304, 0x00CA}, "", 0},
		{[]rune{0x030C, 0x00EA}, "", 0},
		{[]rune{-1, 0x4E00}, "", 0},
		{[]rune{0x1EBE, 0x0304}, "\x88\x63", 1},
	} {
		bytes(t, x.l, x.want, x.n)
	}
}

// P8.1: signs that are handed in stay as they are, those behind their end too, and these aren't looked at.
func TestSignsStay(t *testing.T) {
	room := []rune{0x00CA, 0x0304, 0x030C, 0x4E00}
	kept := slices.Clone(room)
	bytes(t, room[:1], "\x88\x66", 1)
	bytes(t, room[:0], "", 0)
	bytes(t, room[:2], "\x88\x62", 2)
	bytes(t, room[3:], "\xa4\x40", 1)
	if !slices.Equal(room, kept) {
		t.Errorf("%x", room)
	}
}

// P8.1: all codes of one sign, by rising codes, and none of two.
func TestPairs(t *testing.T) {
	var want []run.Pair
	for code, p := range single(t) {
		want = append(want, run.Pair{Code: code, Point: p})
	}
	slices.SortFunc(want, func(a, b run.Pair) int { return a.Code - b.Code })
	got := big5.Pairs()
	if !slices.Equal(got, want) {
		t.Errorf("%d codes: not those that the chapter tells", len(got))
	}
	for i, x := range got {
		if i > 0 && x.Code <= got[i-1].Code {
			t.Errorf("%04x behind %04x", x.Code, got[i-1].Code)
		}
		signs(t, x.Code, string(x.Point), true)
	}
}

// P8.1: Pairs hands out new memory: whoever changes it changes nothing else.
func TestPairsAreNew(t *testing.T) {
	first := big5.Pairs()
	kept := slices.Clone(first)
	second := big5.Pairs()
	clear(first[:cap(first)])
	if !slices.Equal(second, kept) || !slices.Equal(big5.Pairs(), kept) {
		t.Error("two answers share memory")
	}
	signs(t, 0xA440, "\u4e00", true)
	bytes(t, []rune{0x4E00}, "\xa4\x40", 1)
}

// P8.2: no two pairs of bytes have one sign, and all signs of each lead back to it.
func TestOneEach(t *testing.T) {
	seen := map[string]int{}
	for code := range 1 << 16 {
		s, ok := big5.Signs(byte(code>>8), byte(code))
		if !ok {
			continue
		}
		if other, there := seen[s]; there {
			t.Errorf("%x are the signs of %04x and of %04x", []rune(s), other, code)
		}
		seen[s] = code
		l := []rune(s)
		bytes(t, l, inBytes(code), len(l))
		bytes(t, append(l, 0x4E00), inBytes(code), len(l))
	}
	if len(seen) != 614 {
		t.Errorf("%d codes", len(seen))
	}
}

// P8.1, P8.2: the chapter's examples, and the document's.
func TestExamples(t *testing.T) {
	signs(t, 0xA440, "\u4e00", true)
	signs(t, 0x8866, "\u00ca", true)
	signs(t, 0x8862, "\u00ca\u0304", true)
	bytes(t, []rune{0x00CA, 0x0304}, "\x88\x62", 2)
	bytes(t, []rune{0x00CA, 'A'}, "\x88\x66", 1)
}

// P8.1: the first and the last code of each row, and what stands beside them.
func TestEdges(t *testing.T) {
	for code, s := range map[int]string{
		0x8856: "\u0100", 0x8861: "\u00d2", 0x8863: "\u1ebe", 0x8865: "\u1ec0", 0x887E: "\u01da",
		0x88A1: "\u01dc", 0x88A2: "\u00fc", 0x88A4: "\u1ebf", 0x88A6: "\u1ec1", 0x88A8: "\u0261",
		0xA140: "\u3000", 0xA17E: "\ufe5a", 0xA1A1: "\ufe5b", 0xA1FE: "\uff0f",
		0xA340: "\uff57", 0xA37E: "\u310f", 0xA3A1: "\u3110", 0xA3BF: "\u02cb",
		0xA440: "\u4e00", 0xA47E: "\u624d", 0xA4A1: "\u4e11", 0xA4FE: "\u4e19",
		0xA540: "\u4e16", 0xA57E: "\u5916", 0xA5A1: "\u592e", 0xA5FE: "\u5168",
	} {
		signs(t, code, s, true)
		bytes(t, []rune(s), inBytes(code), 1)
	}
	for what, codes := range map[string][]int{
		"bytes of letters":             {0x0000, 0x4141, 0x6162, 0x7FA1, 0x0040},
		"a first byte beside the rows": {0x8762, 0x8756, 0x8956, 0x8962, 0xA040, 0xA240, 0xA2A1, 0xA2FE, 0xA640, 0xFEFE, 0xFF40, 0xFFFF},
		"a second byte too low":        {0x8800, 0xA100, 0xA13F, 0xA33F, 0xA43F, 0xA53F},
		"a second byte in the gap":     {0x887F, 0x88A0, 0xA17F, 0xA180, 0xA1A0, 0xA37F, 0xA3A0, 0xA47F, 0xA480, 0xA4A0, 0xA57F, 0xA5A0},
		"a second byte too high":       {0x88FF, 0xA1FF, 0xA3FF, 0xA4FF, 0xA5FF},
		"ahead of a row's first sign":  {0x8840, 0x8855},
		"behind a row's last sign":     {0x88A9, 0x88AA, 0x88FE, 0xA3C0, 0xA3E1, 0xA3FE},
		"a code's bytes turned":        {0x5688, 0x40A1, 0x40A4},
	} {
		for _, code := range codes {
			if s, ok := big5.Signs(byte(code>>8), byte(code)); s != "" || ok {
				t.Errorf("%s: %04x has the signs %x, %v", what, code, []rune(s), ok)
			}
		}
	}
}
