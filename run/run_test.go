package run_test

import (
	"math"
	"slices"
	"strings"
	"testing"

	"diacritic/api"
	"diacritic/point"
	"diacritic/run"
)

const most = 1 << 20 // codes there may be

// wrong is what New tells of the piece at a place.
func wrong(at int) api.Fault { return api.Fault{Errno: api.ErrArg, At: at} }

// made is the table of pieces that may be.
func made(t *testing.T, pieces ...run.Piece) run.Table {
	t.Helper()
	x, f := run.New(pieces...)
	if f != (api.Fault{}) {
		t.Fatalf("New(%v): %v", pieces, f)
	}
	return x
}

// holds holds all that a table tells against codes and their signs, told as plainly as can be.
func holds(t *testing.T, what string, x run.Table, want map[int]rune) {
	t.Helper()
	var pairs []run.Pair
	least := map[rune]int{}
	for code, sign := range want {
		pairs = append(pairs, run.Pair{Code: code, Point: sign})
		if c, ok := least[sign]; !ok || code < c {
			least[sign] = code
		}
	}
	slices.SortFunc(pairs, func(a, b run.Pair) int { return a.Code - b.Code })
	if got := x.Pairs(); !slices.Equal(got, pairs) {
		t.Errorf("%s: Pairs %v, not %v", what, got, pairs)
	}
	if x.Size() != len(want) {
		t.Errorf("%s: Size %d, not %d", what, x.Size(), len(want))
	}
	for code, sign := range want {
		for c := code - 1; c <= code+1; c++ {
			looks(t, what, x, want, c)
		}
		for p := sign - 1; p <= sign+1; p++ {
			looksBack(t, what, x, least, p)
		}
	}
	for _, c := range []int{math.MinInt, math.MinInt + 1, math.MinInt32, -most, -1, 0, 1, 255, 256, most - 1, most, 1 << 32, math.MaxInt - 1, math.MaxInt} {
		looks(t, what, x, want, c)
	}
	for _, p := range []rune{math.MinInt32, -1, 0, 1, 'A', 0xD7FF, 0xD800, 0xDFFF, 0xE000, 0x10FFFF, 0x110000, math.MaxInt32} {
		looksBack(t, what, x, least, p)
	}
}

func looks(t *testing.T, what string, x run.Table, want map[int]rune, code int) {
	t.Helper()
	sign, there := want[code]
	if p, ok := x.Forward(code); p != sign || ok != there {
		t.Errorf("%s: Forward(%d) = %x, %v; not %x, %v", what, code, p, ok, sign, there)
	}
}

func looksBack(t *testing.T, what string, x run.Table, least map[rune]int, p rune) {
	t.Helper()
	code, there := least[p]
	if c, ok := x.Reverse(p); c != code || ok != there {
		t.Errorf("%s: Reverse(%x) = %d, %v; not %d, %v", what, p, c, ok, code, there)
	}
}

// P4.1: pieces are what they are made of, right or not.
func TestPieces(t *testing.T) {
	for _, n := range []int{math.MinInt, -1, 0, 7, most, math.MaxInt} {
		for _, p := range []rune{math.MinInt32, -1, 0, 'A', 0xD800, math.MaxInt32} {
			for _, m := range []int{math.MinInt, 0, 1, math.MaxInt} {
				if got := run.Seq(n, p, m); got != (run.Piece{From: n, To: p, Count: m}) {
					t.Errorf("Seq(%d, %d, %d) = %v", n, p, m, got)
				}
			}
		}
		for _, s := range []string{"", "a", "xy\u00e9", "\xff"} {
			if got := run.List(n, s); got != (run.Piece{From: n, Text: s}) {
				t.Errorf("List(%d, %q) = %v", n, s, got)
			}
		}
	}
}

// P4.1, P4.2, P4.3: the chapter's examples, and what has no codes.
func TestExamples(t *testing.T) {
	x := made(t, run.Seq(0, 65, 3), run.List(10, "xy"))
	holds(t, "first", x, map[int]rune{0: 'A', 1: 'B', 2: 'C', 10: 'x', 11: 'y'})
	y := made(t, run.Seq(1, 65, 1)).Over(x)
	holds(t, "second", y, map[int]rune{0: 'A', 1: 'A', 2: 'C', 10: 'x', 11: 'y'})
	holds(t, "of no pieces", made(t), nil)
	holds(t, "of an empty list", made(t, []run.Piece{}...), nil)
	holds(t, "zero", run.Table{}, nil)
}

// P4.1: whether a piece without a Text may be: all edges, reckoned in numbers that hold them all.
func TestSeqEdges(t *testing.T) {
	froms := []int{math.MinInt, math.MinInt32, -most, -2, -1, 0, 1, 1000, most - 0x801, most - 3, most - 2, most - 1, most, most + 1, math.MaxInt32, math.MaxInt - 1, math.MaxInt}
	tos := []rune{
		math.MinInt32, -most, -1, 0, 1, 'A', 0xD7FD, 0xD7FE, 0xD7FF, 0xD800, 0xDBFF, 0xDFFE, 0xDFFF, 0xE000, 0xE001, 0xFFFF, 0x10000, 0x10FFFD, 0x10FFFE, 0x10FFFF, 0x110000, math.MaxInt32 - 1, math.MaxInt32,
	}
	counts := []int{
		math.MinInt, math.MinInt + 1, math.MinInt32, -most, -1, 0, 1, 2, 3, 0x7FF, 0x800, 0x801, 0x802, 0x803, 0x804, 0xD800, 0xD801, 0xE001, most - 2, most - 1, most, most + 1, 1 << 31, 1 << 32, 1<<32 + 1, math.MaxInt - 1, math.MaxInt,
	}
	for _, from := range froms {
		for _, to := range tos {
			for _, count := range counts {
				oneSeq(t, from, to, count)
			}
		}
	}
}

// oneSeq holds what New makes of one piece against what the chapter tells.
func oneSeq(t *testing.T, from int, to rune, count int) {
	t.Helper()
	right := from >= 0 && from < most && count >= 1 && count <= most && from+count <= most
	if right {
		for p := int(to); p < int(to)+count; p++ {
			if p < 0 || p > 0x10FFFF || p >= 0xD800 && p <= 0xDFFF {
				right = false
				break
			}
		}
	}
	x, f := run.New(run.Seq(from, to, count))
	if right && f != (api.Fault{}) || !right && f != wrong(0) {
		t.Errorf("Seq(%d, %x, %d): %v", from, to, count, f)
	}
	if !right && x.Size() != 0 {
		t.Errorf("Seq(%d, %x, %d): something beside a fault", from, to, count)
	}
	if !right || f.Bad() {
		return
	}
	last := from + count - 1
	p, ok := x.Forward(last)
	c, back := x.Reverse(to)
	if x.Size() != count || !ok || p != to+rune(count-1) || !back || c != from {
		t.Errorf("Seq(%d, %x, %d): %d codes, the last %x", from, to, count, x.Size(), p)
	}
	if _, ok := x.Forward(last + 1); ok {
		t.Errorf("Seq(%d, %x, %d): one code more", from, to, count)
	}
}

// P4.1: pieces with a Text: its signs count alone.
func TestTexts(t *testing.T) {
	for _, c := range []struct {
		p    run.Piece
		want map[int]rune
	}{
		{run.List(0, "a"), map[int]rune{0: 'a'}},
		{run.List(7, "ba\u00e9\uac00\U0001F600\x00"), map[int]rune{7: 'b', 8: 'a', 9: 0xE9, 10: 0xAC00, 11: 0x1F600, 12: 0}},
		{run.List(5, "abcbca"), map[int]rune{5: 'a', 6: 'b', 7: 'c', 8: 'b', 9: 'c', 10: 'a'}},
		{run.List(3, "\ud7ff\ue000\U0010FFFF\ufffd\ufeff"), map[int]rune{3: 0xD7FF, 4: 0xE000, 5: 0x10FFFF, 6: 0xFFFD, 7: 0xFEFF}},
		{run.List(most-1, "\u0301"), map[int]rune{most - 1: 0x301}},
		{run.List(most-2, "zz"), map[int]rune{most - 2: 'z', most - 1: 'z'}},
		{run.Piece{From: 4, To: 'q', Count: 9, Text: "xy"}, map[int]rune{4: 'x', 5: 'y'}},
		{run.Piece{From: 4, To: 0xD800, Count: math.MaxInt, Text: "x"}, map[int]rune{4: 'x'}},
		{run.Piece{From: 4, To: -1, Count: math.MinInt, Text: "x"}, map[int]rune{4: 'x'}},
		{run.Piece{From: 4, To: math.MaxInt32, Count: -1, Text: "xx"}, map[int]rune{4: 'x', 5: 'x'}},
	} {
		holds(t, c.p.Text, made(t, c.p), c.want)
	}
}

// P4.1: pieces that may not be, with a Text and without, wherever they stand.
func TestWrongPieces(t *testing.T) {
	long := strings.Repeat("a", most+1)
	for _, bad := range []run.Piece{
		{}, {From: 5}, {From: 5, To: 'a'}, run.List(5, ""), {From: 5, Count: -1}, run.Seq(5, 'a', 0),
		run.List(5, "\xff"), run.List(5, "ab\xc3"), run.List(5, "\xed\xa0\x80"), run.List(5, "a\xf4\x90\x80\x80"), run.List(5, "\xc0\x80"),
		{From: 5, To: 'a', Count: 1, Text: "\xff"}, {From: 5, To: 'a', Count: 1, Text: "a\xe0\x80\x80b"},
		run.List(-1, "ab"), run.List(math.MinInt, "ab"), run.List(most, "a"), run.List(most-1, "ab"), run.List(most-2, "\u00e9\u00e9\u00e9"), run.List(math.MaxInt, "ab"),
		run.List(0, long), run.List(1, long[:most]), run.Seq(0, 0, 0xD801), run.Seq(5, 0xD7FF, 2), run.Seq(5, 0xD7FF, 0x802),
	} {
		right := []run.Piece{run.Seq(1000, 'a', 5), run.List(2000, "abc"), run.Seq(3000, 'a', 1)}
		for at := range len(right) + 1 {
			pieces := slices.Insert(slices.Clone(right), at, bad)
			pieces = append(pieces, run.Seq(1000, 'a', 5), run.Seq(-1, -1, -1)) // what is wrong further on isn't told
			if x, f := run.New(pieces...); f != wrong(at) || x.Size() != 0 || len(x.Pairs()) != 0 {
				t.Errorf("New with From %d, Count %d, %d bytes of text at %d: %v", bad.From, bad.Count, len(bad.Text), at, f)
			}
		}
	}
	holds(t, "as many as may be", made(t, run.List(most-3, "abc")), map[int]rune{most - 3: 'a', most - 2: 'b', most - 1: 'c'})
	if x := made(t, run.List(0, long[:most])); x.Size() != most {
		t.Error("a text of all codes", x.Size())
	}
}

// P4.1: codes that a piece ahead has.
func TestTaken(t *testing.T) {
	for _, c := range []struct {
		at     int // below 0: all may be
		pieces []run.Piece
	}{
		{1, []run.Piece{run.Seq(0, 65, 3), run.Seq(2, 70, 1)}},
		{-1, []run.Piece{run.Seq(0, 65, 3), run.Seq(3, 70, 1)}},
		{1, []run.Piece{run.Seq(2, 70, 1), run.Seq(0, 65, 3)}},
		{-1, []run.Piece{run.Seq(3, 70, 1), run.Seq(0, 65, 3)}},
		{1, []run.Piece{run.Seq(5, 65, 1), run.Seq(5, 65, 1)}}, // also with the same sign
		{1, []run.Piece{run.Seq(0, 65, 10), run.Seq(4, 65, 2)}},
		{1, []run.Piece{run.Seq(4, 65, 2), run.Seq(0, 65, 10)}},
		{1, []run.Piece{run.List(4, "ab"), run.List(5, "b")}},
		{1, []run.Piece{run.List(4, "\u00e9\u00e9"), run.Seq(5, 'b', 1)}},
		{-1, []run.Piece{run.List(4, "\u00e9\u00e9"), run.Seq(6, 'b', 1), run.Seq(3, 'b', 1)}},
		{1, []run.Piece{run.Seq(0, 0, 1), {From: 0, Text: "a", To: 7, Count: 9}}},
		{-1, []run.Piece{{From: 0, Text: "a", To: 7, Count: 9}, run.Seq(1, 0, 1)}},
		{3, []run.Piece{run.Seq(0, 65, 5), run.Seq(20, 65, 5), run.Seq(10, 65, 5), run.Seq(24, 65, 1), run.Seq(4, 65, 1)}},
		{4, []run.Piece{run.Seq(0, 65, 5), run.Seq(20, 65, 5), run.Seq(10, 65, 5), run.Seq(25, 65, 1), run.Seq(4, 65, 1)}},
		{2, []run.Piece{run.Seq(most-1, 65, 1), run.Seq(0, 65, 1), run.Seq(most-2, 65, 2)}},
		{1, []run.Piece{run.Seq(0, 0x10000, most), run.Seq(most-1, 65, 1)}},
		{1, []run.Piece{run.Seq(0, 65, 3), run.Seq(2, 70, 1), run.Seq(-1, 0, 0)}},
	} {
		f := wrong(c.at)
		if c.at < 0 {
			f = api.Fault{}
		}
		if x, got := run.New(c.pieces...); got != f || f.Bad() && x.Size() != 0 {
			t.Errorf("New(%v): %v, not %v", c.pieces, got, f)
		}
	}
}

// numbers are numbers below n, the same ones each time.
type numbers uint32

func (r *numbers) below(n int) int {
	*r = *r*1664525 + 1013904223
	return int(uint32(*r)>>8) % n
}

// some are pieces, and what they tell: the codes' signs, and the first wrong piece (below 0: none).
func some(r *numbers) ([]run.Piece, map[int]rune, int) {
	var pieces []run.Piece
	want, bad := map[int]rune{}, -1
	for at := range r.below(7) {
		p := run.Piece{From: r.below(40), To: rune('a' + r.below(12)), Count: 1 + r.below(6)}
		if r.below(2) == 0 {
			p.Text = "dcbaefb\u0301a\u00e9hi"[:r.below(8)]
		}
		pieces = append(pieces, p)
		signs := []rune(p.Text)
		for i := 0; p.Text == "" && i < p.Count; i++ {
			signs = append(signs, p.To+rune(i))
		}
		for i, sign := range signs {
			if _, ok := want[p.From+i]; ok && bad < 0 {
				bad = at
			}
			want[p.From+i] = sign
		}
	}
	return pieces, want, bad
}

// P4.1, P4.2, P4.3: many small tables, one over the other too, against codes told one by one.
func TestManyTables(t *testing.T) {
	r := numbers(4)
	above, signs := run.Table{}, map[int]rune{}
	rightOnes, wrongOnes := 0, 0
	for range 20000 {
		pieces, want, bad := some(&r)
		x, f := run.New(pieces...)
		if bad >= 0 {
			wrongOnes++
			if f != wrong(bad) || x.Size() != 0 {
				t.Fatalf("New(%v): %v, not at %d", pieces, f, bad)
			}
			continue
		}
		rightOnes++
		if f.Bad() {
			t.Fatalf("New(%v): %v", pieces, f)
		}
		holds(t, "made", x, want)
		both := map[int]rune{}
		for _, m := range []map[int]rune{want, signs} {
			for code, sign := range m {
				both[code] = sign
			}
		}
		z := above.Over(x)
		holds(t, "over", z, both)
		holds(t, "the upper one, still", above, signs)
		holds(t, "the lower one, still", x, want)
		if above, signs = z, both; r.below(4) == 0 {
			above, signs = x, want
		}
		if t.Failed() {
			t.Fatalf("with %v", pieces)
		}
	}
	if rightOnes < 2000 || wrongOnes < 2000 {
		t.Error("too few of a kind", rightOnes, wrongOnes)
	}
}

// P4.2: of several codes of a sign the least one, whichever piece has it.
func TestLeastCode(t *testing.T) {
	pieces := []run.Piece{run.Seq(100, 'a', 26), run.Seq(50, 'c', 3), run.List(20, "zdy"), run.List(200, "a\u00e9"), run.Seq(10, 'd', 2)}
	want := map[rune]int{'a': 100, 'b': 101, 'c': 50, 'd': 10, 'e': 11, 'f': 105, 'y': 22, 'z': 20, 0xE9: 201}
	for range pieces {
		pieces = append(pieces[1:], pieces[0]) // the order of pieces tells nothing
		x := made(t, pieces...)
		for p, code := range want {
			if c, ok := x.Reverse(p); c != code || !ok {
				t.Errorf("Reverse(%q) = %d, %v; not %d", p, c, ok, code)
			}
		}
	}
}

// P4.3: what lies under a table is seen beside it alone, and its signs there are no others' then.
func TestOver(t *testing.T) {
	low := made(t, run.Seq(10, 'a', 5), run.Seq(20, 'a', 2))
	for _, c := range []struct {
		what string
		high run.Table
		want map[int]rune
	}{
		{"nothing", run.Table{}, map[int]rune{10: 'a', 11: 'b', 12: 'c', 13: 'd', 14: 'e', 20: 'a', 21: 'b'}},
		{"itself", low, map[int]rune{10: 'a', 11: 'b', 12: 'c', 13: 'd', 14: 'e', 20: 'a', 21: 'b'}},
		{"the first", made(t, run.List(10, "x")), map[int]rune{10: 'x', 11: 'b', 12: 'c', 13: 'd', 14: 'e', 20: 'a', 21: 'b'}},
		{"one within", made(t, run.List(12, "x")), map[int]rune{10: 'a', 11: 'b', 12: 'x', 13: 'd', 14: 'e', 20: 'a', 21: 'b'}},
		{"the last", made(t, run.List(14, "x")), map[int]rune{10: 'a', 11: 'b', 12: 'c', 13: 'd', 14: 'x', 20: 'a', 21: 'b'}},
		{"each other one", made(t, run.List(11, "x"), run.List(13, "y")), map[int]rune{10: 'a', 11: 'x', 12: 'c', 13: 'y', 14: 'e', 20: 'a', 21: 'b'}},
		{"beside", made(t, run.List(9, "x"), run.List(15, "y")), map[int]rune{9: 'x', 10: 'a', 11: 'b', 12: 'c', 13: 'd', 14: 'e', 15: 'y', 20: 'a', 21: 'b'}},
		{"the end of one and the next", made(t, run.List(14, "1234567")), map[int]rune{10: 'a', 11: 'b', 12: 'c', 13: 'd', 14: '1', 15: '2', 16: '3', 17: '4', 18: '5', 19: '6', 20: '7', 21: 'b'}},
		{"all", made(t, run.Seq(5, 'A', 20)), func() map[int]rune {
			m := map[int]rune{}
			for i := range 20 {
				m[5+i] = rune('A' + i)
			}
			return m
		}()},
	} {
		holds(t, c.what, c.high.Over(low), c.want)
	}
	holds(t, "the lower one, still", low, map[int]rune{10: 'a', 11: 'b', 12: 'c', 13: 'd', 14: 'e', 20: 'a', 21: 'b'})
	if c, ok := made(t, run.List(10, "x")).Over(low).Reverse('a'); c != 20 || !ok { // the least that is left
		t.Error("Reverse", c, ok)
	}
}

// R3: what was handed in or out may be changed; tables stay.
func TestOwnMemory(t *testing.T) {
	pieces := []run.Piece{run.Seq(0, 'a', 3), run.List(5, "xy")}
	want := map[int]rune{0: 'a', 1: 'b', 2: 'c', 5: 'x', 6: 'y'}
	x := made(t, pieces...)
	pieces[0], pieces[1] = run.Seq(7, 'q', 9), run.List(8, "z")
	holds(t, "pieces changed", x, want)
	for range 2 {
		got := x.Pairs()
		clear(got)
		_ = append(got[:1], run.Pair{Code: 99, Point: 'z'})
	}
	holds(t, "pairs changed", x, want)
	handed := []run.Piece{run.List(5, "xy"), run.Seq(0, 'a', 3), {From: 77}}
	was := slices.Clone(handed)
	made(t, handed[:2]...)
	if !slices.Equal(handed, was) {
		t.Error("pieces that were handed in, and the room behind them, are others now")
	}
}

// P4.1, P4.2, P4.3: as many codes as there may be, in rows as small and as great as may be, and no answer takes long.
func TestGreatTables(t *testing.T) {
	all := made(t, run.Seq(0, 0x10000, most))
	text := make([]rune, most)
	for i := range text {
		text[i] = rune(0x10FFFF - i) // no sign follows on the one ahead
	}
	s, _ := point.Text(text...)
	down := made(t, run.List(0, s))
	pieces := make([]run.Piece, 0, most)
	for code := most - 1; code >= 0; code -= 2 {
		pieces = append(pieces, run.Seq(code, rune(0x10000+code), 1))
	}
	odd := made(t, pieces...)
	mixed := odd.Over(down)
	if all.Size() != most || down.Size() != most || odd.Size() != most/2 || mixed.Size() != most {
		t.Fatal("sizes", all.Size(), down.Size(), odd.Size(), mixed.Size())
	}
	for code := range most {
		up, back := rune(0x10000+code), rune(0x10FFFF-code)
		want := []rune{up, back, up, up}
		if code%2 == 0 {
			want[2], want[3] = 0, back
		}
		for i, x := range []run.Table{all, down, odd, mixed} {
			if p, ok := x.Forward(code); p != want[i] || ok != (want[i] != 0) {
				t.Fatal(i, "Forward", code, p, ok)
			}
		}
		least, there := code, true
		if code%2 == 0 {
			least, there = 0, false
		}
		if c, ok := odd.Reverse(up); c != least || ok != there {
			t.Fatal("odd Reverse", code, c, ok)
		}
		if c, ok := down.Reverse(back); c != code || !ok {
			t.Fatal("down Reverse", code, c, ok)
		}
		if c, ok := mixed.Reverse(up); there && (c != min(code, most-1-code) || !ok) || !there && ok {
			t.Fatal("mixed Reverse", code, c, ok)
		}
	}
}

// P4.3: a table over itself, or over others again and again, tells no more than before.
func TestOverAndOver(t *testing.T) {
	x := made(t, run.Seq(0, 'a', 20), run.List(30, "zx"))
	want := map[int]rune{30: 'z', 31: 'x'}
	for i := range 20 {
		want[i] = rune('a' + i)
	}
	for range 100 {
		x = x.Over(x)
	}
	holds(t, "over itself", x, want)
	for i := range 2000 {
		x = made(t, run.Seq(i%20, 'A', 1)).Over(x)
		want[i%20] = 'A'
	}
	holds(t, "under others", x, want)
	for i := range 2000 {
		x = x.Over(made(t, run.Seq(i%40, 'B', 1)))
		if _, ok := want[i%40]; !ok {
			want[i%40] = 'B'
		}
	}
	holds(t, "over others", x, want)
}
