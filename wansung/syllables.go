package wansung

import (
	"math/bits"
	"sort"
	"strconv"
)

const (
	syllables = 0xAC00 // the first of them
	count     = inRows + others
	inRows    = 2350
	others    = 8822

	digits = 7          // of a word
	size   = 4 * digits // how many syllables a word tells of, the lowest bit of the first
	group  = 7          // words
)

// word tells of some syllables which are in the rows, or which aren't.
func word(n int, rows bool) uint {
	u, _ := strconv.ParseUint(members[n*digits:(n+1)*digits], 16, size)
	if rows {
		return uint(u)
	}
	return 1<<size - 1 - uint(u)
}

// aheadOf is how many syllables ahead of a group are in the rows, or aren't.
func aheadOf(g int, rows bool) int {
	if rows {
		return ahead[g]
	}
	return g*group*size - ahead[g]
}

// nth is a syllable by its number among those that are in the rows, or that aren't; there is one.
func nth(k int, rows bool) rune {
	g := sort.Search(len(ahead)-1, func(g int) bool { return aheadOf(g+1, rows) > k })
	k -= aheadOf(g, rows)
	n := g * group
	u := word(n, rows)
	for k >= bits.OnesCount(u) {
		k -= bits.OnesCount(u)
		n++
		u = word(n, rows)
	}
	for range k {
		u &= u - 1 // the lowest bit isn't the one
	}
	return rune(syllables + n*size + bits.TrailingZeros(u))
}

// rank is the number of the n-th syllable among those that are in the rows, or that aren't, and which of both it is.
func rank(n int) (int, bool) {
	w, bit := n/size, n%size
	rows := word(w, true)>>bit&1 == 1
	k := aheadOf(w/group, rows)
	for i := w - w%group; i < w; i++ {
		k += bits.OnesCount(word(i, rows))
	}
	return k + bits.OnesCount(word(w, rows)&(1<<bit-1)), rows
}
