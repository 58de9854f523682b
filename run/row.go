package run

import (
	"cmp"
	"slices"
	"sort"
)

// row is keys, one behind the other, and what they have, one behind the other too: codes and their signs, or signs and their codes.
type row struct{ from, to, count int }

// end is the key behind the last one.
func (r row) end() int { return r.from + r.count }

// split is what a row has ahead of a key, and what from it on.
func (r row) split(key int) (row, row) {
	n := min(max(key-r.from, 0), r.count)
	return row{r.from, r.to, n}, row{r.from + n, r.to + n, r.count - n}
}

// total is how many keys rows have.
func total(rows []row) int {
	n := 0
	for _, r := range rows {
		n += r.count
	}
	return n
}

// find is what a key has; false: no row has that key.
func find(rows []row, key int) (int, bool) {
	has := func(i int) int { // 0: this row has it; else it can only be in one ahead (below 0), or in one behind
		switch r := rows[i]; {
		case key < r.from:
			return -1
		case key >= r.end():
			return 1
		}
		return 0
	}
	i, ok := sort.Find(len(rows), has)
	if !ok {
		return 0, false
	}
	return rows[i].to + key - rows[i].from, true
}

// add puts a row behind others. One that only goes on with the last is made one with it, so that tables don't fall into ever smaller rows when they are laid over one another.
func add(rows []row, r row) []row {
	if r.count == 0 {
		return rows
	}
	if n := len(rows); n > 0 && rows[n-1].end() == r.from && rows[n-1].to+rows[n-1].count == r.to {
		rows[n-1].count += r.count
		return rows
	}
	return append(rows, r)
}

// rising puts rows in order, where they stand, and makes one of those that go on with one another; no key is in two of them.
func rising(rows []row) []row {
	slices.SortFunc(rows, func(a, b row) int { return cmp.Compare(a.from, b.from) })
	out := make([]row, 0, len(rows))
	for _, r := range rows {
		out = add(out, r)
	}
	return out
}

// turned is the signs of rows of codes, and the least code of each. A sign and its code are put into one number, for such are sorted fast, and a table may be made for one short text.
func turned(rows []row) []row {
	both := make([]int64, 0, total(rows))
	for _, r := range rows {
		for i := range r.count {
			both = append(both, int64(r.to+i)*codes+int64(r.from+i))
		}
	}
	slices.Sort(both)
	var out []row
	for i, n := range both {
		if i == 0 || n/codes > both[i-1]/codes {
			out = add(out, row{int(n / codes), int(n % codes), 1})
		}
	}
	return out
}

// without is what rows have at keys that others haven't; both rise.
func without(rows, others []row) []row {
	var left []row
	for _, r := range rows {
		for len(others) > 0 && others[0].end() <= r.from {
			others = others[1:]
		}
		for _, o := range others {
			if o.from >= r.end() {
				break
			}
			ahead, _ := r.split(o.from)
			_, r = r.split(o.end())
			left = add(left, ahead)
		}
		left = add(left, r)
	}
	return left
}
