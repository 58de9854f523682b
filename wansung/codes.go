package wansung

const (
	corner = 0xA1 // the first byte, and the second one, of the rows' first cell
	edge   = 0xFE // the last of both
	cells  = edge - corner + 1

	firstCell = 1410 // of a syllable

	firstLead = 0x81         // of the other syllables
	wide      = 178          // how many of them a lead has,
	narrow    = wide - cells // and one that the rows have too
	wides     = (corner - firstLead) * wide
)

// cellOf is the place of two bytes in the rows; false: they aren't in the rows.
func cellOf(lead, second int) (int, bool) {
	if lead < corner || lead > edge || second < corner || second > edge {
		return 0, false
	}
	return (lead-corner)*cells + second - corner, true
}

// cellCode is the code of a place in the rows.
func cellCode(cell int) int { return (corner+cell/cells)<<8 | (corner + cell%cells) }

// extraOf is the number of two bytes beside the rows; false: they have none. Not each number is one of a syllable.
func extraOf(lead, second int) (int, bool) {
	n, ok := secondOf(second)
	switch {
	case !ok || lead < firstLead:
		return 0, false
	case lead < corner:
		return (lead-firstLead)*wide + n, true
	case n < narrow:
		return wides + (lead-corner)*narrow + n, true
	}
	return 0, false
}

// extraCode is the code of a number beside the rows.
func extraCode(k int) int {
	if k < wides {
		return (firstLead+k/wide)<<8 | secondByte(k%wide)
	}
	k -= wides
	return (corner+k/narrow)<<8 | secondByte(k%narrow)
}

// secondOf is the number of a second byte beside the rows; false: it has none.
func secondOf(second int) (int, bool) {
	switch {
	case second >= 'A' && second <= 'Z':
		return second - 'A', true
	case second >= 'a' && second <= 'z':
		return second - 'a' + 26, true
	case second >= 0x81 && second <= edge:
		return second - 0x81 + 52, true
	}
	return 0, false
}

// secondByte is the second byte of a number.
func secondByte(n int) int {
	switch {
	case n < 26:
		return 'A' + n
	case n < 52:
		return 'a' + n - 26
	}
	return 0x81 + n - 52
}
