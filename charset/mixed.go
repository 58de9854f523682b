package charset

import (
	"diacritic/api"
	"diacritic/big5"
	"diacritic/johab"
	"diacritic/octet"
	"diacritic/point"
	"diacritic/wansung"
)

// double is the first byte that has one more behind it.
const double = 0x80

// decodeMixed is the text of bytes in a charset of one and two bytes a sign.
func decodeMixed(c api.Charset, b string) (string, api.Fault) {
	t := make([]byte, 0, len(b))
	for at := 0; at < len(b); {
		signs, n := signsAhead(c, b[at:])
		if n == 0 {
			return "", api.Fault{Errno: api.ErrUndecodable, At: at}
		}
		t = append(t, signs...)
		at += n
	}
	return string(t), api.Fault{}
}

// signsAhead is the text of the signs that the first one or two of some bytes stand for, and how many bytes these are; 0: there are no such signs.
func signsAhead(c api.Charset, b string) (string, int) {
	if b[0] < double {
		return b[:1], 1
	}
	if len(b) < 2 {
		return "", 0
	}
	if signs, ok := signsOf(c, b[0], b[1]); ok {
		return signs, 2
	}
	return "", 0
}

// signsOf is the text of two bytes; false: they stand for nothing.
func signsOf(c api.Charset, lead, second byte) (string, bool) {
	switch c {
	case api.CP949:
		return oneSign(wansung.Sign(lead, second))
	case api.Johab:
		return oneSign(johab.Sign(lead, second))
	}
	return big5.Signs(lead, second)
}

// oneSign is the text of a sign, if there is one.
func oneSign(p rune, ok bool) (string, bool) {
	if !ok {
		return "", false
	}
	return point.Text(p)
}

// encodeMixed is a text's bytes in a charset of one and two bytes a sign.
func encodeMixed(c api.Charset, t string) (string, api.Fault) {
	points, f := point.Points(t)
	if f.Bad() {
		return "", f
	}
	b := make([]byte, 0, len(t))
	for i := 0; i < len(points); {
		codes, n := bytesAhead(c, points[i:]...)
		if n == 0 {
			ahead, _ := point.Text(points[:i]...) // they are a text's signs
			return "", api.Fault{Errno: api.ErrUnencodable, At: len(ahead)}
		}
		b = append(b, codes...)
		i += n
	}
	return string(b), api.Fault{}
}

// bytesAhead are the bytes of the signs with which some begin, and how many signs these are; 0: the first has none.
func bytesAhead(c api.Charset, l ...rune) (string, int) {
	if l[0] < double {
		return octet.Big(uint64(l[0]), 1), 1
	}
	switch c {
	case api.CP949:
		return oneCode(wansung.Bytes(l[0]))
	case api.Johab:
		return oneCode(johab.Bytes(l[0]))
	}
	return big5.Bytes(l...)
}

// oneCode are the bytes of one sign, if it has some.
func oneCode(b string, ok bool) (string, int) {
	if !ok {
		return "", 0
	}
	return b, 1
}
