package tail_test

import (
	"strings"
	"testing"

	"diacritic/api"
	"diacritic/tail"
)

// spans are where the chapter's texts begin and end.
var spans = [5][2]int{{3, 33}, {33, 63}, {63, 93}, {93, 97}, {97, 127}}

// nought is so many bytes 0.
func nought(n int) string { return strings.Repeat("\x00", n) }

// texts are a tail's texts, which can be changed.
func texts(t *tail.Tail) [5]*string {
	return [5]*string{&t.Title, &t.Artist, &t.Album, &t.Year, &t.Comment}
}

// bytesOf are the bytes that the chapter tells of a tail that may be.
func bytesOf(t tail.Tail) string {
	var b [tail.Size]byte
	copy(b[:], "TAG")
	for i, s := range texts(&t) {
		copy(b[spans[i][0]:spans[i][1]], *s)
	}
	if t.Track != 0 {
		b[125], b[126] = 0, t.Track
	}
	b[127] = t.Genre
	return string(b[:])
}

// told is the tail that the chapter tells of bytes that are one.
func told(b string) tail.Tail {
	var t tail.Tail
	for i, s := range texts(&t) {
		for at := spans[i][0]; at < spans[i][1] && b[at] != 0; at++ {
			*s += b[at : at+1]
		}
	}
	if b[125] == 0 && b[126] != 0 {
		t.Track = b[126]
	}
	t.Genre = b[127]
	return t
}

// prints holds what a tail that may be is printed as, and what is read of that.
func prints(t *testing.T, x tail.Tail) {
	t.Helper()
	if f := x.Check(); f != (api.Fault{}) {
		t.Errorf("Check of %q = %v", x, f)
	}
	s, f := x.Print()
	if want := bytesOf(x); s != want || f != (api.Fault{}) {
		t.Errorf("Print of %q = %q, %v; not %q", x, s, f, want)
	}
	if y, ok := tail.Parse(s); y != x || !ok {
		t.Errorf("Parse of Print of %q = %q, %v", x, y, ok)
	}
}

// refuses holds the fault of a tail that may not be.
func refuses(t *testing.T, x tail.Tail, e api.Errno, at int) {
	t.Helper()
	want := api.Fault{Errno: e, At: at}
	if f := x.Check(); f != want {
		t.Errorf("Check of %q = %v, not %v", x, f, want)
	}
	if s, f := x.Print(); s != "" || f != want {
		t.Errorf("Print of %q = %q, %v, not %v", x, s, f, want)
	}
}

// parses holds what is read of bytes that are a tail.
func parses(t *testing.T, b string, want tail.Tail) {
	t.Helper()
	if x, ok := tail.Parse(b); x != want || !ok {
		t.Errorf("Parse(%q) = %q, %v; not %q", b, x, ok, want)
	}
}

// isNone holds that bytes are no tail.
func isNone(t *testing.T, b string) {
	t.Helper()
	if x, ok := tail.Parse(b); x != (tail.Tail{}) || ok {
		t.Errorf("Parse(%q) = %q, %v", b, x, ok)
	}
}

// full is a tail whose texts have all the bytes that there are.
func full(track byte) tail.Tail {
	x := tail.Tail{Names: tail.Names{
		Title: "The title of the song, so long", Artist: strings.Repeat("\xff", 30), Album: "TAG" + strings.Repeat("\xb0\xa1", 13) + "z", Year: "1999", Comment: strings.Repeat("c", 29) + "d",
	}, Track: track, Genre: 255}
	if track != 0 {
		x.Comment = x.Comment[2:]
	}
	return x
}

// P12.1: the chapter's example, and some that are spelt out.
func TestParseTold(t *testing.T) {
	parses(t, "TAGa"+nought(29)+nought(93)+"\x05\x11", tail.Tail{Names: tail.Names{Title: "a"}, Track: 5, Genre: 17})
	parses(t, "TAG"+nought(125), tail.Tail{})
	parses(t, "TAG"+nought(124)+"\xff", tail.Tail{Genre: 255})
	parses(t, "TAG"+strings.Repeat("a", 30)+strings.Repeat("b", 30)+strings.Repeat("c", 30)+"2026"+strings.Repeat("d", 30)+"g",
		tail.Tail{Names: tail.Names{Title: strings.Repeat("a", 30), Artist: strings.Repeat("b", 30), Album: strings.Repeat("c", 30), Year: "2026", Comment: strings.Repeat("d", 30)}, Genre: 'g'})
	parses(t, "TAG"+strings.Repeat("a", 30)+"b\x00"+strings.Repeat("b", 28)+"\x00"+strings.Repeat("c", 29)+"26\x006"+strings.Repeat("d", 28)+"\x00\xfe\x00",
		tail.Tail{Names: tail.Names{Title: strings.Repeat("a", 30), Artist: "b", Year: "26", Comment: strings.Repeat("d", 28)}, Track: 254})
}

// P12.1: what stands in a comment's last two bytes, beside long and short ones.
func TestTrack(t *testing.T) {
	for _, c := range []string{"", "a", "a\x00b", strings.Repeat("x", 27), strings.Repeat("x", 27) + "\x00", strings.Repeat("x", 28), "\x00" + strings.Repeat("x", 27)} {
		for code := range 0x10000 {
			end := string([]byte{byte(code >> 8), byte(code)})
			b := "TAG" + nought(94) + (c + nought(28))[:28] + end + "\x01"
			want, _, _ := strings.Cut((c + nought(28))[:28]+end, "\x00")
			x := tail.Tail{Names: tail.Names{Comment: want}, Genre: 1}
			if end[0] == 0 {
				x.Track = end[1]
			}
			parses(t, b, x)
			if x != told(b) {
				t.Fatalf("%q isn't told of %q", x, b)
			}
		}
	}
}

// P12.1: each byte of a tail by itself, whatever it is, between noughts and between others.
func TestParseEachByte(t *testing.T) {
	for _, ground := range []string{nought(125), strings.Repeat("a", 125), strings.Repeat("TAG\x00b", 25)} {
		for at := 3; at < tail.Size; at++ {
			for x := range 256 {
				b := []byte("TAG" + ground)
				b[at] = byte(x)
				parses(t, string(b), told(string(b)))
			}
		}
	}
}

// P12.1: bytes of another size, and such as don't begin with TAG.
func TestParseNone(t *testing.T) {
	whole := bytesOf(full(7))
	for n := range tail.Size {
		isNone(t, whole[:n])
		isNone(t, whole[n+1:])
	}
	isNone(t, whole+"\x00")
	isNone(t, "\x00"+whole)
	isNone(t, whole+whole)
	isNone(t, nought(tail.Size))
	for at := range 3 {
		for x := range 256 {
			b := []byte(whole)
			b[at] = byte(x)
			if string(b) != whole {
				isNone(t, string(b))
			}
		}
	}
	isNone(t, "tag"+whole[3:])
	isNone(t, "ID3"+whole[3:])
}

// splits holds what a file is split into.
func splits(t *testing.T, file, rest, end string) {
	t.Helper()
	if r, e := tail.Split(file); r != rest || e != end {
		t.Errorf("Split(%q) = %q, %q", file, r, e)
	}
}

// P12.1: files with a tail, without one, with two, and too short ones.
func TestSplit(t *testing.T) {
	for _, end := range []string{bytesOf(full(0)), bytesOf(tail.Tail{}), "TAG" + strings.Repeat("\x00z", 62) + "z"} {
		for _, rest := range []string{"", "s", "sound", "TAG", nought(tail.Size), "TAG" + nought(125), strings.Repeat("TAG", 99)} {
			splits(t, rest+end, rest, end)
		}
		splits(t, end+end+end, end+end, end)
		splits(t, end+"z", end+"z", "")
		splits(t, "z"+end+nought(1), "z"+end+nought(1), "")
		for n := range tail.Size {
			splits(t, end[:n], end[:n], "")
			splits(t, end[n+1:], end[n+1:], "")
		}
		for at := range 3 {
			for x := range 256 {
				b := []byte("sound" + end)
				if b[5+at] != byte(x) {
					b[5+at] = byte(x)
					splits(t, string(b), string(b), "")
				}
			}
		}
	}
	splits(t, "", "", "")
	splits(t, strings.Repeat("a", 1000), strings.Repeat("a", 1000), "")
}

// P12.1, P12.2: tails that may be, of no texts, short ones, and such as have all the bytes that there are.
func TestPrint(t *testing.T) {
	prints(t, tail.Tail{})
	prints(t, full(0))
	prints(t, full(1))
	prints(t, full(255))
	prints(t, tail.Tail{Names: tail.Names{Title: "a", Year: "1999"}, Track: 5, Genre: 17})
	for i, span := range spans {
		for n := 0; n <= span[1]-span[0]; n++ {
			for _, ground := range []tail.Tail{{}, {Genre: 200}, full(0), {Track: 1}, full(32)} {
				s := strings.Repeat("\xe9", n)
				if ground.Track != 0 && i == 4 && n > 28 {
					continue
				}
				*texts(&ground)[i] = s
				prints(t, ground)
			}
		}
	}
	for code := range 0x10000 {
		prints(t, tail.Tail{Names: tail.Names{Title: "a"}, Track: byte(code >> 8), Genre: byte(code)})
	}
	for x := 1; x < 256; x++ {
		s := string([]byte{byte(x)})
		prints(t, tail.Tail{Names: tail.Names{Title: s, Artist: s + s, Album: s, Year: s, Comment: s}, Track: byte(x)})
		prints(t, tail.Tail{Names: tail.Names{Comment: strings.Repeat(s, 30)}})
		prints(t, tail.Tail{Names: tail.Names{Comment: strings.Repeat(s, 29)}})
	}
}

// P12.1: a text with a byte 0, anywhere in it, alone and in one that is too large as well.
func TestNoughtInText(t *testing.T) {
	for i, span := range spans {
		for _, ground := range []tail.Tail{{}, full(0), full(9)} {
			room := span[1] - span[0]
			for n := 1; n <= room+3; n++ {
				for at := range n {
					x := ground
					*texts(&x)[i] = strings.Repeat("a", at) + "\x00" + strings.Repeat("a", n-at-1)
					refuses(t, x, api.ErrArg, i)
				}
			}
			x := ground
			*texts(&x)[i] = strings.Repeat("a", 10_000) + "\x00"
			refuses(t, x, api.ErrArg, i)
		}
	}
}

// P12.1: a text of one byte more than there are, and of many more.
func TestTooLarge(t *testing.T) {
	for i, span := range spans {
		for track := range 256 {
			x := full(byte(track))
			room := span[1] - span[0]
			if i == 4 && track != 0 {
				room -= 2
			}
			for _, more := range []int{1, 2, 3, 100, 10_000} {
				*texts(&x)[i] = strings.Repeat("a", room+more)
				refuses(t, x, api.ErrTooLarge, i)
			}
			*texts(&x)[i] = strings.Repeat("a", room)
			prints(t, x)
		}
	}
}

// P12.1: of several wrong texts the first one's fault, whichever it is.
func TestFirstFault(t *testing.T) {
	faults := [3]api.Errno{api.OK, api.ErrArg, api.ErrTooLarge}
	wrong := [3]string{"ok", "\x00", strings.Repeat("a", 31)}
	for code := range 3 * 3 * 3 * 3 * 3 {
		for _, track := range []byte{0, 3} {
			x, first, n := tail.Tail{Track: track}, -1, code
			var e api.Errno
			for i, s := range texts(&x) {
				*s = wrong[n%3]
				if first < 0 && n%3 > 0 {
					first, e = i, faults[n%3]
				}
				n /= 3
			}
			if first < 0 {
				prints(t, x)
			} else {
				refuses(t, x, e, first)
			}
		}
	}
}

// P12.1, P12.2: a tail's bytes are split from what stands ahead of them and read as the tail that they were.
func TestSplitAndParse(t *testing.T) {
	for _, x := range []tail.Tail{{}, full(0), full(200), {Names: tail.Names{Comment: "c"}, Track: 10, Genre: 12}} {
		s, _ := x.Print()
		rest, end := tail.Split("sound" + s)
		if y, ok := tail.Parse(end); rest != "sound" || y != x || !ok {
			t.Errorf("of sound and %q: %q, %q, %v", x, rest, y, ok)
		}
	}
	if tail.Size != 128 {
		t.Error(tail.Size)
	}
}
