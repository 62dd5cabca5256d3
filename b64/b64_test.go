package b64

import (
	"bytes"
	"math/rand"
	"strconv"
	"strings"
	"testing"

	"wayleave/api"
)

// signOf is RFC 4648's table, worked out without asking the package.
func signOf(v int) byte {
	switch {
	case v < 26:
		return byte('A' + v)
	case v < 52:
		return byte('a' + v - 26)
	case v < 62:
		return byte('0' + v - 52)
	case v == 62:
		return '+'
	}
	return '/'
}

// signs has the six bits of each sign; what is not in it is none.
func signs() map[byte]int {
	m := make(map[byte]int)
	for v := range 64 {
		m[signOf(v)] = v
	}
	return m
}

// plain writes the bits out as a text of 0 and 1, and reads them by sixes.
func plain(b []byte) string {
	var digits strings.Builder
	for _, c := range b {
		digits.WriteString(strconv.FormatInt(int64(c)+256, 2)[1:])
	}
	rest := digits.String()
	var out strings.Builder
	for len(rest) > 0 {
		six := (rest + "00000")[:6]
		v, _ := strconv.ParseInt(six, 2, 0)
		out.WriteByte(signOf(int(v)))
		rest = rest[min(6, len(rest)):]
	}
	return out.String() + [3]string{"", "==", "="}[len(b)%3]
}

// refused: ErrForm, and nothing beside it.
func refused(t *testing.T, s string) {
	t.Helper()
	if b, e := Decode(s); len(b) != 0 || e != api.ErrForm {
		t.Errorf("P2.1: Decode(%q): %q, %d, not ErrForm", s, b, e)
	}
}

// both: the text is Encode of the bytes, and the bytes are Decode of the text.
func both(t *testing.T, b []byte, s string) {
	t.Helper()
	if got := Encode(b); got != s {
		t.Errorf("P2.1: Encode(%q): %q, not %q", b, got, s)
	}
	if got, e := Decode(s); !bytes.Equal(got, b) || e != api.OK {
		t.Errorf("P2.1: Decode(%q): %q, %d, not %q", s, got, e, b)
	}
}

func TestKnownTexts(t *testing.T) {
	for _, c := range [][2]string{
		{"a:b", "YTpi"},
		{"f", "Zg=="}, {"fo", "Zm8="}, {"foo", "Zm9v"},
		{"foob", "Zm9vYg=="}, {"fooba", "Zm9vYmE="}, {"foobar", "Zm9vYmFy"},
		{"\x00", "AA=="}, {"\x00\x00", "AAA="}, {"\x00\x00\x00", "AAAA"}, {"\x00\x00\x00\x00", "AAAAAA=="},
		{"\xff", "/w=="}, {"\xff\xff", "//8="}, {"\xff\xff\xff", "////"},
		{"\xfb\xef\xbe", "++++"}, {"\x14\xfb\x9c\x03\xd9\x7e", "FPucA9l+"},
		{"Aladdin:open sesame", "QWxhZGRpbjpvcGVuIHNlc2FtZQ=="},
	} {
		both(t, []byte(c[0]), c[1])
	}
}

func TestNoBytesAtAll(t *testing.T) {
	both(t, nil, "")
	both(t, []byte{}, "")
	both(t, []byte("abc")[:0], "")
}

func TestEachSignInEachPlace(t *testing.T) {
	whole := ""
	var all []byte
	for v := range 64 {
		sign := string(signOf(v))
		both(t, []byte{byte(v << 2), 0, 0}, sign+"AAA")
		both(t, []byte{byte(v >> 4), byte(v << 4), 0}, "A"+sign+"AA")
		both(t, []byte{0, byte(v >> 2), byte(v << 6)}, "AA"+sign+"A")
		both(t, []byte{0, 0, byte(v)}, "AAA"+sign)
		whole += strings.Repeat(sign, 4)
		all = append(all, byte(v<<2|v>>4), byte(v<<4|v>>2), byte(v<<6|v))
	}
	both(t, all, whole)
}

// TestEachOneAndTwoBytes has each last group that is filled up, alone and
// behind a whole one.
func TestEachOneAndTwoBytes(t *testing.T) {
	for x := range 256 {
		one := []byte{byte(x)}
		both(t, one, plain(one))
		both(t, append([]byte("foo"), one...), "Zm9v"+plain(one))
		for y := range 256 {
			two := []byte{byte(x), byte(y)}
			both(t, two, plain(two))
		}
	}
	both(t, []byte("foo\x80\x01"), "Zm9v"+plain([]byte("\x80\x01")))
}

func TestEachLength(t *testing.T) {
	r := rand.New(rand.NewSource(2))
	for n := range 300 {
		b := make([]byte, n)
		r.Read(b)
		both(t, b, plain(b))
	}
}

func TestLong(t *testing.T) {
	for n := 3 << 20; n < 3<<20+3; n++ {
		b := make([]byte, n)
		rand.New(rand.NewSource(int64(n))).Read(b)
		s := Encode(b)
		back, e := Decode(s)
		if len(s) != (n+2)/3*4 || e != api.OK || !bytes.Equal(back, b) {
			t.Errorf("P2.1: %d bytes: a text of %d; back %d bytes, %d", n, len(s), len(back), e)
		}
	}
}

func TestWrongLengths(t *testing.T) {
	for n := range 64 {
		if n%4 != 0 {
			refused(t, strings.Repeat("A", n))
			refused(t, strings.Repeat("A", n-1)+"=")
		}
	}
	for _, s := range []string{"=", "==", "===", "Zg", "Zg=", "Zg===", "Zm8", "Zm8==", "Zm9", "Zm9v=", "Zm9v==", "Zm9v===", "Zm9vYg", "Zm9vYg=", "Zm9vYmE"} {
		refused(t, s)
	}
}

func TestBytesThatAreNoSigns(t *testing.T) {
	known := signs()
	for c := range 256 {
		if _, ok := known[byte(c)]; ok || c == '=' {
			continue
		}
		for _, s := range []string{"AAAA", "AAAAAAAA", "AA==", "AAA=", "AAAAAA==", "AAAAAAA="} {
			for i := range len(s) {
				refused(t, s[:i]+string([]byte{byte(c)})+s[i+1:])
			}
		}
	}
	for _, s := range []string{" Zm9v", "Zm9v ", "Zm9v\n", "Zm9v\r\n", "Zm9v\r\nYmFy", "Zm9\n", "Zm9v\n\n\n\n", "    ", "Zm9-", "Zm9_", "Zmé=", "é é", "Zm9v\x00\x00\x00\x00"} {
		refused(t, s)
	}
}

// TestEachPlaceOfPads: of all the ways to put pads into texts of four, eight
// and twelve, those with none, one or two at the end alone are right.
func TestEachPlaceOfPads(t *testing.T) {
	for _, n := range []int{4, 8, 12} {
		for mask := range 1 << n {
			s := []byte(strings.Repeat("A", n))
			for i := range n {
				if mask>>i&1 == 1 {
					s[n-1-i] = '='
				}
			}
			switch mask {
			case 0:
				both(t, make([]byte, n/4*3), string(s))
			case 1:
				both(t, make([]byte, n/4*3-1), string(s))
			case 3:
				both(t, make([]byte, n/4*3-2), string(s))
			default:
				refused(t, string(s))
			}
		}
	}
	for _, s := range []string{"Z===", "Zm=8", "=Zm9", "Zm9v====", "Zg==Zg==", "Zm8=Zm8=", "Zg==Zm9v", "Z=g="} {
		refused(t, s)
	}
}

// TestEachRest: with two pads the last four bits are zeros, with one pad the
// last two; all else would be a second text of the same bytes.
func TestEachRest(t *testing.T) {
	for v := range 64 {
		for w := range 64 {
			two := string([]byte{signOf(v), signOf(w), '=', '='})
			three := string([]byte{'Z', signOf(v), signOf(w), '='})
			if w%16 == 0 {
				both(t, []byte{byte(v<<2 | w>>4)}, two)
			} else {
				refused(t, two)
				refused(t, "Zm9v"+two)
			}
			if w%4 == 0 {
				both(t, []byte{byte(25<<2 | v>>4), byte(v<<4 | w>>2)}, three)
			} else {
				refused(t, three)
				refused(t, "Zm9v"+three)
			}
		}
	}
}

// TestOneTextAlone: a text that is changed somewhere is refused, or is Encode
// of other bytes.
func TestOneTextAlone(t *testing.T) {
	r := rand.New(rand.NewSource(23))
	taken := 0
	for range 20000 {
		b := make([]byte, 1+r.Intn(20))
		r.Read(b)
		was := Encode(b)
		s := []byte(was)
		s[r.Intn(len(s))] = "ABQgwz059+/=-_ \n\x00\xff"[r.Intn(17)]
		got, e := Decode(string(s))
		switch {
		case e == api.ErrForm && len(got) == 0:
		case e == api.OK && Encode(got) == string(s) && bytes.Equal(got, b) == (string(s) == was):
			taken++
		default:
			t.Fatalf("P2.3: %q, changed to %q: %q, %d", was, s, got, e)
		}
	}
	if taken == 0 {
		t.Fatal("P2.3: every changed text was refused")
	}
}

func TestWhatIsHandedIn(t *testing.T) {
	for n := range 10 {
		room := []byte("wayleave, and what lies behind")
		was := bytes.Clone(room)
		s := Encode(room[:n])
		if !bytes.Equal(room, was) {
			t.Errorf("P2.2: Encode of %d bytes changed its memory: %q", n, room)
		}
		if s != plain(was[:n]) {
			t.Errorf("P2.2: Encode of %d bytes read on: %q", n, s)
		}
		for i := range room {
			room[i] = 'X'
		}
		if s != plain(was[:n]) {
			t.Errorf("P2.2: the text of %d bytes hangs on what was handed in: %q", n, s)
		}
	}
}

// TestWhatIsAnswered writes into an answer, and into its spare room; nothing
// else may show it.
func TestWhatIsAnswered(t *testing.T) {
	for n := range 10 {
		was := []byte("wayleave, both ways")[:n]
		s := Encode(was)
		first, _ := Decode(s)
		second, _ := Decode(s)
		spoil(first)
		third, e := Decode(s)
		if e != api.OK || !bytes.Equal(second, was) || !bytes.Equal(third, was) || s != plain(was) {
			t.Errorf("P2.2: answers of %d bytes share memory: %q, %q, %q", n, second, third, s)
		}
		if room := second[:cap(second)]; bytes.ContainsRune(room[len(second):], 'X') {
			t.Errorf("P2.2: answers of %d bytes share their spare room: %q", n, room)
		}
	}
}

func spoil(b []byte) {
	b = b[:cap(b)]
	for i := range b {
		b[i] = 'X'
	}
}
