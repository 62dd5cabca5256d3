package huff

import (
	"bytes"
	"encoding/hex"
	"fmt"
	"math"
	"math/rand"
	"strings"
	"testing"

	"wayleave/api"
)

// appendixB is RFC 7541's table, written out: the code of each byte, and how
// many bits it has.
var appendixB = [256]struct {
	code uint32
	bits int
}{
	{0x1ff8, 13}, {0x7fffd8, 23}, {0xfffffe2, 28}, {0xfffffe3, 28}, {0xfffffe4, 28}, {0xfffffe5, 28}, {0xfffffe6, 28}, {0xfffffe7, 28},
	{0xfffffe8, 28}, {0xffffea, 24}, {0x3ffffffc, 30}, {0xfffffe9, 28}, {0xfffffea, 28}, {0x3ffffffd, 30}, {0xfffffeb, 28}, {0xfffffec, 28},
	{0xfffffed, 28}, {0xfffffee, 28}, {0xfffffef, 28}, {0xffffff0, 28}, {0xffffff1, 28}, {0xffffff2, 28}, {0x3ffffffe, 30}, {0xffffff3, 28},
	{0xffffff4, 28}, {0xffffff5, 28}, {0xffffff6, 28}, {0xffffff7, 28}, {0xffffff8, 28}, {0xffffff9, 28}, {0xffffffa, 28}, {0xffffffb, 28},
	{0x14, 6}, {0x3f8, 10}, {0x3f9, 10}, {0xffa, 12}, {0x1ff9, 13}, {0x15, 6}, {0xf8, 8}, {0x7fa, 11},
	{0x3fa, 10}, {0x3fb, 10}, {0xf9, 8}, {0x7fb, 11}, {0xfa, 8}, {0x16, 6}, {0x17, 6}, {0x18, 6},
	{0x0, 5}, {0x1, 5}, {0x2, 5}, {0x19, 6}, {0x1a, 6}, {0x1b, 6}, {0x1c, 6}, {0x1d, 6},
	{0x1e, 6}, {0x1f, 6}, {0x5c, 7}, {0xfb, 8}, {0x7ffc, 15}, {0x20, 6}, {0xffb, 12}, {0x3fc, 10},
	{0x1ffa, 13}, {0x21, 6}, {0x5d, 7}, {0x5e, 7}, {0x5f, 7}, {0x60, 7}, {0x61, 7}, {0x62, 7},
	{0x63, 7}, {0x64, 7}, {0x65, 7}, {0x66, 7}, {0x67, 7}, {0x68, 7}, {0x69, 7}, {0x6a, 7},
	{0x6b, 7}, {0x6c, 7}, {0x6d, 7}, {0x6e, 7}, {0x6f, 7}, {0x70, 7}, {0x71, 7}, {0x72, 7},
	{0xfc, 8}, {0x73, 7}, {0xfd, 8}, {0x1ffb, 13}, {0x7fff0, 19}, {0x1ffc, 13}, {0x3ffc, 14}, {0x22, 6},
	{0x7ffd, 15}, {0x3, 5}, {0x23, 6}, {0x4, 5}, {0x24, 6}, {0x5, 5}, {0x25, 6}, {0x26, 6},
	{0x27, 6}, {0x6, 5}, {0x74, 7}, {0x75, 7}, {0x28, 6}, {0x29, 6}, {0x2a, 6}, {0x7, 5},
	{0x2b, 6}, {0x76, 7}, {0x2c, 6}, {0x8, 5}, {0x9, 5}, {0x2d, 6}, {0x77, 7}, {0x78, 7},
	{0x79, 7}, {0x7a, 7}, {0x7b, 7}, {0x7ffe, 15}, {0x7fc, 11}, {0x3ffd, 14}, {0x1ffd, 13}, {0xffffffc, 28},
	{0xfffe6, 20}, {0x3fffd2, 22}, {0xfffe7, 20}, {0xfffe8, 20}, {0x3fffd3, 22}, {0x3fffd4, 22}, {0x3fffd5, 22}, {0x7fffd9, 23},
	{0x3fffd6, 22}, {0x7fffda, 23}, {0x7fffdb, 23}, {0x7fffdc, 23}, {0x7fffdd, 23}, {0x7fffde, 23}, {0xffffeb, 24}, {0x7fffdf, 23},
	{0xffffec, 24}, {0xffffed, 24}, {0x3fffd7, 22}, {0x7fffe0, 23}, {0xffffee, 24}, {0x7fffe1, 23}, {0x7fffe2, 23}, {0x7fffe3, 23},
	{0x7fffe4, 23}, {0x1fffdc, 21}, {0x3fffd8, 22}, {0x7fffe5, 23}, {0x3fffd9, 22}, {0x7fffe6, 23}, {0x7fffe7, 23}, {0xffffef, 24},
	{0x3fffda, 22}, {0x1fffdd, 21}, {0xfffe9, 20}, {0x3fffdb, 22}, {0x3fffdc, 22}, {0x7fffe8, 23}, {0x7fffe9, 23}, {0x1fffde, 21},
	{0x7fffea, 23}, {0x3fffdd, 22}, {0x3fffde, 22}, {0xfffff0, 24}, {0x1fffdf, 21}, {0x3fffdf, 22}, {0x7fffeb, 23}, {0x7fffec, 23},
	{0x1fffe0, 21}, {0x1fffe1, 21}, {0x3fffe0, 22}, {0x1fffe2, 21}, {0x7fffed, 23}, {0x3fffe1, 22}, {0x7fffee, 23}, {0x7fffef, 23},
	{0xfffea, 20}, {0x3fffe2, 22}, {0x3fffe3, 22}, {0x3fffe4, 22}, {0x7ffff0, 23}, {0x3fffe5, 22}, {0x3fffe6, 22}, {0x7ffff1, 23},
	{0x3ffffe0, 26}, {0x3ffffe1, 26}, {0xfffeb, 20}, {0x7fff1, 19}, {0x3fffe7, 22}, {0x7ffff2, 23}, {0x3fffe8, 22}, {0x1ffffec, 25},
	{0x3ffffe2, 26}, {0x3ffffe3, 26}, {0x3ffffe4, 26}, {0x7ffffde, 27}, {0x7ffffdf, 27}, {0x3ffffe5, 26}, {0xfffff1, 24}, {0x1ffffed, 25},
	{0x7fff2, 19}, {0x1fffe3, 21}, {0x3ffffe6, 26}, {0x7ffffe0, 27}, {0x7ffffe1, 27}, {0x3ffffe7, 26}, {0x7ffffe2, 27}, {0xfffff2, 24},
	{0x1fffe4, 21}, {0x1fffe5, 21}, {0x3ffffe8, 26}, {0x3ffffe9, 26}, {0xffffffd, 28}, {0x7ffffe3, 27}, {0x7ffffe4, 27}, {0x7ffffe5, 27},
	{0xfffec, 20}, {0xfffff3, 24}, {0xfffed, 20}, {0x1fffe6, 21}, {0x3fffe9, 22}, {0x1fffe7, 21}, {0x1fffe8, 21}, {0x7ffff3, 23},
	{0x3fffea, 22}, {0x3fffeb, 22}, {0x1ffffee, 25}, {0x1ffffef, 25}, {0xfffff4, 24}, {0xfffff5, 24}, {0x3ffffea, 26}, {0x7ffff4, 23},
	{0x3ffffeb, 26}, {0x7ffffe6, 27}, {0x3ffffec, 26}, {0x3ffffed, 26}, {0x7ffffe7, 27}, {0x7ffffe8, 27}, {0x7ffffe9, 27}, {0x7ffffea, 27},
	{0x7ffffeb, 27}, {0xffffffe, 28}, {0x7ffffec, 27}, {0x7ffffed, 27}, {0x7ffffee, 27}, {0x7ffffef, 27}, {0x7fffff0, 27}, {0x3ffffee, 26},
}

var endCode = strings.Repeat("1", 30)

// enough is more than any text here has.
const enough = 1 << 30

// digits is a code as a text of 0 and 1.
func digits(b byte) string {
	return fmt.Sprintf("%0*b", appendixB[b].bits, appendixB[b].code)
}

// plain is the codes of b as a text of 0 and 1, without a padding.
func plain(b []byte) string {
	var s strings.Builder
	for _, c := range b {
		s.WriteString(digits(c))
	}
	return s.String()
}

// packed makes bytes of a text of 0 and 1, filled up with the digit given.
func packed(s, fill string) []byte {
	for len(s)%8 != 0 {
		s += fill
	}
	b := make([]byte, len(s)/8)
	for i := range s {
		b[i/8] = b[i/8]<<1 | s[i]&1
	}
	return b
}

// byteOf has the byte of each code.
func byteOf() map[string]byte {
	m := make(map[string]byte)
	for c := range 256 {
		m[digits(byte(c))] = byte(c)
	}
	return m
}

// plainDecode is Decode as the document's words have it, on a text of 0 and 1.
func plainDecode(known map[string]byte, x []byte, most int) ([]byte, api.Errno) {
	var s strings.Builder
	for _, c := range x {
		fmt.Fprintf(&s, "%08b", c)
	}
	var out []byte
	rest := s.String()
	for end := 0; end <= len(rest); end++ {
		if rest[:end] == endCode {
			return nil, api.ErrForm
		}
		if c, ok := known[rest[:end]]; ok {
			if len(out)+1 > most {
				return nil, api.ErrLong
			}
			out, rest, end = append(out, c), rest[end:], 0
		}
	}
	if len(rest) > 7 || strings.Contains(rest, "0") {
		return nil, api.ErrForm
	}
	return out, api.OK
}

// read: Decode answers these bytes.
func read(t *testing.T, x []byte, most int, want []byte) {
	t.Helper()
	if b, e := Decode(x, most); !bytes.Equal(b, want) || e != api.OK {
		t.Errorf("P4.2: Decode(%x, %d): %q, %d, not %q", x, most, b, e, want)
	}
}

// refused: Decode answers this error, and nothing beside it.
func refused(t *testing.T, x []byte, most int, want api.Errno) {
	t.Helper()
	if b, e := Decode(x, most); len(b) != 0 || e != want {
		t.Errorf("P4.2: Decode(%x, %d): %q, %d, not %d", x, most, b, e, want)
	}
}

// both: x is Encode of b, and b is Decode of x.
func both(t *testing.T, b, x []byte) {
	t.Helper()
	if got := Encode(b); !bytes.Equal(got, x) {
		t.Errorf("P4.1: Encode(%q): %x, not %x", b, got, x)
	}
	read(t, x, len(b), b)
}

func unhex(t *testing.T, s string) []byte {
	t.Helper()
	b, e := hex.DecodeString(s)
	if e != nil {
		t.Fatal(e)
	}
	return b
}

func TestCodeOfEachByte(t *testing.T) {
	for c, want := range appendixB {
		if code, n := Code(byte(c)); code != want.code || n != want.bits {
			t.Errorf("P4.1: Code(%d): %x, %d, not %x, %d", c, code, n, want.code, want.bits)
		}
	}
}

// TestTableLeavesNoRoom: the codes and the end's fill all of 30 bits, and none
// begins another one; most slips in the table above would show.
func TestTableLeavesNoRoom(t *testing.T) {
	all := []string{endCode}
	for c := range 256 {
		all = append(all, digits(byte(c)))
	}
	filled := 0
	for i, s := range all {
		filled += 1 << (30 - len(s))
		for j, other := range all {
			if i != j && strings.HasPrefix(other, s) {
				t.Errorf("P4.1: %s begins %s", s, other)
			}
		}
	}
	if filled != 1<<30 {
		t.Errorf("P4.1: the codes fill %x", filled)
	}
}

func TestNoBytesAtAll(t *testing.T) {
	for _, none := range [][]byte{nil, {}, []byte("abc")[:0]} {
		if n := Bits(none); n != 0 {
			t.Errorf("P4.1: Bits of nothing: %d", n)
		}
		both(t, none, nil)
		for _, most := range []int{math.MinInt, -5, -1, 0, 1, math.MaxInt} {
			read(t, none, most, nil)
		}
	}
}

func TestEachByteAlone(t *testing.T) {
	for c := range 256 {
		b := []byte{byte(c)}
		if n := Bits(b); n != appendixB[c].bits {
			t.Errorf("P4.1: Bits of %d: %d, not %d", c, n, appendixB[c].bits)
		}
		both(t, b, packed(digits(byte(c)), "1"))
	}
}

func TestEachTwoBytes(t *testing.T) {
	for c := range 256 {
		for d := range 256 {
			b := []byte{byte(c), byte(d)}
			if n := Bits(b); n != appendixB[c].bits+appendixB[d].bits {
				t.Errorf("P4.1: Bits of %v: %d", b, n)
			}
			both(t, b, packed(plain(b), "1"))
		}
	}
}

// TestEachByteAtEachPlace has each code begin at each bit of a byte.
func TestEachByteAtEachPlace(t *testing.T) {
	for n := range 8 {
		for c := range 256 {
			b := []byte(strings.Repeat("0", n) + string([]byte{byte(c)}) + "0")
			both(t, b, packed(plain(b), "1"))
		}
	}
}

func TestKnownTexts(t *testing.T) {
	for _, c := range [][2]string{
		{"a", "1f"},
		// RFC 7541's appendix C.4.
		{"www.example.com", "f1e3c2e5f23a6ba0ab90f4ff"},
		{"no-cache", "a8eb10649cbf"},
		{"custom-key", "25a849e95ba97d7f"},
		{"custom-value", "25a849e95bb8e8b4bf"},
		// Its appendix C.6.
		{"302", "6402"},
		{"private", "aec3771a4b"},
		{"Mon, 21 Oct 2013 20:13:21 GMT", "d07abe941054d444a8200595040b8166e082a62d1bff"},
		{"https://www.example.com", "9d29ad171863c78f0b97c8e9ae82ae43d3"},
		{"307", "640eff"},
		{"Mon, 21 Oct 2013 20:13:22 GMT", "d07abe941054d444a8200595040b8166e084a62d1bff"},
		{"gzip", "9bd9ab"},
		{"foo=ASDJKHQKBZXOQWEOPIUAXQWEOIU; max-age=3600; version=1", "94e7821dd7f2e6c7b335dfdfcd5b3960d5af27087f3672c1ab270fb5291f9587316065c003ed4ee5b1063d5007"},
	} {
		both(t, []byte(c[0]), unhex(t, c[1]))
	}
}

// TestEachPadding has texts whose codes end at a whole byte, and texts that
// need one to seven ones behind.
func TestEachPadding(t *testing.T) {
	for _, c := range []struct {
		text    string
		bits    int
		pad     int
		encoded string
	}{
		{"00000000", 40, 0, "0000000000"},
		{"&", 8, 0, "f8"},
		{"000", 15, 1, "0001"},
		{":", 7, 1, "b9"},
		{"000000", 30, 2, "00000003"},
		{" ", 6, 2, "53"},
		{"0", 5, 3, "07"},
		{"0000", 20, 4, "00000f"},
		{"0000000", 35, 5, "000000001f"},
		{"00", 10, 6, "003f"},
		{"00000", 25, 7, "0000007f"},
	} {
		b := []byte(c.text)
		if n := Bits(b); n != c.bits || n+c.pad != 4*len(c.encoded) {
			t.Errorf("P4.1: Bits(%q): %d, not %d", b, n, c.bits)
		}
		both(t, b, unhex(t, c.encoded))
	}
}

func TestEachLength(t *testing.T) {
	r := rand.New(rand.NewSource(4))
	for n := range 300 {
		b := make([]byte, n)
		r.Read(b)
		if got := Bits(b); got != len(plain(b)) {
			t.Errorf("P4.1: Bits(%x): %d, not %d", b, got, len(plain(b)))
		}
		both(t, b, packed(plain(b), "1"))
	}
}

func TestLong(t *testing.T) {
	b := make([]byte, 1<<20+1)
	rand.New(rand.NewSource(41)).Read(b)
	x := Encode(b)
	back, e := Decode(x, len(b))
	if e != api.OK || !bytes.Equal(back, b) || len(x) != (Bits(b)+7)/8 {
		t.Errorf("P4.4: of %d bytes %d came back, with %d", len(b), len(back), e)
	}
	if back, e := Decode(x, len(b)-1); e != api.ErrLong || len(back) != 0 {
		t.Errorf("P4.2: of %d bytes, one too many: %d came back, with %d", len(b), len(back), e)
	}
}

// TestNoughtInPadding has paddings of one to seven bits with a nought in them:
// those of five and more that begin with a code are others than these.
func TestNoughtInPadding(t *testing.T) {
	for _, c := range []struct{ text, pad string }{
		{"000", "0"}, {":", "0"},
		{"000000", "00"}, {"000000", "01"}, {" ", "10"},
		{"0", "000"}, {"0", "011"}, {"0", "101"}, {"a", "110"}, {"a", "001"},
		{"0000", "0000"}, {"0000", "0111"}, {"0000", "1011"}, {"0000", "1101"}, {"0000", "1110"},
		{"0000000", "01010"}, {"0000000", "01111"}, {"0000000", "11110"},
		{"00", "101110"}, {"00", "110111"}, {"00", "111110"},
		{"00000", "1111100"}, {"00000", "1111101"}, {"00000", "1111110"},
	} {
		whole := plain([]byte(c.text))
		x := packed(whole+c.pad, "")
		if len(whole+c.pad) != 8*len(x) {
			t.Fatalf("%q and %s are no whole bytes", c.text, c.pad)
		}
		for _, most := range []int{len(c.text), enough} {
			refused(t, x, most, api.ErrForm)
			read(t, packed(whole, "1"), most, []byte(c.text))
		}
	}
}

// TestPaddingTooLong has paddings of eight to 29 ones, behind nothing and
// behind texts that end at each bit of a byte.
func TestPaddingTooLong(t *testing.T) {
	for n := range 9 {
		whole := plain(bytes.Repeat([]byte("0"), n))
		for ones := 8; ones < 30; ones++ {
			s := whole + strings.Repeat("1", ones)
			if len(s)%8 != 0 {
				continue
			}
			for _, most := range []int{n, n + 1, enough} {
				refused(t, packed(s, ""), most, api.ErrForm)
			}
		}
	}
	for _, s := range []string{"ff", "ffff", "ffffff", "1fff", "07ff", "0001ff", "6402ff", "9bd9abff"} {
		refused(t, unhex(t, s), enough, api.ErrForm)
	}
}

func TestCodeOfTheEnd(t *testing.T) {
	for _, fill := range []string{"0", "1"} {
		for n := range 9 {
			ahead := plain(bytes.Repeat([]byte("0"), n))
			for _, behind := range []string{"", "0", "01", plain([]byte("a")), plain([]byte("wayleave\n")), endCode} {
				x := packed(ahead+endCode+behind, fill)
				for _, most := range []int{n, n + 1, enough} {
					refused(t, x, most, api.ErrForm)
				}
			}
		}
	}
	for _, s := range []string{"ffffffff", "fffffffc", "fffffffd", "fffffffe", "fffffffc07", "ffffffffff", "1ffffffff8", "1fffffffff"} {
		refused(t, unhex(t, s), enough, api.ErrForm)
	}
}

// TestNearTheEnd: the codes of 30 bits that are a byte's differ from the end's
// in the last two bits alone.
func TestNearTheEnd(t *testing.T) {
	read(t, unhex(t, "fffffff3"), 1, []byte("\n"))
	read(t, unhex(t, "fffffff7"), 1, []byte("\r"))
	read(t, unhex(t, "fffffffb"), 1, []byte{22})
	refused(t, unhex(t, "ffffffff"), 1, api.ErrForm)
}

// TestCutInACode has each code that is not whole: all its beginnings that end
// at a whole byte, behind texts that end at each bit of a byte.
func TestCutInACode(t *testing.T) {
	for n := range 9 {
		b := bytes.Repeat([]byte("0"), n)
		for c := range 256 {
			code := digits(byte(c))
			for cut := 1; cut < len(code); cut++ {
				s := plain(b) + code[:cut]
				switch {
				case len(s)%8 != 0:
				case cut < 8 && !strings.Contains(code[:cut], "0"):
					read(t, packed(s, ""), n, b)
				default:
					refused(t, packed(s, ""), n, api.ErrForm)
					refused(t, packed(s, ""), enough, api.ErrForm)
				}
			}
		}
	}
	for _, s := range []string{"fe", "fffe", "fffffe", "ff", "f1e3c2e5f23a6ba0ab90f4", "9d29ad171863c78f0b97c8e9ae82ae43"} {
		refused(t, unhex(t, s), enough, api.ErrForm)
	}
}

func TestMost(t *testing.T) {
	for _, text := range []string{"0", "00", "00000000", "&", "\n", "\n\r", "www.example.com", "\x00\xff\x80 way\nleave"} {
		x := Encode([]byte(text))
		n := len(text)
		for most := -3; most < n; most++ {
			refused(t, x, most, api.ErrLong)
		}
		refused(t, x, math.MinInt, api.ErrLong)
		for _, most := range []int{n, n + 1, 2 * n, 1000, math.MaxInt} {
			read(t, x, most, []byte(text))
		}
	}
}

// TestNothingBehindIsLookedAt: once one more than most is read, no fault
// behind it counts.
func TestNothingBehindIsLookedAt(t *testing.T) {
	for _, behind := range []string{endCode, "00000" + endCode, strings.Repeat("1", 17), "1111111100", "0"} {
		for n := 1; n < 20; n++ {
			x := packed(plain(bytes.Repeat([]byte("0"), n))+behind, "0")
			for most := -2; most < n; most++ {
				refused(t, x, most, api.ErrLong)
			}
		}
	}
	for _, s := range []string{"1e", "18", "00fffffffff0", "0000ffffffffff", "f8ff", "f8fffffffc"} {
		for _, most := range []int{math.MinInt, -1, 0} {
			refused(t, unhex(t, s), most, api.ErrLong)
		}
	}
}

// TestFaultAhead: a fault that stands ahead of the one too many is told, even
// where just as many as most are read.
func TestFaultAhead(t *testing.T) {
	for n := range 20 {
		zeros := bytes.Repeat([]byte("0"), n)
		ended := packed(plain(zeros)+endCode+plain(make([]byte, 50)), "1")
		for most := n; most < n+60; most++ {
			refused(t, ended, most, api.ErrForm)
		}
		left := packed(plain(zeros)+strings.Repeat("1", 8), "1")
		refused(t, left, n, api.ErrForm)
	}
	for _, most := range []int{math.MinInt, -1, 0, 1, math.MaxInt} {
		for _, s := range []string{"ff", "fe", "ffff", "ffffff", "ffffffff", "fffffffc0000", "ffffffffff"} {
			refused(t, unhex(t, s), most, api.ErrForm)
		}
	}
}

// held: Decode answers what the document's words make of it.
func held(t *testing.T, known map[string]byte, x []byte, most int) api.Errno {
	t.Helper()
	want, wantErr := plainDecode(known, x, most)
	got, e := Decode(x, most)
	if !bytes.Equal(got, want) || e != wantErr {
		t.Fatalf("P4.2: Decode(%x, %d): %q, %d, not %q, %d", x, most, got, e, want, wantErr)
	}
	if e == api.OK && !bytes.Equal(Encode(got), x) {
		t.Fatalf("P4.4: %x is not Encode of %q", x, got)
	}
	return e
}

func TestEachOneAndTwoBytesRead(t *testing.T) {
	known := byteOf()
	for a := range 256 {
		for _, most := range []int{-1, 0, 1, 2} {
			held(t, known, []byte{byte(a)}, most)
		}
		for b := range 256 {
			for _, most := range []int{0, 1, 2, 3, 4} {
				held(t, known, []byte{byte(a), byte(b)}, most)
			}
		}
	}
}

// TestAnyBytesRead has bytes at random, and codes that are changed at one bit,
// cut or filled up otherwise; many of the bits are ones, so that long codes
// and the end's come.
func TestAnyBytesRead(t *testing.T) {
	known := byteOf()
	r := rand.New(rand.NewSource(44))
	seen := make(map[api.Errno]int)
	for range 20000 {
		x := make([]byte, 1+r.Intn(12))
		r.Read(x)
		switch r.Intn(3) {
		case 0:
			for i := range x {
				x[i] |= byte(-r.Intn(2))
			}
		case 1:
			x = Encode(x)
			x[r.Intn(len(x))] ^= 1 << r.Intn(8)
		case 2:
			x = Encode(x)
			x = x[:r.Intn(len(x)+1)]
		}
		seen[held(t, known, x, r.Intn(24)-2)]++
		seen[held(t, known, x, enough)]++
	}
	if seen[api.OK] < 100 || seen[api.ErrForm] < 100 || seen[api.ErrLong] < 100 {
		t.Fatalf("P4.2: too few of a kind: %v", seen)
	}
}

func spoil(b []byte) {
	b = b[:cap(b)]
	for i := range b {
		b[i] = 'X'
	}
}

// TestWhatIsHandedIn: behind what is handed in lies more, which is neither
// read nor written; and no answer hangs on it afterwards.
func TestWhatIsHandedIn(t *testing.T) {
	text := []byte("wayleave, \x00\xff\n both ways")
	for n := range len(text) + 1 {
		room := append(bytes.Clone(text), "and what lies behind"...)
		was := bytes.Clone(room)
		encoded, bits := Encode(room[:n]), Bits(room[:n])
		if !bytes.Equal(room, was) {
			t.Errorf("P4.3: Encode or Bits of %d bytes changed its memory: %q", n, room)
		}
		spoil(room)
		want := packed(plain(text[:n]), "1")
		if !bytes.Equal(encoded, want) || bits != len(plain(text[:n])) {
			t.Errorf("P4.3: Encode of %d bytes hangs on what was handed in: %x, %d", n, encoded, bits)
		}
		for _, most := range []int{n - 1, n, enough} {
			room = append(bytes.Clone(want), 0, 0x1f, 0xff, 0xff, 0xff, 0xff)
			was = bytes.Clone(room)
			decoded, e := Decode(room[:len(want)], most)
			if !bytes.Equal(room, was) {
				t.Errorf("P4.3: Decode of %d bytes changed its memory: %x", n, room)
			}
			spoil(room)
			if most >= n && (e != api.OK || !bytes.Equal(decoded, text[:n])) {
				t.Errorf("P4.3: Decode of %d bytes hangs on what was handed in: %q, %d", n, decoded, e)
			}
		}
	}
	room := []byte{0xff, 0xff, 0xff, 0xff}
	if _, e := Decode(room[:3], 1); e != api.ErrForm || !bytes.Equal(room, []byte{0xff, 0xff, 0xff, 0xff}) {
		t.Errorf("P4.3: a wrong text was changed: %x, %d", room, e)
	}
}

// TestWhatIsAnswered writes into an answer, and into its spare room; nothing
// else may show it.
func TestWhatIsAnswered(t *testing.T) {
	calls := map[string]func(b []byte) []byte{
		"Encode": Encode,
		"Decode": func(b []byte) []byte {
			out, _ := Decode(packed(plain(b), "1"), len(b))
			return out
		},
	}
	for name, call := range calls {
		for n := range 40 {
			b := []byte("wayleave, \x00\xff\n both ways, and back as well")[:n]
			given := bytes.Clone(b)
			first, second := call(given), call(given)
			was := bytes.Clone(first)
			if !bytes.Equal(first, second) {
				t.Errorf("P4.3: %s of %q: %x, then %x", name, b, first, second)
			}
			spoil(first)
			if !bytes.Equal(second, was) || !bytes.Equal(call(given), was) || !bytes.Equal(given, b) {
				t.Errorf("P4.3: %s of %q shares its memory", name, b)
			}
			if spare := second[len(second):cap(second)]; bytes.ContainsRune(spare, 'X') {
				t.Errorf("P4.3: %s of %q shares its spare room", name, b)
			}
		}
	}
	for c, want := range appendixB {
		if code, n := Code(byte(c)); code != want.code || n != want.bits {
			t.Errorf("P4.3: Code(%d) is another one now: %x, %d", c, code, n)
		}
	}
}

// TestOrderOfCalls: what is answered does not hang on what was asked before.
func TestOrderOfCalls(t *testing.T) {
	r := rand.New(rand.NewSource(45))
	for range 2000 {
		c := byte(r.Intn(256))
		x := packed(digits(c), "1")
		Decode(x, r.Intn(2))
		Decode(append(x, 0xff, 0xff), 2)
		Encode([]byte{byte(r.Intn(256)), c})
		both(t, []byte{c}, x)
	}
}
