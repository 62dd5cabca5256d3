package pint

import (
	"bytes"
	"encoding/hex"
	"fmt"
	"math"
	"math/big"
	"math/rand"
	"strconv"
	"testing"

	"wayleave/api"
)

// wrongBits are those that no byte has.
var wrongBits = []int{math.MinInt, math.MinInt + 1, -256, -8, -5, -1, 0, 9, 10, 16, 31, 32, 63, 64, 65, 256 + 5, 1 << 32, math.MaxInt - 1, math.MaxInt}

// plainPut is Put as the document's words have it, on a text of 0 and 1.
func plainPut(first byte, bits, n int) []byte {
	ahead := fmt.Sprintf("%08b", first)[:8-bits]
	if n+1 < 1<<bits {
		return []byte{parsed(ahead + fmt.Sprintf("%0*b", bits, n))}
	}
	out := []byte{parsed(ahead + "11111111"[:bits])}
	above := strconv.FormatInt(int64(n)-(1<<bits-1), 2)
	for len(above) > 7 {
		out = append(out, parsed("1"+above[len(above)-7:]))
		above = above[:len(above)-7]
	}
	return append(out, parsed(above))
}

func parsed(digits string) byte {
	n, e := strconv.ParseUint(digits, 2, 8)
	if e != nil {
		panic(e)
	}
	return byte(n)
}

// plainGet is Get as the document's words have it, with numbers of any size:
// the least number that what is there can be is looked at, and the fewest
// bytes that it can have.
func plainGet(b []byte, bits int) (int, int, api.Errno) {
	if bits < 1 || bits > 8 {
		return 0, 0, api.ErrRange
	}
	if len(b) == 0 {
		return 0, 0, api.ErrShort
	}
	ones := 1<<bits - 1
	if n := int(b[0]) % (1 << bits); n != ones {
		return n, 1, api.OK
	}
	n, place := big.NewInt(int64(ones)), big.NewInt(1)
	fewest, ended := 2, false
	for _, c := range b[1:] {
		n.Add(n, new(big.Int).Mul(place, big.NewInt(int64(c%128))))
		place.Mul(place, big.NewInt(128))
		if ended = c < 128; ended {
			break
		}
		fewest++
	}
	if fewest > 6 || n.Cmp(big.NewInt(1<<31-1)) > 0 {
		return 0, 0, api.ErrRange
	}
	if !ended {
		return 0, 0, api.ErrShort
	}
	return int(n.Int64()), fewest, api.OK
}

func unhex(t *testing.T, s string) []byte {
	t.Helper()
	b, e := hex.DecodeString(s)
	if e != nil {
		t.Fatal(e)
	}
	return b
}

// written: Put answers these bytes.
func written(t *testing.T, first byte, bits, n int, want []byte) {
	t.Helper()
	if b, e := Put(first, bits, n); e != api.OK || !bytes.Equal(b, want) {
		t.Errorf("P5.1: Put(%#x, %d, %d): %x, %d, not %x", first, bits, n, b, e, want)
	}
}

// unwritten: Put answers ErrRange, and nothing beside it.
func unwritten(t *testing.T, first byte, bits, n int) {
	t.Helper()
	if b, e := Put(first, bits, n); e != api.ErrRange || len(b) != 0 {
		t.Errorf("P5.1: Put(%#x, %d, %d): %x, %d, not %d", first, bits, n, b, e, api.ErrRange)
	}
}

// read: Get answers this number, and how many bytes it has.
func read(t *testing.T, b []byte, bits, n, size int) {
	t.Helper()
	if m, s, e := Get(b, bits); m != n || s != size || e != api.OK {
		t.Errorf("P5.2: Get(%x, %d): %d, %d, %d, not %d, %d", b, bits, m, s, e, n, size)
	}
}

// refused: Get answers this error, and nothing beside it.
func refused(t *testing.T, b []byte, bits int, want api.Errno) {
	t.Helper()
	if m, s, e := Get(b, bits); m != 0 || s != 0 || e != want {
		t.Errorf("P5.2: Get(%x, %d): %d, %d, %d, not 0, 0, %d", b, bits, m, s, e, want)
	}
}

// both: b is what Put answers, and Get reads it, whatever lies behind it; cut
// it is too short.
func both(t *testing.T, first byte, bits, n int, b []byte) {
	t.Helper()
	written(t, first, bits, n, b)
	for _, behind := range []string{"", "\x00", "\x01", "\x7f", "\x80", "\xff", "\xff\xff\xff\xff\xff\xff\xff"} {
		read(t, append(bytes.Clone(b), behind...), bits, n, len(b))
	}
	for cut := range b {
		refused(t, b[:cut], bits, api.ErrShort)
	}
}

// edges are the numbers around which a byte more is needed, and the ends.
func edges(bits int) []int {
	ones := 1<<bits - 1
	var all []int
	for _, middle := range []int{0, ones, ones + 1<<7, ones + 1<<14, ones + 1<<21, ones + 1<<28, 1 << 7, 1 << 8, 1 << 14, 1 << 16, 1 << 21, 1 << 28, 1 << 30, api.MaxPint} {
		for n := middle - 2; n <= middle+2; n++ {
			if n >= 0 && n <= api.MaxPint {
				all = append(all, n)
			}
		}
	}
	return all
}

func TestKnownNumbers(t *testing.T) {
	for _, c := range []struct {
		first   byte
		bits, n int
		want    string
	}{
		// RFC 7541's appendix C.1.
		{0, 5, 10, "0a"},
		{0, 5, 1337, "1f9a0a"},
		{0, 8, 42, "2a"},
		// Around 2^bits - 1.
		{0, 1, 0, "00"}, {0, 1, 1, "0100"}, {0, 1, 2, "0101"}, {0, 1, 3, "0102"},
		{0, 2, 2, "02"}, {0, 2, 3, "0300"}, {0, 2, 4, "0301"},
		{0, 3, 6, "06"}, {0, 3, 7, "0700"}, {0, 3, 8, "0701"},
		{0, 4, 14, "0e"}, {0, 4, 15, "0f00"}, {0, 4, 16, "0f01"},
		{0, 5, 30, "1e"}, {0, 5, 31, "1f00"}, {0, 5, 32, "1f01"},
		{0, 6, 62, "3e"}, {0, 6, 63, "3f00"}, {0, 6, 64, "3f01"},
		{0, 7, 126, "7e"}, {0, 7, 127, "7f00"}, {0, 7, 128, "7f01"},
		{0, 8, 254, "fe"}, {0, 8, 255, "ff00"}, {0, 8, 256, "ff01"},
		// Where a byte more is needed.
		{0, 1, 128, "017f"}, {0, 1, 129, "018001"},
		{0, 8, 382, "ff7f"}, {0, 8, 383, "ff8001"},
		{0, 5, 31 + 1<<14 - 1, "1fff7f"}, {0, 5, 31 + 1<<14, "1f808001"},
		{0, 5, 31 + 1<<21 - 1, "1fffff7f"}, {0, 5, 31 + 1<<21, "1f80808001"},
		{0, 5, 31 + 1<<28 - 1, "1fffffff7f"}, {0, 5, 31 + 1<<28, "1f8080808001"},
		// The greatest.
		{0, 1, api.MaxPint, "01feffffff07"},
		{0, 5, api.MaxPint, "1fe0ffffff07"},
		{0, 7, api.MaxPint, "7f80ffffff07"},
		{0, 8, api.MaxPint, "ff80feffff07"},
		{0, 8, api.MaxPint - 1, "fffffdffff07"},
		// The other bits are first's, and none of its lowest.
		{0x80, 7, 2, "82"}, {0xff, 7, 2, "82"}, {0x7f, 7, 2, "02"},
		{0x40, 6, 0, "40"}, {0x7f, 6, 0, "40"}, {0x55, 6, 63, "7f00"},
		{0x2f, 5, 31, "3f00"}, {0xaa, 4, 5, "a5"}, {0xaa, 4, 15, "af00"},
		{0xfe, 1, 0, "fe"}, {0xff, 1, 0, "fe"}, {0xff, 1, 1, "ff00"}, {0x01, 1, 0, "00"},
		{0xff, 8, 0, "00"}, {0xff, 8, 42, "2a"}, {0x5a, 8, 255, "ff00"},
	} {
		both(t, c.first, c.bits, c.n, unhex(t, c.want))
	}
}

func TestEachEdgeOfEachBits(t *testing.T) {
	for bits := 1; bits <= 8; bits++ {
		for _, n := range edges(bits) {
			for _, first := range []byte{0, 0x55, 0xaa, 0xff, 1, 0x80} {
				both(t, first, bits, n, plainPut(first, bits, n))
			}
		}
	}
}

func TestEachFirstByte(t *testing.T) {
	for first := range 256 {
		for bits := 1; bits <= 8; bits++ {
			for _, n := range []int{0, 1, 1<<bits - 2, 1<<bits - 1, 1 << bits, 1337, api.MaxPint} {
				written(t, byte(first), bits, n, plainPut(byte(first), bits, n))
			}
		}
	}
}

func TestEachSmallNumber(t *testing.T) {
	for bits := 1; bits <= 8; bits++ {
		for n := range 1 << 15 {
			b := plainPut(0x66, bits, n)
			written(t, 0x66, bits, n, b)
			read(t, b, bits, n, len(b))
		}
	}
}

func TestPutOutOfBounds(t *testing.T) {
	for _, first := range []byte{0, 0x1f, 0xff} {
		for _, bits := range wrongBits {
			for _, n := range []int{math.MinInt, -1, 0, 1, 10, 1337, api.MaxPint, math.MaxInt} {
				unwritten(t, first, bits, n)
			}
		}
		for bits := 1; bits <= 8; bits++ {
			for _, n := range []int{math.MinInt, math.MinInt + 1, -1 << 31, -256, -2, -1, api.MaxPint + 1, api.MaxPint + 2, 1 << 32, 1<<32 + 5, math.MaxInt - 1, math.MaxInt} {
				unwritten(t, first, bits, n)
			}
		}
	}
}

func TestGetOfWrongBits(t *testing.T) {
	for _, bits := range wrongBits {
		for _, b := range [][]byte{nil, {}, {0}, {0x1f}, {0xff}, {0x1f, 0x9a, 0x0a}, {0xff, 0xff, 0xff, 0xff, 0xff, 0xff, 0xff}} {
			refused(t, b, bits, api.ErrRange)
		}
	}
}

func TestGetOfNothing(t *testing.T) {
	for bits := 1; bits <= 8; bits++ {
		for _, none := range [][]byte{nil, {}, []byte("abc")[:0]} {
			refused(t, none, bits, api.ErrShort)
		}
	}
}

// TestNoughtsAtTheEnd: a number may have more bytes than it needs, up to six.
func TestNoughtsAtTheEnd(t *testing.T) {
	for _, c := range []struct {
		s             string
		bits, n, size int
	}{
		{"ff8000", 8, 255, 3},
		{"ff808000", 8, 255, 4},
		{"ff80808000", 8, 255, 5},
		{"ff8080808000", 8, 255, 6},
		{"1f9a8a00", 5, 1337, 4},
		{"1f9a8a8000", 5, 1337, 5},
		{"1f9a8a808000", 5, 1337, 6},
		{"7fffffffff00", 7, 127 + 1<<28 - 1, 6},
		{"01818000", 1, 2, 4},
	} {
		read(t, unhex(t, c.s), c.bits, c.n, c.size)
		read(t, unhex(t, c.s+"80ff"), c.bits, c.n, c.size)
		for cut := range c.size {
			refused(t, unhex(t, c.s)[:cut], c.bits, api.ErrShort)
		}
	}
}

// TestAroundTheGreatest has, for each bits, the greatest number and the one
// behind it, and others that are greater by more.
func TestAroundTheGreatest(t *testing.T) {
	for bits := 1; bits <= 8; bits++ {
		ones := 1<<bits - 1
		for _, above := range []int{1, 2, 127, 128, 1 << 14, 1 << 28, 1 << 31, 1<<32 - 1<<31 + ones} {
			rest := uint64(api.MaxPint - ones + above)
			b := []byte{byte(ones)}
			for range 4 {
				b = append(b, byte(rest)|0x80)
				rest >>= 7
			}
			for _, behind := range []string{"", "\x00", "\xff\xff\xff"} {
				refused(t, append(append(bytes.Clone(b), byte(rest)), behind...), bits, api.ErrRange)
			}
			refused(t, b, bits, api.ErrShort)
		}
		b := plainPut(0, bits, api.MaxPint)
		read(t, b, bits, api.MaxPint, 6)
		for last := 8; last < 256; last++ {
			b[5] = byte(last)
			refused(t, b, bits, api.ErrRange)
		}
	}
}

// TestMoreThanSixBytes: that the sixth is not the last is enough, whatever
// follows, or does not.
func TestMoreThanSixBytes(t *testing.T) {
	for bits := 1; bits <= 8; bits++ {
		for _, fill := range []byte{0x80, 0x81, 0xff} {
			b := append([]byte{0xff}, bytes.Repeat([]byte{fill}, 4)...)
			refused(t, b, bits, api.ErrShort)
			for _, sixth := range []byte{0x80, 0x81, 0x87, 0x88, 0xff} {
				for _, behind := range []string{"", "\x00", "\x01", "\x80", "\x80\x00", "\xff\xff\xff\xff\xff\xff\xff"} {
					refused(t, append(append(bytes.Clone(b), sixth), behind...), bits, api.ErrRange)
				}
			}
		}
	}
	long := bytes.Repeat([]byte{0xff}, 1<<20)
	refused(t, long, 8, api.ErrRange)
	long[0] = 0x13
	read(t, long, 8, 0x13, 1)
}

// held: Get answers what the document's words make of it.
func held(t *testing.T, b []byte, bits int) api.Errno {
	t.Helper()
	n, size, want := plainGet(b, bits)
	m, s, e := Get(b, bits)
	if m != n || s != size || e != want {
		t.Fatalf("P5.2: Get(%x, %d): %d, %d, %d, not %d, %d, %d", b, bits, m, s, e, n, size, want)
	}
	return e
}

func TestEachOneAndTwoBytesRead(t *testing.T) {
	for bits := -1; bits <= 10; bits++ {
		for a := range 256 {
			held(t, []byte{byte(a)}, bits)
			for b := range 256 {
				held(t, []byte{byte(a), byte(b)}, bits)
			}
		}
	}
}

// TestEachSixthByte has all ends of numbers of six bytes whose others are all
// of the greatest bits, or of none.
func TestEachSixthByte(t *testing.T) {
	for bits := 1; bits <= 8; bits++ {
		for _, second := range []byte{0x80, 0x81, 0xfe, 0xff} {
			for _, middle := range []byte{0x80, 0xff} {
				for sixth := range 256 {
					b := []byte{0xff, second, middle, middle, middle, byte(sixth)}
					held(t, b, bits)
					held(t, append(b, 0x80), bits)
				}
			}
		}
	}
}

// TestAnyBytesRead has bytes at random, many of which say that more follow.
func TestAnyBytesRead(t *testing.T) {
	r := rand.New(rand.NewSource(5))
	seen := map[api.Errno]int{}
	for range 100000 {
		b := make([]byte, r.Intn(9))
		r.Read(b)
		for i := range b {
			if r.Intn(4) > 0 {
				b[i] |= 0x80
			}
		}
		if len(b) > 0 && r.Intn(4) > 0 {
			b[0] = 0xff
		}
		if len(b) > 5 && r.Intn(2) > 0 {
			b[5] &= 0x0f
		}
		seen[held(t, b, r.Intn(10))]++
	}
	if seen[api.OK] < 1000 || seen[api.ErrShort] < 1000 || seen[api.ErrRange] < 1000 {
		t.Fatalf("P5.2: too few of a kind: %v", seen)
	}
}

func TestAnyNumber(t *testing.T) {
	r := rand.New(rand.NewSource(54))
	for range 20000 {
		first, bits, n := byte(r.Intn(256)), 1+r.Intn(8), r.Intn(1<<31)>>r.Intn(31)
		b, e := Put(first, bits, n)
		if e != api.OK || !bytes.Equal(b, plainPut(first, bits, n)) {
			t.Fatalf("P5.1: Put(%#x, %d, %d): %x, %d", first, bits, n, b, e)
		}
		if m, size, e := Get(b, bits); m != n || size != len(b) || e != api.OK {
			t.Fatalf("P5.4: Get(%x, %d): %d, %d, %d, not %d", b, bits, m, size, e, n)
		}
	}
}

// TestWhatIsHandedIn: behind what is handed in lies more, which is neither
// read nor written.
func TestWhatIsHandedIn(t *testing.T) {
	for _, s := range []string{"0a", "1f00", "1f9a0a", "1fe0ffffff07", "1fe1ffffff07", "1f8080808000", "1f808080808000", "ffffffffffffffff"} {
		whole := unhex(t, s)
		for n := range len(whole) + 1 {
			room := append(bytes.Clone(whole), 0, 1, 2, 3, 0xff, 0x7f)
			was := bytes.Clone(room)
			m, size, e := Get(room[:n], 5)
			if !bytes.Equal(room, was) {
				t.Errorf("P0.4: Get of %x, cut to %d, changed it: %x", whole, n, room)
			}
			wantM, wantSize, want := Get(bytes.Clone(whole[:n:n]), 5)
			if m != wantM || size != wantSize || e != want {
				t.Errorf("P0.4: Get of %x, cut to %d, hangs on what lies behind: %d, %d, %d", whole, n, m, size, e)
			}
		}
	}
}

func spoil(b []byte) {
	b = b[:cap(b)]
	for i := range b {
		b[i] = 'X'
	}
}

// TestWhatIsAnswered writes into an answer, and into its spare room; no other
// answer may show it.
func TestWhatIsAnswered(t *testing.T) {
	for bits := 1; bits <= 8; bits++ {
		for _, n := range edges(bits) {
			want := plainPut(0xc3, bits, n)
			first, _ := Put(0xc3, bits, n)
			second, _ := Put(0xc3, bits, n)
			spoil(first)
			third, _ := Put(0xc3, bits, n)
			if !bytes.Equal(second, want) || !bytes.Equal(third, want) {
				t.Errorf("P5.3: Put(0xc3, %d, %d) shares its memory: %x, %x", bits, n, second, third)
			}
			for _, b := range [][]byte{second, third} {
				if bytes.ContainsRune(b[len(b):cap(b)], 'X') {
					t.Errorf("P5.3: Put(0xc3, %d, %d) shares its spare room", bits, n)
				}
			}
		}
	}
}

// TestOrderOfCalls: what is answered does not hang on what was asked before.
func TestOrderOfCalls(t *testing.T) {
	r := rand.New(rand.NewSource(55))
	for range 2000 {
		bits, n := 1+r.Intn(8), r.Intn(1<<31)>>r.Intn(31)
		Put(byte(r.Intn(256)), r.Intn(12)-1, r.Intn(1<<32)-1000)
		Get([]byte{0xff, 0xff, byte(r.Intn(256))}, r.Intn(12)-1)
		Get([]byte{0xff, 0xff, 0xff, 0xff, 0xff, 0xff}, bits)
		b := plainPut(0, bits, n)
		written(t, 0, bits, n, b)
		read(t, b, bits, n, len(b))
	}
}
