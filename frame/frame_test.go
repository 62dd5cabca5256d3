package frame

import (
	"bytes"
	"encoding/hex"
	"fmt"
	"math"
	"math/rand"
	"slices"
	"strconv"
	"testing"

	"wayleave/api"
)

// noBytes are numbers that no byte has; some of them would be one, if only
// their lowest bits were looked at.
var noBytes = []int{-1, -2, -8, -128, -255, -256, -257, 256, 257, 256 + 4, 511, 512, 1 << 16, 1<<31 - 1, 1 << 31, 1 << 32, 1<<32 + 6, -1 << 31, -1<<32 + 6, math.MaxInt - 1, math.MaxInt, math.MinInt, math.MinInt + 1}

// noStreams are numbers that no stream has.
var noStreams = []int{-1, -2, -255, -256, -1 << 31, -1<<31 + 1, -1 << 32, -1<<32 + 5, 1 << 31, 1<<31 + 1, 1<<32 - 1, 1 << 32, 1<<32 + 5, math.MaxInt - 1, math.MaxInt, math.MinInt, math.MinInt + 1}

// streams are those at the edges of each of their bytes.
var streams = []int{0, 1, 2, 3, 255, 256, 257, 1<<16 - 1, 1 << 16, 1<<16 + 1, 1<<24 - 1, 1 << 24, 1<<24 + 1, 0x01020304, 0x7fedcba9, 1<<31 - 2, 1<<31 - 1}

// plainPut is Put of what it can write, as digits.
func plainPut(f Frame) []byte {
	b, e := hex.DecodeString(fmt.Sprintf("%06x%02x%02x%08x%x", len(f.Body), f.Kind, f.Flags, f.Stream, f.Body))
	if e != nil {
		panic(e)
	}
	return b
}

// plainParser holds digits, two a byte, all that came and has not gone.
type plainParser struct {
	digits string
	room   int
}

func (p *plainParser) feed(b []byte) {
	p.digits += hex.EncodeToString(b)
}

func (p *plainParser) left() int {
	return len(p.digits) / 2
}

func (p *plainParser) next() (Frame, api.Errno) {
	if len(p.digits) < 18 {
		return Frame{}, api.ErrShort
	}
	length := digitsOf(p.digits[:6])
	if length > p.room {
		return Frame{}, api.ErrLong
	}
	if len(p.digits) < 18+2*length {
		return Frame{}, api.ErrShort
	}
	body, _ := hex.DecodeString(p.digits[18 : 18+2*length])
	f := Frame{Kind: digitsOf(p.digits[6:8]), Flags: digitsOf(p.digits[8:10]), Stream: digitsOf(p.digits[10:18]) % (1 << 31), Body: body}
	p.digits = p.digits[18+2*length:]
	return f, api.OK
}

func digitsOf(s string) int {
	n, e := strconv.ParseInt(s, 16, 64)
	if e != nil {
		panic(e)
	}
	return int(n)
}

// alike is Same by its parts, which says nothing of Same itself.
func alike(a, b Frame) bool {
	return a.Kind == b.Kind && a.Flags == b.Flags && a.Stream == b.Stream && string(a.Body) == string(b.Body)
}

// told is a frame for messages, its body only by its beginning.
func told(f Frame) string {
	return fmt.Sprintf("{%d %d %d %x.. of %d}", f.Kind, f.Flags, f.Stream, f.Body[:min(len(f.Body), 16)], len(f.Body))
}

// body has n bytes, each another one than those beside it.
func body(n int) []byte {
	b := make([]byte, n)
	for i := range b {
		b[i] = byte(i*7 + i>>8 + 1)
	}
	return b
}

// written: Put answers what the digits say.
func written(t *testing.T, f Frame) []byte {
	t.Helper()
	b, e := Put(f)
	if e != api.OK || !bytes.Equal(b, plainPut(f)) {
		t.Fatalf("P10.1: Put(%s): %x.. of %d, %d", told(f), b[:min(len(b), 32)], len(b), e)
	}
	return b
}

// unwritten: Put answers want, and nothing beside it.
func unwritten(t *testing.T, f Frame, want api.Errno) {
	t.Helper()
	if b, e := Put(f); len(b) != 0 || e != want {
		t.Errorf("P10.1: Put(%s): %d bytes, %d, not %d", told(f), len(b), e, want)
	}
}

// fed is a parser that has got these pieces.
func fed(room int, pieces ...[]byte) *Parser {
	p := New(room)
	for _, b := range pieces {
		p.Feed(b)
	}
	return p
}

// has: so many bytes are there.
func has(t *testing.T, p *Parser, left int) {
	t.Helper()
	if n := p.Left(); n != left {
		t.Fatalf("P10.2: Left: %d, not %d", n, left)
	}
}

// comes: Next answers want, and left bytes are there behind it.
func comes(t *testing.T, p *Parser, want Frame, left int) {
	t.Helper()
	f, e := p.Next()
	if e != api.OK || !alike(f, want) {
		t.Fatalf("P10.2: Next: %s, %d, not %s", told(f), e, told(want))
	}
	has(t, p, left)
}

// fails: Next answers want, nothing beside it, and nothing is gone, however
// often one asks.
func fails(t *testing.T, p *Parser, want api.Errno, left int) {
	t.Helper()
	has(t, p, left)
	for range 2 {
		f, e := p.Next()
		if e != want || !alike(f, Frame{}) {
			t.Fatalf("P10.2: Next: %s, %d, not %d", told(f), e, want)
		}
		has(t, p, left)
	}
}

func TestConstants(t *testing.T) {
	for want, kind := range []int{Data, Headers, Priority, Rst, Settings, Push, Ping, Goaway, Update, Cont} {
		if kind != want {
			t.Errorf("kind %d is %d", want, kind)
		}
	}
	if End != 1 || Ack != 1 || Whole != 4 || Padded != 8 || Prior != 32 {
		t.Errorf("flags: %d, %d, %d, %d, %d", End, Ack, Whole, Padded, Prior)
	}
}

// TestExample is the chapter's own, and others byte by byte.
func TestExample(t *testing.T) {
	for _, c := range []struct {
		f    Frame
		want string
	}{
		{Frame{Kind: Ping, Body: []byte("12345678")}, "0000080600000000003132333435363738"},
		{Frame{Kind: Ping, Flags: Ack, Body: make([]byte, 8)}, "0000080601000000000000000000000000"},
		{Frame{}, "000000000000000000"},
		{Frame{Kind: Settings, Flags: Ack}, "000000040100000000"},
		{Frame{Kind: Data, Flags: End, Stream: 1, Body: []byte("a")}, "00000100010000000161"},
		{Frame{Kind: Headers, Flags: Whole | End | Prior | Padded, Stream: 0x01020304, Body: []byte{0x82}}, "000001012d0102030482"},
		{Frame{Kind: 255, Flags: 254, Stream: 1<<31 - 1}, "000000fffe7fffffff"},
	} {
		b, e := Put(c.f)
		if got := hex.EncodeToString(b); e != api.OK || got != c.want {
			t.Errorf("P10.1: Put(%s): %s, %d, not %s", told(c.f), got, e, c.want)
		}
	}
	if b, _ := Put(Frame{Kind: Ping, Body: make([]byte, 8)}); len(b) != 17 {
		t.Errorf("the example: %d bytes", len(b))
	}
}

func TestPutOfEachKindAndFlags(t *testing.T) {
	for kind := range 256 {
		for flags := range 256 {
			written(t, Frame{Kind: kind, Flags: flags, Stream: 7, Body: []byte{3}})
		}
	}
}

func TestPutOfStreams(t *testing.T) {
	for _, stream := range streams {
		written(t, Frame{Stream: stream})
		written(t, Frame{Kind: Cont, Flags: Whole, Stream: stream, Body: body(5)})
	}
}

func TestPutOfLengths(t *testing.T) {
	for n := range 600 {
		written(t, Frame{Kind: 1, Flags: 2, Stream: 3, Body: body(n)})
	}
	for _, n := range []int{1<<16 - 1, 1 << 16, 1<<16 + 1, 0x012345} {
		written(t, Frame{Kind: 255, Flags: 255, Stream: 1<<31 - 1, Body: body(n)})
	}
}

// TestPutOfTheLongest has the longest body that goes, and those that are
// longer, whose length in three bytes would be a lesser one.
func TestPutOfTheLongest(t *testing.T) {
	room := body(1<<25 + 1)
	for _, n := range []int{1<<24 - 2, 1<<24 - 1} {
		b, e := Put(Frame{Kind: 4, Flags: 5, Stream: 6, Body: room[:n]})
		want := []byte{255, 255, byte(n), 4, 5, 0, 0, 0, 6}
		if e != api.OK || len(b) != 9+n || !bytes.Equal(b[:9], want) || !bytes.Equal(b[9:], room[:n]) {
			t.Errorf("P10.1: Put of %d bytes: %x.. of %d, %d", n, b[:min(len(b), 9)], len(b), e)
		}
	}
	for _, n := range []int{1 << 24, 1<<24 + 1, 1<<24 + 5, 1<<25 - 1, 1 << 25, 1<<25 + 1} {
		unwritten(t, Frame{Kind: 4, Flags: 5, Stream: 6, Body: room[:n]}, api.ErrLong)
		unwritten(t, Frame{Body: room[:n]}, api.ErrLong)
	}
}

func TestPutOfWrongNumbers(t *testing.T) {
	for _, b := range [][]byte{nil, {}, {1}, body(300)} {
		for _, n := range noBytes {
			unwritten(t, Frame{Kind: n, Body: b}, api.ErrRange)
			unwritten(t, Frame{Flags: n, Body: b}, api.ErrRange)
			unwritten(t, Frame{Kind: 255, Flags: n, Stream: 1<<31 - 1, Body: b}, api.ErrRange)
			unwritten(t, Frame{Kind: n, Flags: 255, Stream: 1<<31 - 1, Body: b}, api.ErrRange)
			unwritten(t, Frame{Kind: n, Flags: n, Stream: n, Body: b}, api.ErrRange)
		}
		for _, n := range noStreams {
			unwritten(t, Frame{Stream: n, Body: b}, api.ErrRange)
			unwritten(t, Frame{Kind: 255, Flags: 255, Stream: n, Body: b}, api.ErrRange)
		}
	}
}

// TestPutOfWhatIsWrongInBothWays: the number is named first.
func TestPutOfWhatIsWrongInBothWays(t *testing.T) {
	long := make([]byte, 1<<24+1)
	for _, b := range [][]byte{long[:1<<24], long} {
		for _, n := range noBytes {
			unwritten(t, Frame{Kind: n, Body: b}, api.ErrRange)
			unwritten(t, Frame{Flags: n, Body: b}, api.ErrRange)
		}
		for _, n := range noStreams {
			unwritten(t, Frame{Stream: n, Body: b}, api.ErrRange)
		}
	}
}

// TestPlaces: each field has bytes of its own, and no other one shows there.
func TestPlaces(t *testing.T) {
	none := make([]byte, 9)
	for n := 1; n < 256; n++ {
		for place, f := range map[int]Frame{
			3: {Kind: n},
			4: {Flags: n},
			5: {Stream: n % 128 << 24},
			6: {Stream: n << 16},
			7: {Stream: n << 8},
			8: {Stream: n},
		} {
			b := written(t, f)
			want := bytes.Clone(none)
			want[place] = byte(n)
			if place == 5 {
				want[place] = byte(n % 128)
			}
			if !bytes.Equal(b, want) {
				t.Errorf("P10.1: Put(%s): %x, not %x", told(f), b, want)
			}
			comes(t, fed(0, b), f, 0)
		}
	}
	for _, n := range []int{1, 2, 127, 128, 255} {
		for place, length := range []int{n << 16, n << 8, n} {
			b, e := Put(Frame{Body: make([]byte, length)})
			want := bytes.Clone(none)
			want[place] = byte(n)
			if e != api.OK || len(b) != 9+length || !bytes.Equal(b[:9], want) {
				t.Fatalf("P10.1: Put of %d bytes: %x, %d", length, b[:min(len(b), 9)], e)
			}
			comes(t, fed(1<<24, b), Frame{Body: make([]byte, length)}, 0)
		}
	}
}

func TestNextOfNothing(t *testing.T) {
	for _, room := range []int{math.MinInt, -1, 0, 1, api.FrameRoom, math.MaxInt} {
		p := New(room)
		fails(t, p, api.ErrShort, 0)
		for _, none := range [][]byte{nil, {}, []byte("abc")[:0]} {
			p.Feed(none)
			fails(t, p, api.ErrShort, 0)
		}
	}
}

// TestFeedOfNothing between the bytes of a frame changes nothing.
func TestFeedOfNothing(t *testing.T) {
	f := Frame{Kind: 1, Flags: 2, Stream: 3, Body: body(4)}
	p := New(4)
	for i, c := range written(t, f) {
		fails(t, p, api.ErrShort, i)
		p.Feed(nil)
		fails(t, p, api.ErrShort, i)
		p.Feed([]byte{c})
		p.Feed([]byte{})
	}
	has(t, p, 13)
	comes(t, p, f, 0)
	p.Feed(nil)
	fails(t, p, api.ErrShort, 0)
}

// TestPiecesOfOneByte: a frame is there with its last byte, not ahead of it.
func TestPiecesOfOneByte(t *testing.T) {
	for _, n := range []int{0, 1, 2, 8, 9, 10, 100, 300} {
		f := Frame{Kind: Ping, Flags: 255, Stream: 1<<31 - 1, Body: body(n)}
		b := written(t, f)
		p := New(n)
		for range 3 {
			for i, c := range b {
				fails(t, p, api.ErrShort, i)
				p.Feed([]byte{c})
			}
			comes(t, p, f, 0)
		}
		fails(t, p, api.ErrShort, 0)
	}
}

func TestSeveralAtOnce(t *testing.T) {
	var all []byte
	var l []Frame
	for n := range 40 {
		f := Frame{Kind: n, Flags: 255 - n, Stream: n << 20, Body: body(n * n % 50)}
		all, l = append(all, written(t, f)...), append(l, f)
	}
	p := fed(49, all)
	left := len(all)
	has(t, p, left)
	for _, f := range l {
		left -= 9 + len(f.Body)
		comes(t, p, f, left)
	}
	fails(t, p, api.ErrShort, 0)
}

// TestCutAnywhere has two frames and the beginning of a third one in three
// pieces, cut at all places, asked for behind each piece or at the end alone.
func TestCutAnywhere(t *testing.T) {
	l := []Frame{{Kind: 1, Flags: 4, Stream: 5, Body: body(3)}, {Kind: 8, Stream: 1 << 30}, {Kind: 200, Flags: 9, Stream: 1, Body: body(2)}}
	all := slices.Concat(written(t, l[0]), written(t, l[1]), written(t, l[2]))[:31]
	for i := range len(all) + 1 {
		for k := i; k <= len(all); k++ {
			p := fed(3, all[:i], all[i:k], all[k:])
			has(t, p, 31)
			comes(t, p, l[0], 19)
			comes(t, p, l[1], 10)
			fails(t, p, api.ErrShort, 10)
			p.Feed([]byte{body(2)[1]})
			comes(t, p, l[2], 0)
			fails(t, p, api.ErrShort, 0)

			p, came := New(3), 0
			for _, piece := range [][]byte{all[:i], all[i:k], all[k:]} {
				was := p.Left()
				p.Feed(piece)
				has(t, p, was+len(piece))
				for f, e := p.Next(); e == api.OK; f, e = p.Next() {
					if came == len(l) || !alike(f, l[came]) {
						t.Fatalf("P10.2: cut at %d and %d: %s is number %d", i, k, told(f), came)
					}
					came++
				}
			}
			if came != 2 {
				t.Fatalf("P10.2: cut at %d and %d: %d frames", i, k, came)
			}
			fails(t, p, api.ErrShort, 10)
		}
	}
}

// TestNextOfABeginning: what ends within the nine bytes, just behind them, or
// within the body is not whole, and stays.
func TestNextOfABeginning(t *testing.T) {
	f := Frame{Kind: Data, Flags: End, Stream: 1, Body: body(300)}
	b := written(t, f)
	for n := range b {
		for _, room := range []int{300, 301, api.FrameRoom, 1 << 24, math.MaxInt} {
			p := fed(room, b[:n])
			fails(t, p, api.ErrShort, n)
			p.Feed(b[n:])
			comes(t, p, f, 0)
		}
	}
}

func TestGreatestBitOfAStream(t *testing.T) {
	for _, stream := range streams {
		f := Frame{Kind: Update, Flags: 128, Stream: stream, Body: body(4)}
		b := written(t, f)
		comes(t, fed(4, b), f, 0)
		b[5] |= 0x80
		p := fed(4, b, b)
		comes(t, p, f, 13)
		comes(t, p, f, 0)
	}
}

// TestAnyKindAndFlags: also those that the chapter doesn't name come out.
func TestAnyKindAndFlags(t *testing.T) {
	p := New(1)
	for kind := range 256 {
		for flags := range 256 {
			f := Frame{Kind: kind, Flags: flags, Stream: kind ^ flags, Body: []byte{byte(flags)}}
			p.Feed(written(t, f))
			comes(t, p, f, 0)
		}
	}
}

func TestRooms(t *testing.T) {
	for _, room := range []int{0, 1, 2, 8, 9, 10, 255, 256, 257, api.FrameRoom, 1<<16 - 1, 1 << 16} {
		for _, n := range []int{0, room / 2, room - 1, room} {
			f := Frame{Kind: 3, Flags: 4, Stream: 5, Body: body(max(n, 0))}
			comes(t, fed(room, written(t, f)), f, 0)
		}
		for _, n := range []int{room + 1, room + 2, 2*room + 1, room + 256} {
			b := written(t, Frame{Kind: 3, Flags: 4, Stream: 5, Body: body(n)})
			fails(t, fed(room, b), api.ErrLong, 9+n)
		}
	}
}

// TestTheGreatestRooms: no length is above 2^24 - 1.
func TestTheGreatestRooms(t *testing.T) {
	f := Frame{Kind: 3, Flags: 4, Stream: 5, Body: body(1<<24 - 1)}
	b := written(t, f)
	for _, room := range []int{1<<24 - 1, 1 << 24, 1 << 31, 1<<32 + 5, math.MaxInt - 9, math.MaxInt - 1, math.MaxInt} {
		p := fed(room, b[:len(b)-1])
		fails(t, p, api.ErrShort, len(b)-1)
		p.Feed(b[len(b)-1:])
		comes(t, p, f, 0)
	}
	fails(t, fed(1<<24-2, b[:9]), api.ErrLong, 9)
	fails(t, fed(1<<24-2, b), api.ErrLong, len(b))
}

// TestRoomsBelowNought: even an empty body is above them.
func TestRoomsBelowNought(t *testing.T) {
	for _, room := range []int{-1, -2, -9, -10, -1 << 31, -1 << 32, math.MinInt, math.MinInt + 1, math.MinInt + 9} {
		p := New(room)
		for n := range 9 {
			fails(t, p, api.ErrShort, n)
			p.Feed([]byte{0})
		}
		fails(t, p, api.ErrLong, 9)
		fails(t, fed(room, written(t, Frame{Kind: 1, Stream: 2, Body: body(3)})), api.ErrLong, 12)
	}
}

// TestTooLongAtTheNinthByte: the three bytes that tell it are not enough.
func TestTooLongAtTheNinthByte(t *testing.T) {
	for _, c := range []struct{ room, length int }{{0, 1}, {4, 5}, {255, 256}, {256, 1 << 16}, {api.FrameRoom, api.FrameRoom + 1}, {api.FrameRoom, 1<<24 - 1}, {1<<24 - 2, 1<<24 - 1}} {
		b := []byte{byte(c.length >> 16), byte(c.length >> 8), byte(c.length), 1, 2, 3, 4, 5, 6}
		p := New(c.room)
		for i, x := range b {
			fails(t, p, api.ErrShort, i)
			p.Feed([]byte{x})
		}
		fails(t, p, api.ErrLong, 9)
	}
}

// TestTooLongEverAfter: neither what makes it whole nor anything behind it is
// taken any more.
func TestTooLongEverAfter(t *testing.T) {
	good := written(t, Frame{Kind: Ping, Body: body(4)})
	for _, asked := range []bool{false, true} {
		b := written(t, Frame{Kind: 1, Stream: 1, Body: body(5)})
		p := fed(4, b[:9])
		left := 9
		for _, piece := range [][]byte{nil, b[9:10], b[10:], good, good[:3], make([]byte, 100), good, {}, body(100000)} {
			if asked {
				fails(t, p, api.ErrLong, left)
			}
			p.Feed(piece)
			left += len(piece)
			has(t, p, left)
		}
		fails(t, p, api.ErrLong, left)
	}
}

// TestTooLongBehindOthers: the frames ahead of it come out.
func TestTooLongBehindOthers(t *testing.T) {
	a, b := Frame{Kind: 1, Stream: 1, Body: body(4)}, Frame{Kind: 2, Flags: 2, Body: body(3)}
	long := written(t, Frame{Kind: 3, Body: body(5)})
	for cut := range len(long) + 1 {
		p := fed(4, written(t, a), slices.Concat(written(t, b), long[:cut]))
		comes(t, p, a, 12+cut)
		comes(t, p, b, cut)
		want := api.ErrLong
		if cut < 9 {
			want = api.ErrShort
		}
		fails(t, p, want, cut)
		p.Feed(long[cut:])
		p.Feed(written(t, a))
		fails(t, p, api.ErrLong, 27)
	}
}

func TestSame(t *testing.T) {
	l := []Frame{
		{},
		{Kind: 1},
		{Kind: -1},
		{Kind: 257},
		{Flags: 1},
		{Flags: 257},
		{Stream: 1},
		{Stream: 1<<31 + 1},
		{Stream: 1<<32 + 1},
		{Stream: math.MinInt},
		{Body: []byte{0}},
		{Body: []byte{1}},
		{Body: []byte{0, 0}},
		{Body: []byte{0, 1}},
		{Body: []byte{1, 0}},
		{Kind: 1, Flags: 2, Stream: 3, Body: []byte("body")},
		{Kind: 1, Flags: 3, Stream: 2, Body: []byte("body")},
		{Kind: 2, Flags: 1, Stream: 3, Body: []byte("body")},
		{Kind: 3, Flags: 2, Stream: 1, Body: []byte("body")},
		{Kind: 2, Flags: 2, Stream: 3, Body: []byte("body")},
		{Kind: 1, Flags: 2, Stream: 3, Body: []byte("bodY")},
		{Kind: 1, Flags: 2, Stream: 3, Body: []byte("Body")},
		{Kind: 1, Flags: 2, Stream: 3, Body: []byte("bod")},
		{Kind: 1, Flags: 2, Stream: 3, Body: []byte("body\x00")},
		{Kind: 1, Flags: 2, Stream: 3},
	}
	for i, a := range l {
		for k, b := range l {
			b.Body = bytes.Clone(b.Body)
			if Same(a, b) != (i == k) {
				t.Errorf("P10.3: Same(%s, %s): %v", told(a), told(b), i != k)
			}
		}
	}
}

// TestSameOfNoBody: none is the empty one, however it is made.
func TestSameOfNoBody(t *testing.T) {
	none := [][]byte{nil, {}, make([]byte, 0, 8), []byte("abc")[:0], []byte("abd")[3:]}
	for _, a := range none {
		for _, b := range none {
			if !Same(Frame{Kind: 1, Body: a}, Frame{Kind: 1, Body: b}) {
				t.Errorf("P10.3: Same of no bodies, %v and %v", a, b)
			}
			if Same(Frame{Kind: 1, Body: a}, Frame{Kind: 1, Body: append(b, 0)}) || Same(Frame{Kind: 1, Body: append(a, 0)}, Frame{Kind: 1, Body: b}) {
				t.Errorf("P10.3: Same of no body and of one byte")
			}
		}
	}
}

// TestSameOfOneOtherByte has bodies that differ in one place alone.
func TestSameOfOneOtherByte(t *testing.T) {
	a := Frame{Kind: 1, Body: body(200)}
	for i := range a.Body {
		b := Frame{Kind: 1, Body: bytes.Clone(a.Body)}
		if !Same(a, b) {
			t.Fatalf("P10.3: Same of two alike: false")
		}
		b.Body[i] ^= 1 << (i % 8)
		if Same(a, b) || Same(b, a) {
			t.Errorf("P10.3: Same, though byte %d is another one", i)
		}
	}
}

// roomy is b with more behind it, and all of that memory.
func roomy(b []byte) ([]byte, []byte) {
	room := append(bytes.Clone(b), "behind it"...)
	return room[:len(b)], room
}

func spoil(b []byte) {
	b = b[:cap(b)]
	for i := range b {
		b[i] = 'X'
	}
}

// TestPutLeavesItsBody: what is handed in is as it was, and what lies behind
// it too; Same leaves both.
func TestPutLeavesItsBody(t *testing.T) {
	for _, n := range []int{0, 1, 2, 8, 9, 100, 1000} {
		b, room := roomy(body(n))
		was := bytes.Clone(room)
		f := Frame{Kind: 1, Flags: 2, Stream: 3, Body: b}
		written(t, f)
		Put(Frame{Kind: -1, Body: b})
		if !Same(f, Frame{Kind: 1, Flags: 2, Stream: 3, Body: body(n)}) || !bytes.Equal(room, was) {
			t.Errorf("P10.3: a Body of %d bytes is changed", n)
		}
	}
}

// TestPutKeepsNothing: a Body that is changed later shows in no answer, nor
// does an answer that is written into show in a Body or in another answer.
func TestPutKeepsNothing(t *testing.T) {
	for _, n := range []int{0, 1, 2, 7, 8, 23, 100, 1000} {
		f := Frame{Kind: 1, Flags: 2, Stream: 3, Body: body(n)}
		want := plainPut(f)
		first, second := written(t, f), written(t, f)
		spoil(first)
		third := written(t, f)
		spoil(f.Body)
		for _, b := range [][]byte{second, third} {
			if !bytes.Equal(b, want) || bytes.ContainsRune(b[len(b):cap(b)], 'X') {
				t.Errorf("P10.3: Put of %d bytes shares its memory: %x", n, b[:cap(b)])
			}
		}
	}
}

// TestFeedLeavesItsPiece and what lies behind it, which is not read either.
func TestFeedLeavesItsPiece(t *testing.T) {
	f := Frame{Kind: 1, Flags: 2, Stream: 3, Body: body(10)}
	all := slices.Concat(written(t, f), written(t, f))
	for n := range len(all) + 1 {
		piece, room := roomy(all[:n])
		was := bytes.Clone(room)
		p := New(10)
		p.Feed(piece)
		has(t, p, n)
		for range n / 19 {
			comes(t, p, f, p.Left()-19)
		}
		fails(t, p, api.ErrShort, n%19)
		p.Feed(piece)
		p.Next()
		p.Feed([]byte("more"))
		p.Next()
		if !bytes.Equal(room, was) {
			t.Errorf("P10.3: a piece of %d bytes is changed: %q", n, room)
		}
	}
}

// TestFeedKeepsNothing: pieces are changed as soon as they are fed, also those
// that come while nothing is there.
func TestFeedKeepsNothing(t *testing.T) {
	f := Frame{Kind: 1, Flags: 2, Stream: 3, Body: body(10)}
	all := slices.Concat(written(t, f), written(t, f), written(t, f))
	for size := 1; size <= len(all); size++ {
		p := New(10)
		for piece := range slices.Chunk(bytes.Clone(all), size) {
			p.Feed(piece)
			spoil(piece)
		}
		comes(t, p, f, 38)
		comes(t, p, f, 19)
		comes(t, p, f, 0)
	}
	long := written(t, Frame{Body: body(11)})
	p := fed(10, long)
	spoil(long)
	fails(t, p, api.ErrLong, 20)
}

// TestOneMemoryFedAgain and again, as a reader's buffer is.
func TestOneMemoryFedAgain(t *testing.T) {
	buffer := make([]byte, 0, 64)
	p := New(50)
	for n := range 200 {
		f := Frame{Kind: n, Flags: n / 2, Stream: n * n, Body: body(n % 50)}
		b := written(t, f)
		for _, piece := range [][]byte{b[:n%10], b[n%10:]} {
			buffer = append(buffer[:0], piece...)
			p.Feed(buffer)
		}
		comes(t, p, f, 0)
	}
}

// TestWhatNextAnswers is new memory, its spare room too: written into, it
// shows in no later answer, nor in one that was taken before.
func TestWhatNextAnswers(t *testing.T) {
	for _, n := range []int{0, 1, 2, 7, 8, 9, 30, 1000} {
		f := Frame{Kind: 1, Flags: 2, Stream: 3, Body: body(n)}
		b := written(t, f)
		p := New(n)
		p.Feed(slices.Concat(b, b, b, b[:5]))
		first, _ := p.Next()
		spoil(first.Body)
		second, _ := p.Next()
		_ = append(first.Body, "XXXXXXXXXXXXXXXXXXXXXXXX"...)
		third, _ := p.Next()
		for i := range second.Body[:cap(second.Body)] {
			second.Body[:cap(second.Body)][i] = 'Y'
		}
		p.Feed(b[5:])
		fourth, e := p.Next()
		if e != api.OK || !alike(third, f) || !alike(fourth, f) {
			t.Errorf("P10.3: Next of %d bytes shares its memory: %s, %s", n, told(third), told(fourth))
		}
		for _, x := range []Frame{third, fourth} {
			if bytes.ContainsAny(x.Body[len(x.Body):cap(x.Body)], "XY") {
				t.Errorf("P10.3: Next of %d bytes shares its spare room", n)
			}
		}
		if bytes.Contains(first.Body, []byte("Y")) || bytes.Contains(second.Body, []byte("X")) {
			t.Errorf("P10.3: two bodies of %d bytes share their memory", n)
		}
		has(t, p, 0)
	}
}

// TestWhatNextAnsweredStays, whatever is fed and taken later.
func TestWhatNextAnsweredStays(t *testing.T) {
	p := New(60)
	var l []Frame
	for n := range 300 {
		f := Frame{Kind: n % 256, Stream: n, Body: bytes.Repeat([]byte{byte(n)}, n%60)}
		p.Feed(written(t, f))
		if n%3 == 0 {
			continue
		}
		f, e := p.Next()
		if e != api.OK {
			t.Fatalf("P10.2: Next: %d", e)
		}
		l = append(l, f)
	}
	for n, f := range l {
		if want := (Frame{Kind: n % 256, Stream: n, Body: bytes.Repeat([]byte{byte(n)}, n%60)}); !alike(f, want) {
			t.Fatalf("P10.3: %s became %s", told(want), told(f))
		}
	}
}

// TestAnswersFedBack: an answer is a piece like any other one.
func TestAnswersFedBack(t *testing.T) {
	inner := Frame{Kind: 7, Stream: 8, Body: body(20)}
	p := fed(100, written(t, Frame{Kind: 1, Body: written(t, inner)}))
	outer, _ := p.Next()
	p.Feed(outer.Body)
	spoil(outer.Body)
	comes(t, p, inner, 0)
}

// TestParsersApart: what one was fed shows in no other one.
func TestParsersApart(t *testing.T) {
	f, g := Frame{Kind: 1, Body: body(5)}, Frame{Kind: 2, Body: body(3)}
	p, q := New(5), New(4)
	p.Feed(written(t, f)[:12])
	fails(t, q, api.ErrShort, 0)
	q.Feed(written(t, g)[:11])
	p.Feed(written(t, f)[12:])
	q.Feed(written(t, g)[11:])
	comes(t, p, f, 0)
	comes(t, q, g, 0)
	q.Feed(written(t, f))
	fails(t, q, api.ErrLong, 14)
	fails(t, p, api.ErrShort, 0)
	p.Feed(written(t, f))
	comes(t, p, f, 0)
}

// TestWhatIsGoneIsNotKept: a parser has no more memory than what is there
// needs, twice as much aside and a little.
func TestWhatIsGoneIsNotKept(t *testing.T) {
	f := Frame{Body: body(1000)}
	b := written(t, f)
	p := fed(1000, bytes.Repeat(b, 1000), b[:50])
	for i := range 1000 {
		comes(t, p, f, 50+1009*(999-i))
		if cap(p.held) > 4*p.Left()+4096 {
			t.Fatalf("%d bytes are there, and memory of %d", p.Left(), cap(p.held))
		}
	}
	for range 10000 {
		p.Feed(b[50:])
		p.Feed(b[:50])
		comes(t, p, f, 50)
	}
	if cap(p.held) > 4096 {
		t.Errorf("50 bytes are there, and memory of %d", cap(p.held))
	}
}

// TestManyFrames: how long a call takes doesn't grow with what is behind.
func TestManyFrames(t *testing.T) {
	const many = 1 << 18
	p := fed(0, make([]byte, 9*many))
	for i := range many {
		if f, e := p.Next(); e != api.OK || !alike(f, Frame{}) || p.Left() != 9*(many-1-i) {
			t.Fatalf("P10.2: frame %d: %s, %d, Left %d", i, told(f), e, p.Left())
		}
	}
	p.Feed(make([]byte, 9*many))
	for range many {
		comes(t, p, Frame{}, 9*(many-1))
		for range 3 {
			p.Feed(make([]byte, 3))
		}
	}
	has(t, p, 9*many)
}

// TestLongBodyByteByByte: nor with what is ahead.
func TestLongBodyByteByByte(t *testing.T) {
	f := Frame{Kind: 1, Body: body(1 << 20)}
	p := New(1 << 20)
	for _, c := range written(t, f) {
		if _, e := p.Next(); e != api.ErrShort {
			t.Fatalf("P10.2: %d", e)
		}
		p.Feed([]byte{c})
	}
	comes(t, p, f, 0)
}

// anyFrame is one at random, its body of most bytes at most, often none.
func anyFrame(r *rand.Rand, most int) Frame {
	f := Frame{Kind: r.Intn(256), Flags: r.Intn(256), Stream: r.Intn(1<<31) >> r.Intn(31)}
	if r.Intn(4) > 0 {
		f.Body = make([]byte, r.Intn(most+1))
		r.Read(f.Body)
	}
	return f
}

// TestAnyPieces puts long rows of frames one behind the other: in pieces of
// all sizes they come out as they were put.
func TestAnyPieces(t *testing.T) {
	r := rand.New(rand.NewSource(104))
	for round := range 300 {
		most := []int{0, 1, 5, 40, 300, 3000}[round%6]
		var all []byte
		var want, got []Frame
		for range r.Intn(60) {
			f := anyFrame(r, most)
			all, want = append(all, written(t, f)...), append(want, f)
		}
		p := New(most + r.Intn(2)*r.Intn(100))
		greatest := 1 + r.Intn(len(all)+20)
		for rest := all; len(rest) > 0; {
			n := min(r.Intn(greatest+1), len(rest))
			p.Feed(rest[:n])
			rest = rest[n:]
			for r.Intn(3) > 0 {
				if f, e := p.Next(); e == api.OK {
					got = append(got, f)
				}
			}
		}
		for f, e := p.Next(); e == api.OK; f, e = p.Next() {
			got = append(got, f)
		}
		fails(t, p, api.ErrShort, 0)
		if !slices.EqualFunc(got, want, alike) {
			t.Fatalf("P10.4: round %d: %d frames, not %d, or others", round, len(got), len(want))
		}
	}
}

// TestOneRowInPiecesOfEachSize has all sizes from one byte up to the whole.
func TestOneRowInPiecesOfEachSize(t *testing.T) {
	r := rand.New(rand.NewSource(105))
	var all []byte
	var want []Frame
	for range 40 {
		f := anyFrame(r, 30)
		all, want = append(all, written(t, f)...), append(want, f)
	}
	for size := 1; size <= len(all); size++ {
		p := New(30)
		var got []Frame
		for piece := range slices.Chunk(all, size) {
			p.Feed(piece)
			for f, e := p.Next(); e == api.OK; f, e = p.Next() {
				got = append(got, f)
			}
		}
		has(t, p, 0)
		if !slices.EqualFunc(got, want, alike) {
			t.Fatalf("P10.4: pieces of %d: %d frames, not %d, or others", size, len(got), len(want))
		}
	}
}

// TestAnyBytes holds the parser against the plain one: any bytes, whose
// lengths are often near the room, any pieces, any order of calls.
func TestAnyBytes(t *testing.T) {
	r := rand.New(rand.NewSource(106))
	seen := map[api.Errno]int{}
	for round := range 3000 {
		room := r.Intn(40) - 1
		p, plain := New(room), plainParser{room: room}
		for range r.Intn(80) {
			switch r.Intn(4) {
			case 0:
				b := make([]byte, r.Intn(30))
				r.Read(b)
				p.Feed(b)
				plain.feed(b)
				spoil(b)
			case 1:
				b := make([]byte, 9+r.Intn(50))
				r.Read(b)
				b[0], b[1], b[2] = 0, 0, byte(r.Intn(max(room, 0)+1))
				if r.Intn(20) == 0 {
					b[r.Intn(3)]++
				}
				p.Feed(b[:9])
				plain.feed(b[:9])
				n := 9 + min(int(b[2]), len(b)-9)
				p.Feed(b[9:n])
				plain.feed(b[9:n])
			default:
				f, e := p.Next()
				want, wantE := plain.next()
				if e != wantE || !alike(f, want) {
					t.Fatalf("P10.2: round %d: %s, %d, not %s, %d", round, told(f), e, told(want), wantE)
				}
				seen[e]++
			}
			if p.Left() != plain.left() {
				t.Fatalf("P10.2: round %d: Left %d, not %d", round, p.Left(), plain.left())
			}
		}
	}
	if seen[api.OK] < 1000 || seen[api.ErrShort] < 1000 || seen[api.ErrLong] < 1000 {
		t.Fatalf("P10.2: too few of a kind: %v", seen)
	}
}

// TestAnyFramePut holds Put against the plain one, wrong frames too.
func TestAnyFramePut(t *testing.T) {
	r := rand.New(rand.NewSource(107))
	for range 20000 {
		f := anyFrame(r, 20)
		if r.Intn(2) > 0 {
			written(t, f)
			continue
		}
		switch r.Intn(3) {
		case 0:
			f.Kind = noBytes[r.Intn(len(noBytes))]
		case 1:
			f.Flags = noBytes[r.Intn(len(noBytes))]
		case 2:
			f.Stream = noStreams[r.Intn(len(noStreams))]
		}
		unwritten(t, f, api.ErrRange)
	}
}
