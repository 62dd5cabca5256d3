package part

import (
	"bytes"
	"encoding/binary"
	"fmt"
	"math"
	"math/rand"
	"slices"
	"testing"

	"wayleave/api"
	"wayleave/frame"
)

var none = api.Fault{}

// kinds are those that the chapter names, and others, some of which would be
// one of these, if only their lowest bits were looked at.
var kinds = []int{0, 1, 2, 3, 4, 5, 6, 7, 8, 9, 10, 11, 16, 32, 127, 128, 255, 256, 257, 256 + 4, 1 << 32, 1<<32 + 8, -1, -2, -8, -256, math.MaxInt, math.MinInt, math.MinInt + 6}

// streams are those that a frame may have.
var streams = []int{0, 1, 2, 255, 256, 1 << 16, 1 << 24, 1<<31 - 1}

// noStreams are none, and so they are not 0 either.
var noStreams = []int{-1, -256, math.MinInt, 1 << 31, 1<<31 + 1, 1 << 32, math.MaxInt}

// allFlags are none, each alone, those of names together, and all.
var allFlags = []int{0, 1, 2, 4, 8, 16, 32, 64, 128, 1 | 4, 1 | 8, 4 | 8, 8 | 32, 1 | 32, 4 | 32, 1 | 4 | 8, 1 | 4 | 8 | 32, 255 - 1, 255 - 4, 255 - 8, 255 - 32, 255}

// numbers are at the edges of 8, 16, 24, 31, 32 and all bits, on both sides of 0.
func numbers() []int {
	l := []int{0, 1, 2, 100, math.MaxInt, math.MaxInt - 1, math.MinInt, math.MinInt + 1, 0x0123456789abcdef, -0x0123456789abcdef}
	for _, bits := range []int{8, 15, 16, 24, 31, 32, 33, 40, 48, 62} {
		for by := -2; by <= 2; by++ {
			l = append(l, 1<<bits+by, -1<<bits+by)
		}
	}
	return append(l, -1, -2, -100)
}

func conn(code int) api.Fault {
	return api.Fault{Bad: true, Conn: true, Code: code}
}

func stream(code int) api.Fault {
	return api.Fault{Bad: true, Code: code}
}

// same says whether both say the same; nil and the empty list are.
func same(a, b Part) bool {
	if !bytes.Equal(a.Data, b.Data) || !slices.Equal(a.Sets, b.Sets) {
		return false
	}
	a.Data, b.Data, a.Sets, b.Sets = nil, nil, nil, nil
	return fmt.Sprint(a) == fmt.Sprint(b)
}

// count has n bytes, each another one than those beside it.
func count(n int) []byte {
	b := make([]byte, n)
	for i := range b {
		b[i] = byte(i*7 + i>>8 + 1)
	}
	return b
}

// of makes a frame.
func of(kind, flags, stream int, body ...byte) frame.Frame {
	return frame.Frame{Kind: kind, Flags: flags, Stream: stream, Body: body}
}

// told is a frame for messages, its body only by its beginning.
func told(f frame.Frame) string {
	return fmt.Sprintf("{%d %d %d %x.. of %d}", f.Kind, f.Flags, f.Stream, f.Body[:min(len(f.Body), 24)], len(f.Body))
}

// amidst is b with other bytes ahead of it and in the memory behind it.
func amidst(b []byte) (here, whole []byte) {
	whole = slices.Concat([]byte("ahead"), b, []byte("behind, and more"))
	return whole[5 : 5+len(b)], whole
}

// reads: Read of f says want and x; f's body, and what is beside it in its
// memory, is as it was.
func reads(t *testing.T, f frame.Frame, want Part, x api.Fault) {
	t.Helper()
	if x.Bad && !same(want, Part{}) {
		t.Fatalf("a Part beside a fault is asked of %s", told(f))
	}
	here, whole := amidst(f.Body)
	was := bytes.Clone(whole)
	g := f
	g.Body = here
	for _, h := range []frame.Frame{f, g} {
		if p, y := Read(h); y != x || !same(p, want) {
			t.Fatalf("P11.1: Read(%s): %v, %v, not %v, %v", told(h), p, y, want, x)
		}
	}
	if !bytes.Equal(whole, was) {
		t.Fatalf("P11.3: Read(%s) changed the body's memory", told(f))
	}
}

// says: f has no fault, and says want.
func says(t *testing.T, f frame.Frame, want Part) {
	t.Helper()
	reads(t, f, want, none)
}

// faulty: f's fault is x.
func faulty(t *testing.T, f frame.Frame, x api.Fault) {
	t.Helper()
	reads(t, f, Part{}, x)
}

// check is one line of the chapter: whether f is wrong so, and the fault then.
type check struct {
	wrong func(f frame.Frame) bool
	fault api.Fault
}

func has(f frame.Frame, flag int) bool {
	return f.Flags/flag%2 != 0
}

func of0(f frame.Frame) bool {
	return f.Stream == 0
}

func notOf0(f frame.Frame) bool {
	return !of0(f)
}

func notLong(n int) func(f frame.Frame) bool {
	return func(f frame.Frame) bool { return len(f.Body) != n }
}

// cut is how many bytes stand ahead of the data, and how many behind it.
func cut(f frame.Frame) (ahead, pad int) {
	if has(f, 8) {
		ahead, pad = 1, int(f.Body[0])
	}
	if f.Kind == 1 && has(f, 32) {
		ahead += 5
	}
	return ahead, pad
}

// lines are the chapter's, in its order.
func lines(kind int) []check {
	switch kind {
	case 0, 1:
		return []check{
			{of0, conn(1)},
			{func(f frame.Frame) bool { return has(f, 8) && len(f.Body) == 0 }, conn(6)},
			{func(f frame.Frame) bool { ahead, _ := cut(f); return len(f.Body) < ahead }, conn(6)},
			{func(f frame.Frame) bool { ahead, pad := cut(f); return len(f.Body) < ahead+pad }, conn(1)},
		}
	case 2:
		return []check{{of0, conn(1)}, {notLong(5), stream(6)}}
	case 3:
		return []check{{of0, conn(1)}, {notLong(4), conn(6)}}
	case 4:
		return []check{
			{notOf0, conn(1)},
			{func(f frame.Frame) bool { return has(f, 1) && len(f.Body) != 0 }, conn(6)},
			{func(f frame.Frame) bool { return len(f.Body)%6 != 0 }, conn(6)},
		}
	case 5:
		return []check{{func(frame.Frame) bool { return true }, conn(1)}}
	case 6:
		return []check{{notOf0, conn(1)}, {notLong(8), conn(6)}}
	case 7:
		return []check{{notOf0, conn(1)}, {func(f frame.Frame) bool { return len(f.Body) < 8 }, conn(6)}}
	case 8:
		noStep := func(f frame.Frame) bool { return uint32At(f.Body, 0)%(1<<31) == 0 }
		return []check{
			{notLong(4), conn(6)},
			{func(f frame.Frame) bool { return noStep(f) && of0(f) }, conn(1)},
			{noStep, stream(1)},
		}
	case 9:
		return []check{{of0, conn(1)}}
	}
	return nil
}

func uint32At(b []byte, at int) int {
	return int(binary.BigEndian.Uint32(b[at:]))
}

// plain is Read by the chapter's lines.
func plain(f frame.Frame) (Part, api.Fault) {
	for _, c := range lines(f.Kind) {
		if c.wrong(f) {
			return Part{}, c.fault
		}
	}
	return meaning(f), none
}

// meaning is what a frame without a fault says.
func meaning(f frame.Frame) Part {
	b := f.Body
	switch f.Kind {
	case 0, 1:
		ahead, pad := cut(f)
		p := Part{Data: b[ahead : len(b)-pad], End: has(f, 1), Whole: f.Kind == 1 && has(f, 4)}
		if has(f, 8) {
			p.Pad = pad + 1
		}
		return p
	case 3:
		return Part{Code: uint32At(b, 0)}
	case 4:
		p := Part{Ack: has(f, 1)}
		for s := range slices.Chunk(b, 6) {
			p.Sets = append(p.Sets, Set{ID: int(binary.BigEndian.Uint16(s)), Value: uint32At(s, 2)})
		}
		return p
	case 6:
		return Part{Data: b, Ack: has(f, 1)}
	case 7:
		return Part{Last: uint32At(b, 0) % (1 << 31), Code: uint32At(b, 4)}
	case 8:
		return Part{Step: uint32At(b, 0) % (1 << 31)}
	case 9:
		return Part{Data: b, Whole: has(f, 4)}
	}
	return Part{}
}

// TestExample is the chapter's own, and others byte by byte.
func TestExample(t *testing.T) {
	faulty(t, Update(0, 0), conn(api.Protocol))
	faulty(t, Update(1, 0), stream(api.Protocol))
	says(t, of(frame.Data, frame.Padded|frame.End, 1, 2, 'a', 'b', 0, 0), Part{Data: []byte("ab"), Pad: 3, End: true})
	says(t, of(frame.Headers, frame.Padded|frame.Prior|frame.Whole, 1, 1, 0, 0, 0, 3, 15, 0x82, 0), Part{Data: []byte{0x82}, Pad: 2, Whole: true})
	says(t, of(frame.Priority, 0, 1, 0, 0, 0, 3, 15), Part{})
	says(t, of(frame.Rst, 0, 1, 1, 2, 3, 4), Part{Code: 0x01020304})
	says(t, of(frame.Settings, 0, 0, 0, 4, 0, 1, 0, 0), Part{Sets: []Set{{ID: 4, Value: 65536}}})
	says(t, of(frame.Settings, frame.Ack, 0), Part{Ack: true})
	faulty(t, of(frame.Push, frame.Whole, 1, 0, 0, 0, 2), conn(api.Protocol))
	says(t, of(frame.Ping, frame.Ack, 0, 1, 2, 3, 4, 5, 6, 7, 8), Part{Data: []byte{1, 2, 3, 4, 5, 6, 7, 8}, Ack: true})
	says(t, of(frame.Goaway, 0, 0, 0, 0, 0, 7, 0, 0, 0, 11, 'd'), Part{Last: 7, Code: 11})
	says(t, of(frame.Update, 0, 0, 0, 0, 1, 2), Part{Step: 258})
	says(t, of(frame.Cont, frame.Whole, 1, 0x82), Part{Data: []byte{0x82}, Whole: true})
	says(t, of(10, 255, 0, 1, 2, 3), Part{})
}

// TestEachWay: each kind, on streams of all sorts, with each flags, with bodies
// of every length up to well beyond what is asked, is read as the chapter's
// lines say.
func TestEachWay(t *testing.T) {
	for _, kind := range kinds {
		for _, id := range append(noStreams, streams...) {
			for _, flags := range allFlags {
				for n := range 30 {
					for _, b := range [][]byte{make([]byte, n), bytes.Repeat([]byte{255}, n), count(n), append([]byte{3}, count(n)...), append([]byte{128}, make([]byte, n)...)} {
						f := of(kind, flags, id, b...)
						p, x := Read(f)
						if want, y := plain(f); x != y || !same(p, want) {
							t.Fatalf("P11.1: Read(%s): %v, %v, not %v, %v", told(f), p, x, want, y)
						}
					}
				}
			}
		}
	}
}

// TestEachFlags: what is no flag of a kind's says nothing there.
func TestEachFlags(t *testing.T) {
	for kind := range 12 {
		for flags := range 256 {
			for _, id := range []int{0, 1} {
				for _, n := range []int{0, 1, 4, 5, 6, 8, 9, 12, 40} {
					f := of(kind, flags, id, count(n)...)
					want, x := plain(f)
					reads(t, f, want, x)
				}
			}
		}
	}
}

// TestAnything: frames without any plan.
func TestAnything(t *testing.T) {
	r := rand.New(rand.NewSource(11))
	ends := map[string]int{}
	for range 200000 {
		f := of(r.Intn(11), r.Intn(256), r.Intn(3), make([]byte, r.Intn(20))...)
		r.Read(f.Body)
		if r.Intn(2) == 0 && len(f.Body) > 0 {
			f.Body[0] = byte(r.Intn(len(f.Body) + 1))
		}
		want, x := plain(f)
		if p, y := Read(f); y != x || !same(p, want) {
			t.Fatalf("P11.1: Read(%s): %v, %v, not %v, %v", told(f), p, y, want, x)
		}
		ends[fmt.Sprint(f.Kind, x)]++
	}
	if len(ends) < 25 {
		t.Errorf("only %d ends were met: %v", len(ends), ends)
	}
}

// TestFlagsOfNoByte are looked at by their bits.
func TestFlagsOfNoByte(t *testing.T) {
	for _, above := range []int{256, 1 << 20, 1 << 40, -256, math.MinInt} {
		says(t, of(frame.Data, above, 1, 5, 6), Part{Data: []byte{5, 6}})
		says(t, of(frame.Data, above|frame.Padded|frame.End, 1, 1, 5, 6), Part{Data: []byte{5}, Pad: 2, End: true})
		says(t, of(frame.Headers, above|frame.Prior|frame.Whole, 1, 1, 2, 3, 4, 5, 6), Part{Data: []byte{6}, Whole: true})
		says(t, of(frame.Settings, above|frame.Ack, 0), Part{Ack: true})
		says(t, of(frame.Cont, above, 1), Part{})
	}
	says(t, of(frame.Headers, -1, 1, 1, 1, 2, 3, 4, 5, 6, 0), Part{Data: []byte{6}, Pad: 2, End: true, Whole: true})
}

// TestStreams: which kinds must be of one, which of none, and which of either.
func TestStreams(t *testing.T) {
	for _, f := range []frame.Frame{
		of(frame.Data, 0, 0), of(frame.Headers, 0, 0), of(frame.Priority, 0, 0, count(5)...),
		of(frame.Rst, 0, 0, count(4)...), of(frame.Cont, 0, 0),
	} {
		faulty(t, f, conn(api.Protocol))
		for _, id := range append(noStreams, streams[1:]...) {
			f.Stream = id
			reads(t, f, meaning(f), none)
		}
	}
	for _, f := range []frame.Frame{
		of(frame.Settings, 0, 0, count(6)...), of(frame.Settings, frame.Ack, 0),
		of(frame.Ping, 0, 0, count(8)...), of(frame.Goaway, 0, 0, count(8)...),
	} {
		reads(t, f, meaning(f), none)
		for _, id := range append(noStreams, streams[1:]...) {
			f.Stream = id
			faulty(t, f, conn(api.Protocol))
		}
	}
	for _, id := range append(noStreams, streams...) {
		says(t, of(frame.Update, 0, id, 0, 0, 0, 9), Part{Step: 9})
		says(t, of(10, 0, id, 1), Part{})
		faulty(t, of(frame.Push, 0, id, 0, 0, 0, 2), conn(api.Protocol))
	}
}

// TestWrongInTwoWays: the first in the chapter's order is told. A body that is
// of no length that is asked, on a stream where the kind may not be, is wrong
// for its stream.
func TestWrongInTwoWays(t *testing.T) {
	for _, b := range [][]byte{nil, {1}, {0, 0, 0}, {9, 1}, {255, 0, 0, 0, 0, 0, 0}} {
		for _, kind := range []int{frame.Data, frame.Headers, frame.Priority, frame.Rst, frame.Cont} {
			for _, flags := range []int{frame.Padded, frame.Prior, frame.Padded | frame.Prior, 255} {
				faulty(t, of(kind, flags, 0, b...), conn(api.Protocol))
			}
		}
		for _, kind := range []int{frame.Settings, frame.Ping, frame.Goaway} {
			for _, flags := range []int{0, frame.Ack, 255} {
				faulty(t, of(kind, flags, 1, b...), conn(api.Protocol))
			}
		}
	}
	// The five bytes are not there, and the pad is longer than what is left.
	for n := range 5 {
		b := append([]byte{200}, count(n)...)
		faulty(t, of(frame.Headers, frame.Padded|frame.Prior, 1, b...), conn(api.FrameSize))
	}
	// An Ack with a body that is no six either.
	faulty(t, of(frame.Settings, frame.Ack, 0, count(5)...), conn(api.FrameSize))
	// A step of 0 would be there, but too short or too long.
	for _, id := range []int{0, 1} {
		for _, n := range []int{0, 1, 2, 3, 5, 6, 8} {
			faulty(t, of(frame.Update, 0, id, make([]byte, n)...), conn(api.FrameSize))
		}
	}
}

// TestPads: of every length, ahead of every number of bytes.
func TestPads(t *testing.T) {
	for _, kind := range []int{frame.Data, frame.Headers} {
		faulty(t, of(kind, frame.Padded, 1), conn(api.FrameSize))
		for left := range 300 {
			b := count(left)
			for pad := range 256 {
				f := of(kind, frame.Padded, 1, append([]byte{byte(pad)}, b...)...)
				p, x := Read(f)
				if pad > left && (x != conn(api.Protocol) || !same(p, Part{})) {
					t.Fatalf("P11.1: a pad of %d, %d left: %v, %v", pad, left, p, x)
				}
				if pad <= left && (x != none || !same(p, Part{Data: b[:left-pad], Pad: pad + 1})) {
					t.Fatalf("P11.1: a pad of %d, %d left: %v, %v", pad, left, p, x)
				}
			}
		}
	}
	// Bytes of padding may be anything.
	says(t, of(frame.Data, frame.Padded, 1, 2, 7, 8, 9), Part{Data: []byte{7}, Pad: 3})
	// A pad reaches up to the five bytes, and not into them.
	five := []byte{128, 0, 0, 3, 255}
	for left := range 20 {
		for pad := range 30 {
			f := of(frame.Headers, frame.Padded|frame.Prior, 1, slices.Concat([]byte{byte(pad)}, five, count(left))...)
			if pad > left {
				faulty(t, f, conn(api.Protocol))
			} else {
				says(t, f, Part{Data: count(left)[:left-pad], Pad: pad + 1})
			}
		}
	}
}

// TestPrior: five bytes are left out of Headers, and of nothing else.
func TestPrior(t *testing.T) {
	for n := range 20 {
		b := count(n)
		f := of(frame.Headers, frame.Prior|frame.End, 1, b...)
		g := of(frame.Headers, frame.Prior|frame.Padded, 1, append([]byte{0}, b...)...)
		if n < 5 {
			faulty(t, f, conn(api.FrameSize))
			faulty(t, g, conn(api.FrameSize))
		} else {
			says(t, f, Part{Data: b[5:], End: true})
			says(t, g, Part{Data: b[5:], Pad: 1})
		}
		says(t, of(frame.Data, frame.Prior, 1, b...), Part{Data: b})
		says(t, of(frame.Data, frame.Prior|frame.Padded, 1, append([]byte{0}, b...)...), Part{Data: b, Pad: 1})
		says(t, of(frame.Cont, frame.Prior|frame.Padded, 1, b...), Part{Data: b})
	}
	faulty(t, of(frame.Headers, frame.Prior|frame.Padded, 1), conn(api.FrameSize))
	faulty(t, of(frame.Headers, frame.Prior|frame.Padded, 1, count(5)...), conn(api.FrameSize))
}

// TestPaddedElsewhere says nothing: 255 would be a pad that is too long.
func TestPaddedElsewhere(t *testing.T) {
	flags := frame.Padded | frame.Prior
	says(t, of(frame.Priority, flags, 1, 255, 0, 0, 0, 1), Part{})
	says(t, of(frame.Rst, flags, 1, 255, 0, 0, 1), Part{Code: 0xff000001})
	says(t, of(frame.Settings, flags, 0, 255, 1, 0, 0, 0, 2), Part{Sets: []Set{{0xff01, 2}}})
	says(t, of(frame.Settings, flags, 0), Part{})
	says(t, of(frame.Ping, flags, 0, 255, 0, 0, 0, 0, 0, 0, 1), Part{Data: []byte{255, 0, 0, 0, 0, 0, 0, 1}})
	says(t, of(frame.Goaway, flags, 0, 255, 0, 0, 0, 0, 0, 0, 1), Part{Last: 0x7f000000, Code: 1})
	says(t, of(frame.Update, flags, 1, 255, 0, 0, 0), Part{Step: 0x7f000000})
	says(t, of(frame.Cont, flags, 1, 255), Part{Data: []byte{255}})
	says(t, of(10, flags, 1), Part{})
}

// TestFlagsTold: End of Data and Headers, Whole of Headers and Cont, Ack of
// Settings and Ping, and of nothing else.
func TestFlagsTold(t *testing.T) {
	for _, c := range []struct {
		kind, stream, n, flag int
		want                  Part
	}{
		{frame.Data, 1, 0, frame.End, Part{End: true}},
		{frame.Data, 1, 0, frame.Whole, Part{}},
		{frame.Headers, 1, 0, frame.End, Part{End: true}},
		{frame.Headers, 1, 0, frame.Whole, Part{Whole: true}},
		{frame.Headers, 1, 0, frame.Whole | frame.End, Part{Whole: true, End: true}},
		{frame.Priority, 1, 5, 255, Part{}},
		{frame.Rst, 1, 4, 255, Part{}},
		{frame.Settings, 0, 0, frame.Ack, Part{Ack: true}},
		{frame.Settings, 0, 0, 255, Part{Ack: true}},
		{frame.Settings, 0, 0, 254, Part{}},
		{frame.Settings, 0, 6, 254, Part{Sets: []Set{{}}}},
		{frame.Ping, 0, 8, frame.Ack, Part{Data: make([]byte, 8), Ack: true}},
		{frame.Ping, 0, 8, 254, Part{Data: make([]byte, 8)}},
		{frame.Goaway, 0, 8, 255, Part{}},
		{frame.Cont, 1, 0, frame.Whole, Part{Whole: true}},
		{frame.Cont, 1, 0, frame.End, Part{}},
		{frame.Cont, 1, 0, 255, Part{Whole: true}},
	} {
		says(t, of(c.kind, c.flag, c.stream, make([]byte, c.n)...), c.want)
	}
	says(t, of(frame.Update, 255, 1, 0, 0, 0, 1), Part{Step: 1})
}

// TestLengths: bodies of every length, of the kinds that ask for one.
func TestLengths(t *testing.T) {
	for n := range 100 {
		b := count(n)
		for _, c := range []struct {
			f    frame.Frame
			good bool
			x    api.Fault
		}{
			{of(frame.Priority, 0, 1, b...), n == 5, stream(api.FrameSize)},
			{of(frame.Rst, 0, 1, b...), n == 4, conn(api.FrameSize)},
			{of(frame.Settings, 0, 0, b...), n%6 == 0, conn(api.FrameSize)},
			{of(frame.Settings, frame.Ack, 0, b...), n == 0, conn(api.FrameSize)},
			{of(frame.Ping, 0, 0, b...), n == 8, conn(api.FrameSize)},
			{of(frame.Ping, frame.Ack, 0, b...), n == 8, conn(api.FrameSize)},
			{of(frame.Goaway, 0, 0, b...), n >= 8, conn(api.FrameSize)},
			{of(frame.Update, 0, 0, b...), n == 4, conn(api.FrameSize)},
			{of(frame.Update, 0, 1, b...), n == 4, conn(api.FrameSize)},
			{of(frame.Push, 0, 1, b...), false, conn(api.Protocol)},
			{of(frame.Data, 0, 1, b...), true, none},
			{of(frame.Headers, 0, 1, b...), true, none},
			{of(frame.Cont, 0, 1, b...), true, none},
			{of(10, 0, 1, b...), true, none},
		} {
			if c.good {
				says(t, c.f, meaning(c.f))
			} else {
				faulty(t, c.f, c.x)
			}
		}
	}
}

// TestLongBodies are read whole, up to the longest that a frame has.
func TestLongBodies(t *testing.T) {
	b := count(1<<24 - 1)
	for _, n := range []int{api.FrameRoom - 1, api.FrameRoom, api.FrameRoom + 1, 1<<24 - 1} {
		says(t, of(frame.Data, frame.End, 1, b[:n]...), Part{Data: b[:n], End: true})
		says(t, of(frame.Headers, 0, 1, b[:n]...), Part{Data: b[:n]})
		says(t, of(frame.Cont, 0, 1, b[:n]...), Part{Data: b[:n]})
		says(t, of(frame.Goaway, 0, 0, b[:n]...), Part{Last: 0x01080f16, Code: 0x1d242b32})
		faulty(t, of(frame.Ping, 0, 0, b[:n]...), conn(api.FrameSize))
	}
	f := of(frame.Settings, 0, 0, b[:6*100000]...)
	says(t, f, meaning(f))
	faulty(t, of(frame.Settings, frame.Ack, 0, b[:6*100000]...), conn(api.FrameSize))
}

// TestNumbersRead: each bit of each number has its place.
func TestNumbersRead(t *testing.T) {
	for bit := range 32 {
		n := uint32(1) << bit
		four := binary.BigEndian.AppendUint32(nil, n)
		low := int(n) % (1 << 31)
		says(t, of(frame.Rst, 0, 1, four...), Part{Code: int(n)})
		says(t, of(frame.Settings, 0, 0, append([]byte{0, 0}, four...)...), Part{Sets: []Set{{0, int(n)}}})
		says(t, of(frame.Goaway, 0, 0, append(bytes.Clone(four), 0, 0, 0, 0)...), Part{Last: low})
		says(t, of(frame.Goaway, 0, 0, append([]byte{0, 0, 0, 0}, four...)...), Part{Code: int(n)})
		if low > 0 {
			says(t, of(frame.Update, 0, 0, four...), Part{Step: low})
			says(t, of(frame.Update, 0, 1, four...), Part{Step: low})
		}
		if bit < 16 {
			says(t, of(frame.Settings, 0, 0, byte(n>>8), byte(n), 0, 0, 0, 0), Part{Sets: []Set{{int(n), 0}}})
		}
	}
	// The greatest bit of Last is left out, whatever the others are.
	says(t, of(frame.Goaway, 0, 0, 128, 0, 0, 0, 128, 0, 0, 0), Part{Code: 1 << 31})
	says(t, of(frame.Goaway, 0, 0, 255, 255, 255, 255, 255, 255, 255, 255), Part{Last: 1<<31 - 1, Code: 1<<32 - 1})
	says(t, of(frame.Goaway, 0, 0, 127, 255, 255, 255, 0, 0, 0, 0, 9), Part{Last: 1<<31 - 1})
	// So it is of a step: with nothing else it is one of 0.
	faulty(t, of(frame.Update, 0, 0, 128, 0, 0, 0), conn(api.Protocol))
	for _, id := range append(noStreams, streams[1:]...) {
		faulty(t, of(frame.Update, 0, id, 128, 0, 0, 0), stream(api.Protocol))
		faulty(t, of(frame.Update, 255, id, 0, 0, 0, 0), stream(api.Protocol))
	}
	says(t, of(frame.Update, 0, 0, 128, 0, 0, 1), Part{Step: 1})
}

// TestSettingsRead keeps the order, and what is there twice.
func TestSettingsRead(t *testing.T) {
	says(t, of(frame.Settings, 0, 0), Part{})
	says(t, of(frame.Settings, 0, 0,
		0, 3, 0, 0, 0, 100,
		0, 1, 0, 0, 0, 0,
		0, 3, 0, 0, 0, 99,
		255, 255, 255, 255, 255, 255,
		1, 2, 3, 4, 5, 6), Part{Sets: []Set{{3, 100}, {1, 0}, {3, 99}, {65535, 1<<32 - 1}, {258, 0x03040506}}})
}

// made: f is of this kind, these flags and this stream, and its body is as the
// digits say.
func made(t *testing.T, what string, f frame.Frame, kind, flags, id int, digits string) {
	t.Helper()
	got := fmt.Sprintf("%x", f.Body)
	if f.Kind != kind || f.Flags != flags || f.Stream != id || got != digits {
		t.Fatalf("P11.2: %s: %d %d %d %s, not %d %d %d %s", what, f.Kind, f.Flags, f.Stream, got, kind, flags, id, digits)
	}
}

// low is n's lowest bits in digits: what is left of it by a power of two.
func low(n, bits int) string {
	return fmt.Sprintf("%0*x", (bits+3)/4, uint64(n)%(1<<bits))
}

func TestLow(t *testing.T) {
	for _, c := range []struct {
		n, bits int
		want    string
	}{
		{0x12345, 16, "2345"}, {-1, 16, "ffff"}, {-1, 31, "7fffffff"}, {1 << 31, 31, "00000000"}, {-2, 32, "fffffffe"}, {1<<32 + 5, 32, "00000005"},
	} {
		if got := low(c.n, c.bits); got != c.want {
			t.Errorf("low(%d, %d): %s", c.n, c.bits, got)
		}
	}
}

// TestMadeOfNumbers: of each number only its lowest bits are told, and the
// stream is the one that was handed in.
func TestMadeOfNumbers(t *testing.T) {
	for _, n := range numbers() {
		made(t, fmt.Sprint("Update of ", n), Update(3, n), frame.Update, 0, 3, low(n, 31))
		made(t, fmt.Sprint("Rst of ", n), Rst(3, n), frame.Rst, 0, 3, low(n, 32))
		made(t, fmt.Sprint("Settings of ID ", n), Settings([]Set{{n, 7}}, false), frame.Settings, 0, 0, low(n, 16)+"00000007")
		made(t, fmt.Sprint("Settings of Value ", n), Settings([]Set{{7, n}}, false), frame.Settings, 0, 0, "0007"+low(n, 32))
		for _, m := range numbers() {
			made(t, fmt.Sprint("Goaway of ", n, m), Goaway(n, m), frame.Goaway, 0, 0, low(n, 31)+low(m, 32))
		}
	}
	for _, id := range append(noStreams, streams...) {
		made(t, "Update", Update(id, 0x01020304), frame.Update, 0, id, "01020304")
		made(t, "Rst", Rst(id, 0x01020304), frame.Rst, 0, id, "01020304")
	}
}

// TestMade has some frames byte by byte.
func TestMade(t *testing.T) {
	made(t, "Update(0, 0)", Update(0, 0), 8, 0, 0, "00000000")
	made(t, "Update(1, 65535)", Update(1, 65535), 8, 0, 1, "0000ffff")
	made(t, "Update(0, MaxWindow)", Update(0, api.MaxWindow), 8, 0, 0, "7fffffff")
	made(t, "Update(0, -1)", Update(0, -1), 8, 0, 0, "7fffffff")
	made(t, "Update(0, 2^31)", Update(0, 1<<31), 8, 0, 0, "00000000")
	made(t, "Rst(1, Cancel)", Rst(1, api.Cancel), 3, 0, 1, "00000008")
	made(t, "Rst(1, -1)", Rst(1, -1), 3, 0, 1, "ffffffff")
	made(t, "Goaway(5, EnhanceCalm)", Goaway(5, api.EnhanceCalm), 7, 0, 0, "000000050000000b")
	made(t, "Goaway(-1, -1)", Goaway(-1, -1), 7, 0, 0, "7fffffffffffffff")
	made(t, "Settings of none", Settings(nil, false), 4, 0, 0, "")
	made(t, "Settings of an empty list", Settings([]Set{}, false), 4, 0, 0, "")
	made(t, "an Ack", Settings(nil, true), 4, 1, 0, "")
	made(t, "an Ack", Settings([]Set{}, true), 4, 1, 0, "")
	made(t, "Settings of an Ack and a list", Settings([]Set{{1, 2}}, true), 4, 1, 0, "000100000002")
	made(t, "Settings of three", Settings([]Set{{3, 100}, {6, 16384}, {3, 99}}, false), 4, 0, 0, "000300000064"+"000600004000"+"000300000063")
	made(t, "Settings beyond all bits", Settings([]Set{{-1, -1}, {65536 + 4, 1<<32 + 5}, {-65536, -1 << 32}}, false), 4, 0, 0, "ffffffffffff"+"000400000005"+"000000000000")
}

func TestMadeOfManySettings(t *testing.T) {
	var l []Set
	var want []byte
	for i := range 3000 {
		l = append(l, Set{ID: i * 31, Value: i * 0x00abcdef})
		want = binary.BigEndian.AppendUint16(want, uint16(i*31))
		want = binary.BigEndian.AppendUint32(want, uint32(i*0x00abcdef))
		f := Settings(l, false)
		if f.Kind != 4 || f.Flags != 0 || f.Stream != 0 || !bytes.Equal(f.Body, want) {
			t.Fatalf("P11.2: Settings of %d: %s", i+1, told(f))
		}
	}
}

// TestMadePing: the first eight bytes, with 0 behind fewer, whatever lies
// behind these in memory.
func TestMadePing(t *testing.T) {
	made(t, "Ping(nil)", Ping(nil, false), 6, 0, 0, "0000000000000000")
	made(t, "Ping(nil)", Ping(nil, true), 6, 1, 0, "0000000000000000")
	made(t, "Ping of none", Ping([]byte{}, false), 6, 0, 0, "0000000000000000")
	made(t, "Ping of eight", Ping([]byte("12345678"), false), 6, 0, 0, "3132333435363738")
	b := count(100)
	for n := range len(b) {
		want := make([]byte, 8)
		for i := range min(n, 8) {
			want[i] = b[i]
		}
		made(t, fmt.Sprint("Ping of ", n), Ping(b[:n], false), 6, 0, 0, fmt.Sprintf("%x", want))
		made(t, fmt.Sprint("Ping of ", n), Ping(b[:n], true), 6, 1, 0, fmt.Sprintf("%x", want))
		says(t, Ping(b[:n], true), Part{Data: want, Ack: true})
	}
	if !bytes.Equal(b, count(100)) {
		t.Errorf("P11.3: Ping changed what was handed in")
	}
}

// good has a frame of each kind, with as much in it as may be.
func good() []frame.Frame {
	return []frame.Frame{
		of(frame.Data, frame.Padded, 1, slices.Concat([]byte{2}, count(20))...),
		of(frame.Data, 0, 1, count(20)...),
		of(frame.Headers, frame.Padded|frame.Prior, 1, slices.Concat([]byte{2}, count(20))...),
		of(frame.Headers, 0, 1, count(20)...),
		of(frame.Priority, 0, 1, count(5)...),
		of(frame.Rst, 0, 1, count(4)...),
		of(frame.Settings, 0, 0, count(18)...),
		of(frame.Ping, 0, 0, count(8)...),
		of(frame.Goaway, 0, 0, count(12)...),
		of(frame.Update, 0, 0, count(4)...),
		of(frame.Cont, 0, 1, count(20)...),
		of(11, 0, 1, count(20)...),
	}
}

// spoil writes into all that a Part has, and into the room behind it.
func spoil(p Part) {
	d := p.Data[:cap(p.Data)]
	for i := range d {
		d[i] ^= 0x5a
	}
	l := p.Sets[:cap(p.Sets)]
	for i := range l {
		l[i] = Set{-7, -7}
	}
}

// TestReadIsNotKept: what is done to the body, or to an answer, changes no
// answer.
func TestReadIsNotKept(t *testing.T) {
	for _, f := range good() {
		_, whole := amidst(f.Body)
		was := bytes.Clone(whole)
		f.Body = whole[5 : 5+len(f.Body)]
		want, _ := plain(frame.Frame{Kind: f.Kind, Flags: f.Flags, Stream: f.Stream, Body: was[5 : 5+len(f.Body)]})
		first, _ := Read(f)
		second, _ := Read(f)
		spoil(first)
		if !bytes.Equal(whole, was) {
			t.Errorf("P11.3: Read(%s) answers the body's own memory", told(f))
		}
		if !same(second, want) {
			t.Errorf("P11.3: two answers of Read(%s) share memory", told(f))
		}
		for i := range whole {
			whole[i] ^= 0xa5
		}
		if !same(second, want) {
			t.Errorf("P11.3: an answer of Read(%s) keeps the body", told(f))
		}
		copy(whole, was)
		if third, x := Read(f); x != none || !same(third, want) {
			t.Errorf("P11.3: Read(%s) anew: %v, %v", told(f), third, x)
		}
	}
}

// spoilBody writes into a frame's body, and into the room behind it.
func spoilBody(f frame.Frame) {
	b := f.Body[:cap(f.Body)]
	for i := range b {
		b[i] ^= 0x5a
	}
}

// TestMadeIsNew: what is done to a frame changes no other one.
func TestMadeIsNew(t *testing.T) {
	l := []Set{{1, 2}, {-1, -1}, {1 << 20, 1 << 40}}
	was := slices.Clone(l)
	b := []byte("12345678")
	for i, one := range []func() frame.Frame{
		func() frame.Frame { return Settings(l, false) },
		func() frame.Frame { return Settings(l, true) },
		func() frame.Frame { return Settings(nil, false) },
		func() frame.Frame { return Settings(nil, true) },
		func() frame.Frame { return Update(1, 2) },
		func() frame.Frame { return Rst(1, 2) },
		func() frame.Frame { return Goaway(1, 2) },
		func() frame.Frame { return Ping(b, false) },
		func() frame.Frame { return Ping(b, true) },
		func() frame.Frame { return Ping(nil, true) },
		func() frame.Frame { return Ping(b[:3], true) },
	} {
		first, second := one(), one()
		want := bytes.Clone(second.Body)
		spoilBody(first)
		if !bytes.Equal(second.Body, want) || !bytes.Equal(one().Body, want) {
			t.Errorf("P11.3: case %d: frames share memory", i)
		}
		if string(b) != "12345678" || !slices.Equal(l, was) {
			t.Fatalf("P11.3: case %d: what was handed in has changed", i)
		}
	}
}

// TestMadeIsNotKept: what is done to what was handed in changes no frame.
func TestMadeIsNotKept(t *testing.T) {
	l := []Set{{1, 2}, {3, 4}, {5, 6}}
	f := Settings(l[:2], false)
	b := []byte("1234567890")
	g := Ping(b[:8], false)
	if !slices.Equal(l, []Set{{1, 2}, {3, 4}, {5, 6}}) || string(b) != "1234567890" {
		t.Fatalf("P11.3: %v, %s", l, b)
	}
	for i := range l {
		l[i] = Set{9, 9}
	}
	for i := range b {
		b[i] = 'x'
	}
	made(t, "Settings", f, 4, 0, 0, "000100000002"+"000300000004")
	made(t, "Ping", g, 6, 0, 0, "3132333435363738")
	made(t, "Settings anew", Settings(l[:1], false), 4, 0, 0, "000900000009")
	made(t, "Ping anew", Ping(b[:1], false), 6, 0, 0, "7800000000000000")
}

// TestMadeAndRead: what these make has no fault, and tells what was handed in;
// so it does behind frame's Put and Next.
func TestMadeAndRead(t *testing.T) {
	p := frame.New(api.FrameRoom)
	through := func(f frame.Frame, want Part, x api.Fault) {
		t.Helper()
		reads(t, f, want, x)
		b, e := frame.Put(f)
		if e != api.OK {
			t.Fatalf("P11.4: Put(%s): %d", told(f), e)
		}
		p.Feed(b)
		g, e := p.Next()
		if e != api.OK || !frame.Same(f, g) {
			t.Fatalf("P11.4: Next: %s, %d, not %s", told(g), e, told(f))
		}
		reads(t, g, want, x)
	}
	for _, n := range []int{0, 1, 2, 11, 255, 256, 65535, 65536, 1<<24 - 1, 1 << 24, 1<<31 - 2, 1<<31 - 1, 1 << 31, 1<<32 - 1} {
		for _, id := range streams[1:] {
			through(Rst(id, n), Part{Code: n}, none)
		}
		through(Settings([]Set{{n % 65536, n}, {0, n}, {65535, n / 2}}, false), Part{Sets: []Set{{n % 65536, n}, {0, n}, {65535, n / 2}}}, none)
		for _, last := range streams {
			through(Goaway(last, n), Part{Last: last, Code: n}, none)
		}
		if n > 0 && n < 1<<31 {
			for _, id := range streams {
				through(Update(id, n), Part{Step: n}, none)
			}
		}
	}
	for _, ack := range []bool{false, true} {
		through(Settings(nil, ack), Part{Ack: ack}, none)
		through(Ping([]byte("abcdefgh"), ack), Part{Data: []byte("abcdefgh"), Ack: ack}, none)
	}
	// What may not be is made all the same.
	through(Rst(0, api.Cancel), Part{}, conn(api.Protocol))
	through(Settings([]Set{{1, 2}}, true), Part{}, conn(api.FrameSize))
	through(Update(0, 0), Part{}, conn(api.Protocol))
	through(Update(7, 1<<31), Part{}, stream(api.Protocol))
}
