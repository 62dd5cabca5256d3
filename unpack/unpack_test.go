package unpack

import (
	"bytes"
	"encoding/hex"
	"math"
	"math/rand"
	"slices"
	"strconv"
	"strings"
	"testing"

	"wayleave/api"
	"wayleave/huff"
	"wayleave/pint"
	"wayleave/stat"
)

// ample is room for whatever these blocks hold.
const ample = 1 << 30

// form is a literal's first byte, and how many bits of it are the index's.
type form struct {
	name  string
	first byte
	bits  int
}

var (
	plainly = form{"plain", 0x00, 4}
	nevers  = form{"never", 0x10, 4}
	adding  = form{"added", 0x40, 6}
	forms   = []form{plainly, nevers, adding}
)

// writer is one of the two ways in which a string is written.
type writer func(s string) []byte

var writers = map[string]writer{"as it is": asIs, "Huffman": packed}

func put(first byte, bits, n int) []byte {
	b, e := pint.Put(first, bits, n)
	if e != api.OK {
		panic("no such number: " + strconv.Itoa(n))
	}
	return b
}

func asIs(s string) []byte {
	return append(put(0, 7, len(s)), s...)
}

func packed(s string) []byte {
	return bits(huff.Encode([]byte(s)))
}

// bits are the bytes of a Huffman text, whatever they say.
func bits(b []byte) []byte {
	return append(put(0x80, 7, len(b)), b...)
}

func index(i int) []byte {
	return put(0x80, 7, i)
}

func limit(n int) []byte {
	return put(0x20, 5, n)
}

// literal has its name as a string.
func literal(k form, name, value []byte) []byte {
	return slices.Concat([]byte{k.first}, name, value)
}

// named has its name by an index.
func named(k form, i int, value []byte) []byte {
	return append(put(k.first, k.bits, i), value...)
}

// add is the field as a literal that is added.
func add(f stat.Field) []byte {
	return literal(adding, asIs(f.Name), asIs(f.Value))
}

func field(name, value string) stat.Field {
	return stat.Field{Name: name, Value: value}
}

// sized is a field of size bytes whose name is mark.
func sized(mark string, size int) stat.Field {
	return field(mark, strings.Repeat("v", size-32-len(mark)))
}

// fields makes some: name, value, name, value, ..
func fields(l ...string) []stat.Field {
	var out []stat.Field
	for i := 0; i < len(l); i += 2 {
		out = append(out, field(l[i], l[i+1]))
	}
	return out
}

func unhex(t *testing.T, s string) []byte {
	t.Helper()
	b, err := hex.DecodeString(strings.ReplaceAll(s, " ", ""))
	if err != nil {
		t.Fatal(err)
	}
	return b
}

// short tells a block that may be long.
func short(b []byte) string {
	if len(b) > 40 {
		return hex.EncodeToString(b[:40]) + ".. of " + strconv.Itoa(len(b))
	}
	return hex.EncodeToString(b)
}

// reads asks that the block is these fields, Never and all.
func reads(t *testing.T, d *Dec, b []byte, want ...stat.Field) {
	t.Helper()
	l, e := d.Decode(b, ample)
	if e != api.OK || !slices.Equal(l, want) {
		t.Errorf("P8.1: %s: %v, %d, not %v", short(b), l, e, want)
	}
	if d.Dead() {
		t.Errorf("P8.2: %s: Dead", short(b))
	}
}

// content is the table's fields, the newest first.
func content(d *Dec) []stat.Field {
	var l []stat.Field
	for i := 1; ; i++ {
		f, ok := d.Table().Get(i)
		if !ok {
			return l
		}
		l = append(l, f)
	}
}

// holds asks for what the table has, the newest first.
func holds(t *testing.T, d *Dec, most int, want ...stat.Field) {
	t.Helper()
	x := d.Table()
	if x.Most() != most || x.Len() != len(want) || !slices.Equal(content(d), want) {
		t.Errorf("P8.2: Most %d, %v, not %d, %v", x.Most(), content(d), most, want)
	}
	if x.Size() != stat.Total(want) || x.Size() > x.Most() || x.Most() > api.MaxTable {
		t.Errorf("P8.3: Size %d, Most %d", x.Size(), x.Most())
	}
}

// refuses asks that the block is none: nothing of it stays but that d is Dead,
// and it takes no block any more.
func refuses(t *testing.T, d *Dec, b []byte) {
	t.Helper()
	most, before := d.Table().Most(), content(d)
	if d.Dead() {
		t.Errorf("P8.2: Dead ahead of %s", short(b))
	}
	if l, e := d.Decode(b, ample); len(l) > 0 || e != api.ErrForm {
		t.Errorf("P8.1: %s: %v, %d, not ErrForm", short(b), l, e)
	}
	for _, next := range [][]byte{nil, index(2), add(field("z", "z")), limit(0), b} {
		if !d.Dead() {
			t.Errorf("P8.2: %s: not Dead", short(b))
		}
		for _, room := range []int{ample, 0, -1} {
			if l, e := d.Decode(next, room); len(l) > 0 || e != api.ErrState {
				t.Errorf("P8.1: %s behind %s: %v, %d, not ErrState", short(next), short(b), l, e)
			}
		}
		holds(t, d, most, before...)
	}
}

// after has read the blocks.
func after(t *testing.T, blocks ...[]byte) *Dec {
	t.Helper()
	d := New()
	for _, b := range blocks {
		if _, e := d.Decode(b, ample); e != api.OK {
			t.Fatalf("P8.1: %s: %d", short(b), e)
		}
	}
	return d
}

func TestNew(t *testing.T) {
	d := New()
	holds(t, d, api.MaxTable)
	if d.Dead() {
		t.Error("P8.1: New is Dead")
	}
	other := New()
	reads(t, d, add(field("a", "1")), field("a", "1"))
	holds(t, other, api.MaxTable)
	refuses(t, d, index(0))
	if other.Dead() {
		t.Error("P8.1: Dead of another's block")
	}
}

// TestExample is the chapter's own.
func TestExample(t *testing.T) {
	d := New()
	reads(t, d, []byte{0x82}, field(":method", "GET"))
	holds(t, d, api.MaxTable)
}

func TestEmptyBlock(t *testing.T) {
	a := field("a", "1")
	d := after(t, add(a))
	for _, b := range [][]byte{nil, {}} {
		for _, room := range []int{ample, 1, 0} {
			if l, e := d.Decode(b, room); len(l) > 0 || e != api.OK || d.Dead() {
				t.Errorf("P8.1: nothing, room %d: %v, %d", room, l, e)
			}
		}
	}
	holds(t, d, api.MaxTable, a)
}

// TestAppendixC is RFC 7541's C.6, with a table of 256 bytes; C.2 follows.
func TestAppendixC(t *testing.T) {
	const url = "https://www.example.com"
	d := after(t, limit(256))
	one := field(":status", "302")
	two := field("cache-control", "private")
	three := field("date", "Mon, 21 Oct 2013 20:13:21 GMT")
	four := field("location", url)
	reads(t, d, unhex(t, "4882 6402 5885 aec3 771a 4b61 96d0 7abe 9410 54d4 44a8 2005 9504 0b81 66e0 82a6 2d1b ff6e 919d 29ad 1718 63c7 8f0b 97c8 e9ae 82ae 43d3"), one, two, three, four)
	holds(t, d, 256, four, three, two, one)
	five := field(":status", "307")
	reads(t, d, unhex(t, "4883 640e ffc1 c0bf"), five, two, three, four)
	holds(t, d, 256, five, four, three, two)
	six := field("date", "Mon, 21 Oct 2013 20:13:22 GMT")
	seven := field("content-encoding", "gzip")
	eight := field("set-cookie", "foo=ASDJKHQKBZXOQWEOPIUAXQWEOIU; max-age=3600; version=1")
	reads(t, d, unhex(t, "88c1 6196 d07a be94 1054 d444 a820 0595 040b 8166 e084 a62d 1bff c05a 839b d9ab 77ad 94e7 821d d7f2 e6c7 b335 dfdf cd5b 3960 d5af 2708 7f36 72c1 ab27 0fb5 291f 9587 3160 65c0 03ed 4ee5 b106 3d50 07"),
		field(":status", "200"), two, six, four, seven, eight)
	holds(t, d, 256, eight, seven, six)

	reads(t, New(), unhex(t, "040c 2f73 616d 706c 652f 7061 7468"), field(":path", "/sample/path"))
	reads(t, New(), unhex(t, "1008 7061 7373 776f 7264 0673 6563 7265 74"), stat.Field{Name: "password", Value: "secret", Never: true})
}

func TestIndexStatic(t *testing.T) {
	var all []byte
	var want []stat.Field
	for i := 1; i <= 61; i++ {
		f, _ := stat.Get(i)
		d := New()
		reads(t, d, index(i), f)
		holds(t, d, api.MaxTable)
		all, want = append(all, index(i)...), append(want, f)
	}
	a := field("a", "1")
	d := after(t, add(a))
	reads(t, d, all, want...)
	holds(t, d, api.MaxTable, a)
}

func TestIndexDynamic(t *testing.T) {
	a, b := field("a", "1"), field("b", "2")
	refuses(t, New(), index(62))
	reads(t, after(t, add(a)), index(62), a)
	refuses(t, after(t, add(a)), index(63))
	two := after(t, add(a), add(b))
	reads(t, two, slices.Concat(index(62), index(63), index(62)), b, a, b)
	holds(t, two, api.MaxTable, b, a)
	refuses(t, two, index(64))
	// One that was added ahead in the same block counts already.
	d := New()
	reads(t, d, slices.Concat(add(a), index(62), add(b), index(62), index(63)), a, a, b, b, a)
	holds(t, d, api.MaxTable, b, a)
}

// TestIndexOfAFullTable: indexes of more than one byte, up to the last.
func TestIndexOfAFullTable(t *testing.T) {
	full := bytes.Repeat(add(field("", "")), 128)
	d := after(t, full[:len(full)/2], full[len(full)/2:])
	if d.Table().Len() != 128 {
		t.Fatalf("P8.2: Len %d", d.Table().Len())
	}
	for _, i := range []int{62, 126, 127, 128, 189} {
		reads(t, d, index(i), field("", ""))
	}
	refuses(t, d, index(190))
	l := make([]stat.Field, 100)
	var b []byte
	for i := range l {
		l[i] = field("n"+strconv.Itoa(i), "")
		b = append(b, add(l[i])...)
	}
	d = after(t, b)
	for i, f := range l {
		reads(t, d, index(61+100-i), f)
	}
	refuses(t, d, index(162))
}

func TestIndexOfNothing(t *testing.T) {
	for _, i := range []int{0, 64, 65, 127, 1 << 16, 1<<31 - 2, api.MaxPint} {
		refuses(t, after(t, add(field("a", "1")), add(field("b", "2"))), index(i))
		refuses(t, after(t, add(field("a", "1")), add(field("b", "2"))), slices.Concat(index(62), index(i), index(62)))
	}
}

// stays is what a table has behind the field came in the form k.
func stays(k form, f stat.Field, before ...stat.Field) []stat.Field {
	if k != adding {
		return before
	}
	return append([]stat.Field{field(f.Name, f.Value)}, before...)
}

// TestLiteralNames: each form, each kind of name, each kind of value, and what
// the table has behind it.
func TestLiteralNames(t *testing.T) {
	one, two := field("eins", "1"), field("zwei", "2")
	texts := []string{"", "a", "Custom-Key", "\x00\xff\n", "€", strings.Repeat("long ", 60)}
	names := map[int]string{1: ":authority", 2: ":method", 3: ":method", 14: ":status", 15: "accept-charset", 16: "accept-encoding", 49: "proxy-authorization", 61: "www-authenticate", 62: "zwei", 63: "eins"}
	for _, k := range forms {
		for way, write := range writers {
			for _, value := range texts {
				for i, name := range names {
					f := stat.Field{Name: name, Value: value, Never: k == nevers}
					d := after(t, add(one), add(two))
					reads(t, d, named(k, i, write(value)), f)
					holds(t, d, api.MaxTable, stays(k, f, two, one)...)
				}
				for _, name := range texts {
					for _, other := range writers {
						f := stat.Field{Name: name, Value: value, Never: k == nevers}
						d := after(t, add(one), add(two))
						reads(t, d, literal(k, other(name), write(value)), f)
						holds(t, d, api.MaxTable, stays(k, f, two, one)...)
					}
				}
				if t.Failed() {
					t.Fatalf("%s, a string %s", k.name, way)
				}
			}
		}
	}
}

func TestLiteralNamedByNothing(t *testing.T) {
	for _, k := range forms {
		refuses(t, New(), named(k, 62, asIs("v")))
		refuses(t, after(t, add(field("a", "1"))), named(k, 63, asIs("v")))
		refuses(t, after(t, add(field("a", "1"))), named(k, api.MaxPint, asIs("v")))
		reads(t, after(t, add(field("a", "1"))), named(k, 62, asIs("v")), stat.Field{Name: "a", Value: "v", Never: k == nevers})
	}
}

// TestNever is of the one form alone, and of one field alone.
func TestNever(t *testing.T) {
	secret := stat.Field{Name: "a", Value: "1", Never: true}
	open := field("a", "1")
	d := New()
	reads(t, d, slices.Concat(
		literal(nevers, asIs("a"), asIs("1")), literal(plainly, asIs("a"), asIs("1")),
		literal(nevers, asIs("a"), asIs("1")), literal(adding, asIs("a"), asIs("1")),
		literal(nevers, asIs("a"), asIs("1")), index(62),
		named(nevers, 62, asIs("1")), index(2)),
		secret, open, secret, open, secret, open, secret, field(":method", "GET"))
	holds(t, d, api.MaxTable, open)
}

// TestFirstBytes: what the bits of a first byte leave to the number is the
// number's: all 256 of them, each behind a table of one field.
func TestFirstBytes(t *testing.T) {
	a := field("a", "1")
	tail := slices.Concat(asIs("n"), asIs("v"))
	for first := range 256 {
		c := byte(first)
		d := after(t, add(a))
		switch {
		case first == 0x00 || first == 0x10 || first == 0x40:
			reads(t, d, append([]byte{c}, tail...), stat.Field{Name: "n", Value: "v", Never: first == 0x10})
		case first < 0x20 && first%16 != 15 || first > 0x40 && first <= 0x40+62:
			mask := 0x3f
			if first < 0x20 {
				mask = 0x0f
			}
			name := a.Name
			if i := first & mask; i <= 61 {
				f, _ := stat.Get(i)
				name = f.Name
			}
			reads(t, d, append([]byte{c}, asIs("v")...), stat.Field{Name: name, Value: "v", Never: first >= 0x10 && first < 0x20})
		case first < 0x20:
			reads(t, d, append([]byte{c, 0}, asIs("v")...), stat.Field{Name: "accept-charset", Value: "v", Never: first == 0x1f})
		case first < 0x3f:
			reads(t, d, []byte{c})
			holds(t, d, first-0x20)
		case first == 0x3f:
			reads(t, d, []byte{c, 10})
			holds(t, d, 41, a)
		case first == 0x7f:
			refuses(t, d, append([]byte{c, 0}, asIs("v")...))
		case first == 0x80:
			refuses(t, d, append([]byte{c}, tail...))
		case first > 0x80+62:
			refuses(t, d, []byte{c, 0})
		case first == 0x80+62:
			reads(t, d, []byte{c}, a)
		default:
			f, _ := stat.Get(first - 0x80)
			reads(t, d, []byte{c}, f)
		}
	}
}

func TestLimitOne(t *testing.T) {
	a, b := sized("a", 40), sized("b", 60)
	for _, n := range []int{0, 30, 31, 32, 59, 60, 99, 100, 101, api.MaxTable - 1, api.MaxTable} {
		var left []stat.Field
		if n >= 60 {
			left = append(left, b)
		}
		if n >= 100 {
			left = append(left, a)
		}
		d := after(t, add(a), add(b))
		reads(t, d, limit(n))
		holds(t, d, n, left...)
		// It holds for the fields behind it, and from block to block.
		d = after(t, add(a), add(b))
		reads(t, d, append(limit(n), index(2)...), field(":method", "GET"))
		reads(t, d, nil)
		holds(t, d, n, left...)
	}
	for _, n := range []int{api.MaxTable + 1, api.MaxTable + 2, 1 << 16, api.MaxPint} {
		refuses(t, after(t, add(a), add(b)), limit(n))
		refuses(t, after(t, add(a), add(b)), append(limit(n), limit(100)...))
		refuses(t, after(t, add(a), add(b)), append(limit(40), limit(n)...))
		refuses(t, after(t, add(a), add(b)), append(limit(n), index(2)...))
	}
}

func TestLimitTwo(t *testing.T) {
	a, b := sized("a", 40), sized("b", 60)
	d := after(t, add(a), add(b))
	reads(t, d, slices.Concat(limit(60), limit(api.MaxTable)))
	holds(t, d, api.MaxTable, b)
	reads(t, d, slices.Concat(limit(0), limit(100), add(a), index(62)), a, a)
	holds(t, d, 100, a)
	// The greater one ahead is as good.
	reads(t, d, slices.Concat(limit(200), limit(50), index(62)), a)
	holds(t, d, 50, a)
	reads(t, d, slices.Concat(limit(50), limit(50)))
	holds(t, d, 50, a)
}

func TestLimitThree(t *testing.T) {
	a := field("a", "1")
	for _, b := range [][]byte{
		slices.Concat(limit(100), limit(100), limit(100)),
		slices.Concat(limit(0), limit(api.MaxTable), limit(api.MaxTable)),
		slices.Concat(limit(0), limit(100), limit(200), index(2)),
		slices.Concat(limit(0), limit(0), limit(0), limit(0)),
	} {
		refuses(t, after(t, add(a)), b)
	}
	// Each block has its own two.
	d := after(t, add(a))
	for range 5 {
		reads(t, d, slices.Concat(limit(100), limit(200), index(62)), a)
	}
	holds(t, d, 200, a)
}

func TestLimitBehindAField(t *testing.T) {
	a := field("a", "1")
	heads := [][]byte{index(2), index(62), named(plainly, 1, asIs("")), named(nevers, 1, asIs("")), literal(plainly, asIs(""), asIs("")), add(field("b", ""))}
	for _, head := range heads {
		refuses(t, after(t, add(a)), slices.Concat(head, limit(api.MaxTable)))
		refuses(t, after(t, add(a)), slices.Concat(head, limit(0), index(2)))
		refuses(t, after(t, add(a)), slices.Concat(limit(100), head, limit(100)))
		refuses(t, after(t, add(a)), slices.Concat(limit(100), limit(100), head, limit(100)))
		// It may stand at the next block's beginning.
		d := after(t, add(a), head)
		reads(t, d, limit(0))
		holds(t, d, 0)
	}
}

// TestLimitDrivesOutWhatIsNamed: an index hangs on what is left.
func TestLimitDrivesOutWhatIsNamed(t *testing.T) {
	a, b := sized("a", 40), sized("b", 60)
	reads(t, after(t, add(a), add(b)), slices.Concat(limit(99), index(62)), b)
	refuses(t, after(t, add(a), add(b)), slices.Concat(limit(99), index(63)))
	refuses(t, after(t, add(a), add(b)), slices.Concat(limit(0), limit(api.MaxTable), index(62)))
	for _, k := range forms {
		refuses(t, after(t, add(a), add(b)), slices.Concat(limit(99), named(k, 63, asIs("v"))))
	}
}

func TestAddedDrivesOut(t *testing.T) {
	a, b, c := sized("a", 40), sized("b", 60), sized("c", 50)
	d := after(t, slices.Concat(limit(110), add(a), add(b)))
	reads(t, d, slices.Concat(add(c), index(62), index(63)), c, c, b)
	holds(t, d, 110, c, b)
	refuses(t, d, index(64))
	// Its name may be that of one that it drives out.
	d = after(t, slices.Concat(limit(100), add(a), add(b)))
	reads(t, d, named(adding, 63, asIs("new")), field("a", "new"))
	holds(t, d, 100, field("a", "new"), b)
	// One that is greater than the table is read, and leaves it empty.
	d = after(t, slices.Concat(limit(100), add(a), add(b)))
	great := sized("great", 101)
	reads(t, d, slices.Concat(index(62), add(great)), b, great)
	holds(t, d, 100)
	refuses(t, d, index(62))
	// A literal that is not added drives nothing out.
	d = after(t, slices.Concat(limit(100), add(a), add(b)))
	reads(t, d, literal(plainly, asIs("great"), asIs(great.Value)), great)
	holds(t, d, 100, b, a)
	// Nothing goes into a table of nothing.
	d = after(t, limit(0))
	reads(t, d, add(a), a)
	holds(t, d, 0)
}

// TestCutOff: no beginning of a representation is one.
func TestCutOff(t *testing.T) {
	a := field("a", "1")
	long := strings.Repeat("0", 200)
	whole := [][]byte{limit(200), put(0x20, 5, 31), {0xff, 0x80, 0x00}, {0xff, 0x80, 0x80, 0x80, 0x80, 0x00}, {0x3f, 0x80, 0x80, 0x00}}
	for _, k := range forms {
		for _, write := range writers {
			whole = append(whole, named(k, 61, write("value")), named(k, 62, write("")), named(k, 2, write(long)),
				literal(k, write("name"), asIs("value")), literal(k, write("name"), packed("value")), literal(k, write(""), write("")), literal(k, write(long), write(long)))
		}
	}
	for _, b := range whole {
		for n := 1; n < len(b); n++ {
			refuses(t, after(t, add(a)), b[:n])
			if b[0]&0xe0 != 0x20 {
				refuses(t, after(t, add(a)), slices.Concat(index(62), b[:n]))
			}
			refuses(t, after(t, add(a)), slices.Concat(limit(0), b[:n]))
			if t.Failed() {
				t.Fatalf("%d of %s", n, short(b))
			}
		}
		d := after(t, add(a))
		if _, e := d.Decode(b, ample); e != api.OK && b[0] != 0xff {
			t.Errorf("P8.1: %s: %d", short(b), e)
		}
	}
}

// TestBehindItsLength: P0.4: what would make the block whole isn't looked at.
func TestBehindItsLength(t *testing.T) {
	whole := literal(adding, asIs("name"), packed("value"))
	was := slices.Clone(whole)
	for n := 1; n < len(whole); n++ {
		refuses(t, New(), whole[:n])
	}
	d := New()
	if l, e := d.Decode(whole[:0], ample); len(l) > 0 || e != api.OK {
		t.Errorf("P8.1: %v, %d", l, e)
	}
	if !bytes.Equal(whole, was) {
		t.Errorf("P0.4: %x", whole)
	}
}

// TestNumbersTooGreat: above MaxPint, or of more than six bytes, wherever a
// number stands; behind each stands enough for what it may be taken for.
func TestNumbersTooGreat(t *testing.T) {
	behind := bytes.Repeat([]byte{0}, 300)
	tails := [][]byte{
		{0xff, 0xff, 0xff, 0xff, 0x0f},
		{0xff, 0xff, 0xff, 0xff, 0x7f},
		{0x80, 0x80, 0x80, 0x80, 0x80, 0x00},
		{0x80, 0x80, 0x80, 0x80, 0x80, 0x80, 0x80, 0x80, 0x80, 0x02},
		{0xff, 0xff, 0xff, 0xff, 0xff, 0xff, 0xff, 0xff, 0xff, 0xff, 0xff},
		{0x80, 0x80, 0x80, 0x80, 0x10},
	}
	heads := [][]byte{{0xff}, {0x7f}, {0x3f}, {0x1f}, {0x0f}}
	for _, k := range forms {
		for _, length := range []byte{0x7f, 0xff} {
			heads = append(heads, []byte{k.first, length}, slices.Concat([]byte{k.first}, asIs("n"), []byte{length}), []byte{k.first | 1, length})
		}
	}
	for _, head := range heads {
		for _, tail := range tails {
			refuses(t, after(t, add(field("a", "1"))), slices.Concat(head, tail, behind))
			refuses(t, after(t, add(field("a", "1"))), slices.Concat(head, tail))
		}
	}
}

// TestNumbersOfManyBytes: noughts ahead are no fault while there are six.
func TestNumbersOfManyBytes(t *testing.T) {
	a := field("a", "1")
	full := bytes.Repeat(add(field("", "")), 128)
	d := after(t, full)
	reads(t, d, []byte{0xff, 0x80, 0x80, 0x80, 0x80, 0x00}, field("", ""))
	refuses(t, d, []byte{0xff, 0x80, 0x80, 0x80, 0x80, 0x80, 0x00})
	d = after(t, add(a))
	reads(t, d, []byte{0x3f, 0xe1, 0x80, 0x80, 0x80, 0x00})
	holds(t, d, 128, a)
	d = after(t, add(a))
	reads(t, d, slices.Concat([]byte{0x0f, 0x80, 0x80, 0x80, 0x80, 0x00}, asIs("v")), field("accept-charset", "v"))
	reads(t, d, slices.Concat([]byte{0x01, 0x7f, 0x80, 0x80, 0x00}, bytes.Repeat([]byte("v"), 127)), field(":authority", strings.Repeat("v", 127)))
}

// TestLengthAboveWhatIsLeft: by one, and by much; just as much is right.
func TestLengthAboveWhatIsLeft(t *testing.T) {
	h := huff.Encode([]byte("value"))
	for _, k := range forms {
		f := stat.Field{Name: "n", Value: "value", Never: k == nevers}
		for _, n := range []int{6, 7, 126, 127, 128, api.MaxString} {
			refuses(t, New(), slices.Concat([]byte{k.first}, asIs("n"), put(0, 7, n), []byte("value")))
			refuses(t, New(), slices.Concat([]byte{k.first}, put(0, 7, n), []byte("value")))
			refuses(t, New(), slices.Concat([]byte{k.first}, asIs("n"), put(0x80, 7, n), h))
			refuses(t, New(), slices.Concat([]byte{k.first}, put(0x80, 7, n), h))
		}
		reads(t, New(), slices.Concat([]byte{k.first}, asIs("n"), put(0, 7, 5), []byte("value")), f)
		reads(t, New(), slices.Concat([]byte{k.first}, asIs("n"), put(0x80, 7, len(h)), h), f)
		// The name may leave nothing for the value.
		refuses(t, New(), slices.Concat([]byte{k.first}, asIs("n")))
		refuses(t, New(), slices.Concat([]byte{k.first}, packed("n")))
	}
}

func TestLongStrings(t *testing.T) {
	for _, k := range forms {
		for _, write := range writers {
			// A code of "0" has five bits, so that these are fewer when packed.
			most, more := strings.Repeat("0", api.MaxString), strings.Repeat("0", api.MaxString+1)
			d := New()
			reads(t, d, literal(k, write(most), write(most)), stat.Field{Name: most, Value: most, Never: k == nevers})
			holds(t, d, api.MaxTable)
			reads(t, New(), named(k, 1, write(most)), stat.Field{Name: ":authority", Value: most, Never: k == nevers})
			refuses(t, New(), literal(k, write(more), write("v")))
			refuses(t, New(), literal(k, write("n"), write(more)))
			refuses(t, New(), named(k, 1, write(more)))
			refuses(t, New(), named(k, 1, write(more+more)))
		}
	}
}

// TestLongHuffman: ahead of decoding a text is not above MaxString either,
// though what it says is far below. A code of "\n" has 30 bits.
func TestLongHuffman(t *testing.T) {
	most := strings.Repeat("\n", 4369)
	above := most + "0"
	if n := len(huff.Encode([]byte(most))); n != api.MaxString {
		t.Fatalf("%d bytes", n)
	}
	if n := len(huff.Encode([]byte(above))); n != api.MaxString+1 {
		t.Fatalf("%d bytes", n)
	}
	for _, k := range forms {
		reads(t, New(), literal(k, packed(most), packed(most)), stat.Field{Name: most, Value: most, Never: k == nevers})
		refuses(t, New(), literal(k, packed(above), asIs("")))
		refuses(t, New(), literal(k, asIs("n"), packed(above)))
		reads(t, New(), literal(k, asIs("n"), asIs(above)), stat.Field{Name: "n", Value: above, Never: k == nevers})
	}
}

func TestNoHuffman(t *testing.T) {
	for _, s := range []string{
		"ff",                // more than seven bits at the end
		"1fff",              // eight ones behind an a
		"18",                // noughts behind an a
		"1e",                // one nought behind an a
		"00",                // a 0, and noughts
		"3fff ffff",         // the end's code behind what came
		"ffff ffff",         // the end's code
		"1fff ffff ff",      // the same behind an a
		"ffff fffc 00",      // noughts behind the end's code
		"ffff fff0 00 0000", // noughts behind a code of 30 bits
	} {
		b := bits(unhex(t, s))
		for _, k := range forms {
			refuses(t, after(t, add(field("a", "1"))), literal(k, b, asIs("v")))
			refuses(t, after(t, add(field("a", "1"))), literal(k, asIs("n"), b))
			refuses(t, after(t, add(field("a", "1"))), named(k, 1, b))
			refuses(t, after(t, add(field("a", "1"))), slices.Concat(index(62), named(k, 62, b), index(2)))
		}
	}
	// The same bytes are a text as they are.
	reads(t, New(), named(plainly, 1, []byte{1, 0xff}), field(":authority", "\xff"))
}

// TestRefusedLeavesNothing: P0.2: what stood ahead of the fault is gone too,
// limits and added fields, and those that these drove out are there.
func TestRefusedLeavesNothing(t *testing.T) {
	a, b, c := sized("a", 40), sized("b", 60), sized("c", 4000)
	for _, ahead := range [][]byte{limit(0), limit(99), append(limit(0), limit(api.MaxTable)...), add(c), append(limit(50), add(a)...), add(sized("c", 5000)), add(field("", ""))} {
		for _, most := range []int{100, 200, api.MaxTable} {
			d := after(t, slices.Concat(limit(most), add(a), add(b)))
			held := d.Table()
			refuses(t, d, append(slices.Clone(ahead), 0x80))
			holds(t, d, most, b, a)
			if d.Table() != held {
				t.Error("P8.2: another table")
			}
		}
	}
	refuses(t, New(), append(add(a), 0x80))
}

// TestTableIsTheOneAtWork: whoever has it sees what goes on.
func TestTableIsTheOneAtWork(t *testing.T) {
	d := New()
	held := d.Table()
	a := field("a", "1")
	reads(t, d, add(a), a)
	if f, ok := held.Get(1); !ok || f != a || d.Table() != held {
		t.Errorf("P8.2: %v", f)
	}
	reads(t, d, limit(0))
	if held.Len() != 0 || held.Most() != 0 {
		t.Errorf("P8.2: Len %d, Most %d", held.Len(), held.Most())
	}
}

// within asks for one block with one room, ahead of which nothing was read.
func within(t *testing.T, b []byte, room int, want api.Errno) *Dec {
	t.Helper()
	d := New()
	l, e := d.Decode(b, room)
	if e != want || d.Dead() || e != api.OK && len(l) > 0 {
		t.Errorf("P8.1: %s, room %d: %v, %d, not %d", short(b), room, l, e, want)
	}
	return d
}

func TestRoom(t *testing.T) {
	a, b := field("a", "1"), field("bb", "22")
	block := slices.Concat(limit(200), add(a), named(nevers, 62, asIs("xyz")), index(2), add(b), index(63))
	want := []stat.Field{a, {Name: "a", Value: "xyz", Never: true}, field(":method", "GET"), b, a}
	total := stat.Total(want)
	for _, room := range []int{total, total + 1, math.MaxInt32, math.MaxInt} {
		d := within(t, block, room, api.OK)
		holds(t, d, 200, b, a)
		l, e := New().Decode(block, room)
		if e != api.OK || !slices.Equal(l, want) {
			t.Errorf("P8.1: room %d: %v, %d", room, l, e)
		}
	}
	for _, room := range []int{total - 1, total - 34, 42, 34, 33, 1, 0, -1, -total, math.MinInt32, math.MinInt} {
		d := within(t, block, room, api.ErrLong)
		holds(t, d, 200, b, a)
		// The next block decodes, and finds what the long one added.
		reads(t, d, slices.Concat(index(62), index(63), add(a)), b, a, a)
		holds(t, d, 200, a, b, a)
	}
}

// TestRoomOfNothing: a Total of 0 is not above 0, and it is above what is below.
func TestRoomOfNothing(t *testing.T) {
	for _, b := range [][]byte{nil, limit(100), append(limit(0), limit(100)...)} {
		within(t, b, 0, api.OK)
		within(t, b, -1, api.ErrLong)
		within(t, b, math.MinInt, api.ErrLong)
	}
	holds(t, within(t, limit(100), -1, api.ErrLong), 100)
	within(t, literal(plainly, asIs(""), asIs("")), 32, api.OK)
	within(t, literal(plainly, asIs(""), asIs("")), 31, api.ErrLong)
	within(t, index(2), 42, api.OK)
	within(t, index(2), 41, api.ErrLong)
}

// TestRoomCountsEachBlock: not those ahead of it, long or not.
func TestRoomCountsEachBlock(t *testing.T) {
	d := New()
	for range 20 {
		if l, e := d.Decode(index(2), 42); len(l) != 1 || e != api.OK {
			t.Errorf("P8.1: %v, %d", l, e)
		}
		if l, e := d.Decode(append(index(2), index(2)...), 83); len(l) > 0 || e != api.ErrLong || d.Dead() {
			t.Errorf("P8.1: %v, %d", l, e)
		}
	}
}

// TestFormAheadOfLong: all is read, so that a fault behind is found.
func TestFormAheadOfLong(t *testing.T) {
	for _, room := range []int{41, 0, -1, math.MinInt} {
		for _, fault := range [][]byte{index(0), index(62), limit(100), {0x40}, named(adding, 1, bits([]byte{0xff}))} {
			d := New()
			if l, e := d.Decode(append(index(2), fault...), room); len(l) > 0 || e != api.ErrForm || !d.Dead() {
				t.Errorf("P8.1: %x, room %d: %v, %d", fault, room, l, e)
			}
			if l, e := d.Decode(index(2), room); len(l) > 0 || e != api.ErrState {
				t.Errorf("P8.1: Dead, room %d: %v, %d", room, l, e)
			}
		}
	}
}

// TestBlocksBehindOneAnother use what earlier ones added.
func TestBlocksBehindOneAnother(t *testing.T) {
	a, b := field("a", "1"), field("b", "2")
	d := New()
	reads(t, d, add(a), a)
	reads(t, d, index(62), a)
	reads(t, d, slices.Concat(add(b), index(63), index(62)), b, a, b)
	reads(t, d, named(adding, 63, asIs("3")), field("a", "3"))
	reads(t, d, slices.Concat(index(64), index(63), index(62)), a, b, field("a", "3"))
	reads(t, d, slices.Concat(limit(68), index(63)), b)
	refuses(t, d, index(64))
}

func TestTakesNothingOver(t *testing.T) {
	block := slices.Concat(limit(200), add(field("name", "value")), literal(nevers, packed("other"), packed("text")), index(62))
	was := slices.Clone(block)
	d := New()
	l, e := d.Decode(block, ample)
	if e != api.OK || !bytes.Equal(block, was) {
		t.Fatalf("P0.4: %x, %d", block, e)
	}
	clear(block)
	want := []stat.Field{field("name", "value"), {Name: "other", Value: "text", Never: true}, field("name", "value")}
	if !slices.Equal(l, want) {
		t.Errorf("P0.4: %v", l)
	}
	holds(t, d, 200, field("name", "value"))
}

// TestAnswersAreNew: P8.2: writing into what was answered, or behind it.
func TestAnswersAreNew(t *testing.T) {
	a, b := field("a", "1"), field("b", "2")
	block := slices.Concat(add(a), add(b), index(63), index(2))
	want := []stat.Field{a, b, a, field(":method", "GET")}
	d, other := New(), New()
	spoil := func(l []stat.Field) {
		x := stat.Field{Name: "x", Value: "x", Never: true}
		for i := range l[:cap(l)] {
			l[:cap(l)][i] = x
		}
		_ = append(l, x, x, x)
	}
	for range 5 {
		l, e := d.Decode(block, ample)
		if e != api.OK || !slices.Equal(l, want) {
			t.Fatalf("P8.2: %v, %d", l, e)
		}
		kept, _ := d.Decode(index(62), ample)
		spoil(l)
		if !slices.Equal(kept, []stat.Field{b}) {
			t.Errorf("P8.2: %v", kept)
		}
		f, _ := d.Table().Get(1)
		f.Name = "y"
		if got := content(d); !slices.Equal(got[:2], []stat.Field{b, a}) {
			t.Errorf("P8.2: %v", got)
		}
		reads(t, other, block, want...)
		holds(t, other, api.MaxTable, content(d)...)
	}
}

// TestAskingChangesNothing: P0.5.
func TestAskingChangesNothing(t *testing.T) {
	a := field("a", "1")
	d := after(t, add(a))
	for range 5 {
		holds(t, d, api.MaxTable, a)
		if d.Dead() {
			t.Error("P8.2: Dead")
		}
	}
	reads(t, d, index(62), a)
}

// model is the decoder told from the other side: what was meant, and the table
// as a list, the newest first.
type model struct {
	table []stat.Field
	most  int
}

func (m *model) cut() {
	for n := range m.table {
		if stat.Total(m.table[:n+1]) > m.most {
			m.table = m.table[:n]
			return
		}
	}
}

func (m *model) limit(n int) []byte {
	m.most = n
	m.cut()
	return limit(n)
}

// known is the field of an index, both tables taken as one.
func (m *model) known(i int) stat.Field {
	f, ok := stat.Get(i)
	if !ok {
		f = m.table[i-62]
	}
	return f
}

func anyText(r *rand.Rand) string {
	b := make([]byte, r.Intn(12))
	if r.Intn(12) == 0 {
		b = make([]byte, r.Intn(400))
	}
	for i := range b {
		b[i] = byte(r.Intn(256))
	}
	return string(b)
}

func anyString(r *rand.Rand, s string) []byte {
	if r.Intn(2) == 0 {
		return packed(s)
	}
	return asIs(s)
}

// field writes any representation of a field, and says what it means.
func (m *model) field(r *rand.Rand) ([]byte, stat.Field) {
	i := 1 + r.Intn(61+len(m.table))
	if r.Intn(3) == 0 {
		return index(i), m.known(i)
	}
	k := forms[r.Intn(3)]
	f := stat.Field{Name: m.known(i).Name, Value: anyText(r), Never: k == nevers}
	b := named(k, i, anyString(r, f.Value))
	if r.Intn(2) == 0 {
		f.Name = anyText(r)
		b = literal(k, anyString(r, f.Name), anyString(r, f.Value))
	}
	if k == adding {
		m.table = append([]stat.Field{f}, m.table...)
		m.cut()
	}
	return b, f
}

// block writes any block that is right, and says what it means.
func (m *model) block(r *rand.Rand) ([]byte, []stat.Field) {
	var b []byte
	var l []stat.Field
	if r.Intn(4) == 0 {
		for range 1 + r.Intn(2) {
			b = append(b, m.limit(r.Intn(api.MaxTable+1)/(1+r.Intn(10)))...)
		}
	}
	for range r.Intn(12) {
		one, f := m.field(r)
		b, l = append(b, one...), append(l, f)
	}
	return b, l
}

// TestLongRows: P8.1 to P8.3 behind every block of long rows; one decoder has
// ample room, one any, one none.
func TestLongRows(t *testing.T) {
	r := rand.New(rand.NewSource(8))
	for range 40 {
		m := &model{most: api.MaxTable}
		d, tight, none := New(), New(), New()
		for range 100 {
			b, want := m.block(r)
			was := slices.Clone(b)
			reads(t, d, b, want...)
			room := r.Intn(800)
			l, e := tight.Decode(b, room)
			if fits := stat.Total(want) <= room; fits && (e != api.OK || !slices.Equal(l, want)) || !fits && (e != api.ErrLong || len(l) > 0) {
				t.Errorf("P8.1: %x, room %d: %v, %d", b, room, l, e)
			}
			if l, e := none.Decode(b, -1); len(l) > 0 || e != api.ErrLong {
				t.Errorf("P8.1: %x, no room: %v, %d", b, l, e)
			}
			for _, x := range []*Dec{d, tight, none} {
				holds(t, x, m.most, m.table...)
			}
			if !bytes.Equal(b, was) {
				t.Errorf("P0.4: %x, not %x", b, was)
			}
			if t.Failed() {
				return
			}
		}
	}
}

// TestRooms: P8.3: whatever bytes come, tables and faults are alike, whatever
// the rooms are, and no fault goes by or is made up by the room.
func TestRooms(t *testing.T) {
	r := rand.New(rand.NewSource(88))
	for range 2000 {
		d, tight := New(), New()
		m := &model{most: api.MaxTable}
		for range 20 {
			b, _ := m.block(r)
			for range r.Intn(3) {
				if len(b) > 0 {
					b[r.Intn(len(b))] = byte(r.Intn(256))
				}
			}
			_, e := d.Decode(b, ample)
			l, te := tight.Decode(b, r.Intn(300)-50)
			if te == api.ErrLong {
				te = api.OK
			}
			if e != te || d.Dead() != tight.Dead() || stat.Total(l) > 250 {
				t.Fatalf("P8.3: %x: %d, %d", b, e, te)
			}
			holds(t, tight, d.Table().Most(), content(d)...)
			m.table, m.most = content(d), d.Table().Most()
			if t.Failed() || d.Dead() {
				break
			}
		}
	}
}
