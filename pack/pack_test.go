package pack

import (
	"bytes"
	"encoding/hex"
	"math"
	"math/rand"
	"slices"
	"strconv"
	"strings"
	"testing"

	"wayleave/api"
	"wayleave/dyn"
	"wayleave/huff"
	"wayleave/pint"
	"wayleave/stat"
	"wayleave/unpack"
)

func put(first byte, bits, n int) []byte {
	b, e := pint.Put(first, bits, n)
	if e != api.OK {
		panic("no such number: " + strconv.Itoa(n))
	}
	return b
}

// asIs and packed are the two ways in which a string is written.
func asIs(s string) []byte {
	return append(put(0, 7, len(s)), s...)
}

func packed(s string) []byte {
	b := huff.Encode([]byte(s))
	return append(put(0x80, 7, len(b)), b...)
}

// shortest is the way in which it is to be written.
func shortest(s string) []byte {
	if len(packed(s)) < len(asIs(s)) {
		return packed(s)
	}
	return asIs(s)
}

func index(i int) []byte {
	return put(0x80, 7, i)
}

func limit(n int) []byte {
	return put(0x20, 5, n)
}

// adds and hides are literals: added, and never to be; the name by its index.
func adds(i int, value []byte) []byte {
	return append(put(0x40, 6, i), value...)
}

func hides(i int, value []byte) []byte {
	return append(put(0x10, 4, i), value...)
}

// addsNew and hidesNew are the same, the name as a string.
func addsNew(name, value []byte) []byte {
	return slices.Concat([]byte{0x40}, name, value)
}

func hidesNew(name, value []byte) []byte {
	return slices.Concat([]byte{0x10}, name, value)
}

func field(name, value string) stat.Field {
	return stat.Field{Name: name, Value: value}
}

func secret(name, value string) stat.Field {
	return stat.Field{Name: name, Value: value, Never: true}
}

// sized is a field of size bytes whose name is mark. Its value is one that is
// shorter when it is packed.
func sized(mark string, size int) stat.Field {
	return field(mark, strings.Repeat("0", size-32-len(mark)))
}

// fields makes some: name, value, name, value, ..
func fields(l ...string) []stat.Field {
	var out []stat.Field
	for i := 0; i < len(l); i += 2 {
		out = append(out, field(l[i], l[i+1]))
	}
	return out
}

func unhex(t *testing.T, s string) []byte {
	t.Helper()
	b, err := hex.DecodeString(strings.ReplaceAll(s, " ", ""))
	if err != nil {
		t.Fatal(err)
	}
	return b
}

// short tells a block that may be long.
func short(b []byte) string {
	if len(b) > 60 {
		return hex.EncodeToString(b[:60]) + ".. of " + strconv.Itoa(len(b))
	}
	return hex.EncodeToString(b)
}

// writes asks that the fields are this block.
func writes(t *testing.T, e *Enc, want []byte, l ...stat.Field) {
	t.Helper()
	b, err := e.Encode(l)
	if err != api.OK || !bytes.Equal(b, want) {
		t.Errorf("P9.2: %d fields: %s, %d, not %s", len(l), short(b), err, short(want))
	}
}

// content is the table's fields, the newest first.
func content(x *dyn.Table) []stat.Field {
	var l []stat.Field
	for i := 1; ; i++ {
		f, ok := x.Get(i)
		if !ok {
			return l
		}
		l = append(l, f)
	}
}

// holds asks for what the table has, the newest first.
func holds(t *testing.T, e *Enc, most int, want ...stat.Field) {
	t.Helper()
	x := e.Table()
	if x.Most() != most || x.Len() != len(want) || !slices.Equal(content(x), want) || x.Size() != stat.Total(want) {
		t.Errorf("P9.3: Most %d, %v, not %d, %v", x.Most(), content(x), most, want)
	}
}

// refuses asks that the fields are ErrLong, and that the table stays.
func refuses(t *testing.T, e *Enc, l ...stat.Field) {
	t.Helper()
	most, before := e.Table().Most(), content(e.Table())
	if b, err := e.Encode(l); len(b) > 0 || err != api.ErrLong {
		t.Errorf("P9.2: %d fields: %s, %d, not ErrLong", len(l), short(b), err)
	}
	holds(t, e, most, before...)
}

// after has written these in one block.
func after(t *testing.T, l ...stat.Field) *Enc {
	t.Helper()
	e := New()
	if _, err := e.Encode(l); err != api.OK {
		t.Fatalf("P9.2: %v: %d", l, err)
	}
	return e
}

// peers sets one limit behind the other.
func peers(e *Enc, l ...int) {
	for _, n := range l {
		e.Peer(n)
	}
}

func TestNew(t *testing.T) {
	e, other := New(), New()
	holds(t, e, api.MaxTable)
	writes(t, e, nil)
	writes(t, e, index(2), field(":method", "GET"))
	e.Peer(100)
	writes(t, e, unhex(t, "3f45 40 0161 0131"), field("a", "1"))
	holds(t, e, 100, field("a", "1"))
	holds(t, other, api.MaxTable)
	writes(t, other, unhex(t, "40 0161 0131"), field("a", "1"))
}

// TestExample is the chapter's own.
func TestExample(t *testing.T) {
	e := New()
	writes(t, e, []byte{0x88}, field(":status", "200"))
	holds(t, e, api.MaxTable)
}

// TestAppendixC is RFC 7541's C.4, and C.6 with a table of 256 bytes; there
// "307", whose Huffman text is as long as it is, stands as it is.
func TestAppendixC(t *testing.T) {
	e := New()
	writes(t, e, unhex(t, "8286 8441 8cf1 e3c2 e5f2 3a6b a0ab 90f4 ff"), fields(":method", "GET", ":scheme", "http", ":path", "/", ":authority", "www.example.com")...)
	writes(t, e, unhex(t, "8286 84be 5886 a8eb 1064 9cbf"), fields(":method", "GET", ":scheme", "http", ":path", "/", ":authority", "www.example.com", "cache-control", "no-cache")...)
	writes(t, e, unhex(t, "8287 85bf 4088 25a8 49e9 5ba9 7d7f 8925 a849 e95b b8e8 b4bf"), fields(":method", "GET", ":scheme", "https", ":path", "/index.html", ":authority", "www.example.com", "custom-key", "custom-value")...)
	holds(t, e, api.MaxTable, fields("custom-key", "custom-value", "cache-control", "no-cache", ":authority", "www.example.com")...)

	const url = "https://www.example.com"
	e = New()
	e.Peer(256)
	writes(t, e, unhex(t, "3fe1 01 4882 6402 5885 aec3 771a 4b61 96d0 7abe 9410 54d4 44a8 2005 9504 0b81 66e0 82a6 2d1b ff6e 919d 29ad 1718 63c7 8f0b 97c8 e9ae 82ae 43d3"),
		fields(":status", "302", "cache-control", "private", "date", "Mon, 21 Oct 2013 20:13:21 GMT", "location", url)...)
	writes(t, e, unhex(t, "4803 3330 37c1 c0bf"), fields(":status", "307", "cache-control", "private", "date", "Mon, 21 Oct 2013 20:13:21 GMT", "location", url)...)
	writes(t, e, unhex(t, "88c1 6196 d07a be94 1054 d444 a820 0595 040b 8166 e084 a62d 1bff c05a 839b d9ab 77ad 94e7 821d d7f2 e6c7 b335 dfdf cd5b 3960 d5af 2708 7f36 72c1 ab27 0fb5 291f 9587 3160 65c0 03ed 4ee5 b106 3d50 07"),
		fields(":status", "200", "cache-control", "private", "date", "Mon, 21 Oct 2013 20:13:22 GMT", "location", url, "content-encoding", "gzip", "set-cookie", "foo=ASDJKHQKBZXOQWEOPIUAXQWEOIU; max-age=3600; version=1")...)
	holds(t, e, 256, fields("set-cookie", "foo=ASDJKHQKBZXOQWEOPIUAXQWEOIU; max-age=3600; version=1", "content-encoding", "gzip", "date", "Mon, 21 Oct 2013 20:13:22 GMT")...)
}

// TestPeerBounds: what is told, and what the table has at most, of one limit.
func TestPeerBounds(t *testing.T) {
	for _, c := range []struct {
		n, most int
		told    string
	}{
		{math.MinInt, 0, "20"}, {math.MinInt32, 0, "20"}, {-2, 0, "20"}, {-1, 0, "20"}, {0, 0, "20"},
		{1, 1, "21"}, {30, 30, "3e"}, {31, 31, "3f00"}, {100, 100, "3f45"}, {158, 158, "3f7f"}, {159, 159, "3f8001"},
		{api.MaxTable - 1, api.MaxTable - 1, "3fe01f"}, {api.MaxTable, api.MaxTable, ""},
		{api.MaxTable + 1, api.MaxTable, ""}, {1 << 16, api.MaxTable, ""}, {math.MaxInt32, api.MaxTable, ""}, {1 << 32, api.MaxTable, ""}, {math.MaxInt, api.MaxTable, ""},
	} {
		e := New()
		e.Peer(c.n)
		holds(t, e, c.most)
		writes(t, e, unhex(t, c.told+"88"), field(":status", "200"))
		writes(t, e, []byte{0x88}, field(":status", "200"))
		holds(t, e, c.most)
		// Behind a lower one that the other side has heard of.
		e = New()
		e.Peer(20)
		writes(t, e, limit(20))
		e.Peer(c.n)
		var want []byte
		if c.most != 20 {
			want = limit(c.most)
		}
		writes(t, e, want)
		holds(t, e, c.most)
	}
}

// TestPeerAtOnce: fields go ahead of the next block, and do not come back.
func TestPeerAtOnce(t *testing.T) {
	a, b := sized("a", 40), sized("b", 60)
	for n, left := range map[int][]stat.Field{-1: nil, 0: nil, 59: nil, 60: {b}, 99: {b}, 100: {b, a}, 5000: {b, a}} {
		e := after(t, a, b)
		holds(t, e, api.MaxTable, b, a)
		e.Peer(n)
		most := min(max(n, 0), api.MaxTable)
		holds(t, e, most, left...)
		e.Peer(api.MaxTable)
		holds(t, e, api.MaxTable, left...)
		var want []byte
		if most < api.MaxTable {
			want = append(limit(most), limit(api.MaxTable)...)
		}
		writes(t, e, want)
		holds(t, e, api.MaxTable, left...)
	}
	// What went is written anew, what stayed is found.
	e := after(t, a, b)
	e.Peer(60)
	writes(t, e, slices.Concat(limit(60), index(62), addsNew(asIs("a"), packed(a.Value))), b, a)
	holds(t, e, 60, a)
}

// TestPeersBetweenBlocks: several limits behind one that was told.
func TestPeersBetweenBlocks(t *testing.T) {
	const most = api.MaxTable
	for _, c := range []struct {
		told       int
		set, limit []int
	}{
		{100, nil, nil},
		{100, []int{100}, nil},
		{100, []int{100, 100}, nil},
		{100, []int{200}, []int{200}},
		{100, []int{50}, []int{50}},
		// The least below the one that holds.
		{100, []int{50, 100}, []int{50, 100}},
		{100, []int{50, 200}, []int{50, 200}},
		{100, []int{50, 80}, []int{50, 80}},
		{100, []int{100, 200}, []int{100, 200}},
		{100, []int{150, 200}, []int{150, 200}},
		{100, []int{99, 100}, []int{99, 100}},
		{100, []int{200, 50, 100}, []int{50, 100}},
		{100, []int{50, 20, 80, 30}, []int{20, 30}},
		{100, []int{20, 50, 80}, []int{20, 80}},
		{100, []int{-7, 100}, []int{0, 100}},
		{100, []int{0, most + 1}, []int{0, most}},
		// The least is the one that holds.
		{100, []int{200, 50}, []int{50}},
		{100, []int{50, 200, 50}, []int{50}},
		{100, []int{200, 150}, []int{150}},
		{100, []int{most, 0}, []int{0}},
		{100, []int{0, most, -1}, []int{0}},
		// Back at the one that was told last, with nothing below it.
		{100, []int{200, 100}, nil},
		{100, []int{100, 200, 100}, nil},
		{100, []int{most, math.MaxInt, 101, 100}, nil},
		{0, []int{most, -5}, nil},
		{0, []int{-5}, nil},
		{0, []int{0, 1}, []int{0, 1}},
		{0, []int{1}, []int{1}},
		{most, []int{most}, nil},
		{most, []int{most + 1, math.MaxInt}, nil},
		{most, []int{most - 1, most + 1}, []int{most - 1, most}},
		{most, []int{most + 1, most - 1}, []int{most - 1}},
		{most, []int{0, most}, []int{0, most}},
	} {
		var want []byte
		for _, n := range c.limit {
			want = append(want, limit(n)...)
		}
		for _, l := range [][]stat.Field{nil, fields(":status", "200"), fields(":status", "200", ":method", "GET")} {
			tail, _ := New().Encode(l)
			e := New()
			e.Peer(c.told)
			if _, err := e.Encode(nil); err != api.OK {
				t.Fatalf("P9.2: %d", err)
			}
			peers(e, c.set...)
			writes(t, e, append(slices.Clone(want), tail...), l...)
			// What was told is not told again.
			writes(t, e, tail, l...)
			writes(t, e, nil)
		}
		if t.Failed() {
			t.Fatalf("P9.1: told %d, set %v", c.told, c.set)
		}
	}
}

// TestPeersAheadOfTheFirst: MaxTable is what counts as told.
func TestPeersAheadOfTheFirst(t *testing.T) {
	for _, c := range []struct {
		set  []int
		want string
	}{
		{nil, ""}, {[]int{4096}, ""}, {[]int{9999, 4096}, ""}, {[]int{100}, "3f45"}, {[]int{100, 100}, "3f45"},
		{[]int{100, 4096}, "3f453fe11f"}, {[]int{100, 5000}, "3f453fe11f"}, {[]int{300, 100}, "3f45"}, {[]int{100, 300}, "3f453f8d02"},
		{[]int{0, 1}, "2021"}, {[]int{1, 0}, "20"}, {[]int{-1, 4096, 0}, "20"},
	} {
		e := New()
		peers(e, c.set...)
		writes(t, e, unhex(t, c.want+"82"), field(":method", "GET"))
		writes(t, e, []byte{0x82}, field(":method", "GET"))
	}
}

// TestPeersRoundByRound: only those since the last block count, and each is
// held against the one that was told with it.
func TestPeersRoundByRound(t *testing.T) {
	e := New()
	for _, c := range []struct{ set, limit []int }{
		{[]int{100}, []int{100}}, {[]int{300}, []int{300}}, {nil, nil}, {[]int{50}, []int{50}}, {[]int{300}, []int{300}},
		{[]int{50, 300}, []int{50, 300}}, {[]int{400}, []int{400}}, {[]int{0}, []int{0}}, {[]int{5, 0}, nil},
		{[]int{4096}, []int{4096}}, {[]int{4096}, nil}, {[]int{10, 4096}, []int{10, 4096}}, {[]int{4096}, nil}, {[]int{4095}, []int{4095}},
	} {
		peers(e, c.set...)
		var want []byte
		for _, n := range c.limit {
			want = append(want, limit(n)...)
		}
		writes(t, e, want)
	}
}

func TestEmptyList(t *testing.T) {
	for _, l := range [][]stat.Field{nil, {}} {
		e := after(t, field("a", "1"))
		if b, err := e.Encode(l); len(b) > 0 || err != api.OK {
			t.Errorf("P9.2: nothing: %x, %d", b, err)
		}
		peers(e, 40, 200)
		if b, err := e.Encode(l); !bytes.Equal(b, append(limit(40), limit(200)...)) || err != api.OK {
			t.Errorf("P9.2: limits: %x, %d", b, err)
		}
		if b, err := e.Encode(l); len(b) > 0 || err != api.OK {
			t.Errorf("P9.2: nothing again: %x, %d", b, err)
		}
		holds(t, e, 200, field("a", "1"))
	}
}

func TestIndexStatic(t *testing.T) {
	var all []byte
	var l []stat.Field
	a := field("a", "1")
	for i := 1; i <= 61; i++ {
		f, _ := stat.Get(i)
		writes(t, New(), index(i), f)
		e := after(t, a)
		writes(t, e, index(i), f)
		holds(t, e, api.MaxTable, a)
		all, l = append(all, index(i)...), append(l, f)
	}
	e := New()
	writes(t, e, all, l...)
	holds(t, e, api.MaxTable)
}

// TestIndexDynamic: a field is added once, and found in the same block and in
// the next ones, wherever it stands by then.
func TestIndexDynamic(t *testing.T) {
	a, b, c := field("a", "1"), field("b", "2"), field("a", "3")
	newA, newB := addsNew(asIs("a"), asIs("1")), addsNew(asIs("b"), asIs("2"))
	e := New()
	writes(t, e, slices.Concat(newA, index(62), index(62)), a, a, a)
	holds(t, e, api.MaxTable, a)
	writes(t, e, index(62), a)
	writes(t, e, slices.Concat(newB, index(63), index(62)), b, a, b)
	writes(t, e, slices.Concat(adds(63, asIs("3")), index(62), index(63), index(64)), c, c, b, a)
	holds(t, e, api.MaxTable, c, b, a)
	writes(t, e, slices.Concat(index(64), index(2), index(63)), a, field(":method", "GET"), b)
	holds(t, e, api.MaxTable, c, b, a)
	// What was driven out is not found.
	e.Peer(68)
	writes(t, e, slices.Concat(limit(68), index(63), adds(62, asIs("1")), index(63), newB), b, a, c, b)
	holds(t, e, 68, b, a)
}

// TestNames: of fields that neither table has, with the name in the one, in the
// other, in both, in none; added, and never to be.
func TestNames(t *testing.T) {
	e := after(t, field("eins", "1"), field(":status", "299"), field("zwei", "2"), field("eins", "3"))
	before := content(e.Table())
	for _, c := range []struct {
		name string
		i    int
	}{
		{":authority", 1}, {":method", 2}, {":path", 4}, {":scheme", 6}, {"accept-charset", 15}, {"accept-encoding", 16}, {"host", 38}, {"proxy-authorization", 49}, {"www-authenticate", 61},
		{":status", 8}, {"eins", 62}, {"zwei", 63},
	} {
		writes(t, e, hides(c.i, asIs("XX")), secret(c.name, "XX"))
		holds(t, e, api.MaxTable, before...)
		x := after(t, field("eins", "1"), field(":status", "299"), field("zwei", "2"), field("eins", "3"))
		writes(t, x, adds(c.i, asIs("XX")), field(c.name, "XX"))
		holds(t, x, api.MaxTable, append([]stat.Field{field(c.name, "XX")}, before...)...)
		writes(t, x, index(62), field(c.name, "XX"))
	}
	for _, name := range []string{"", "x", "Host", "host ", "hos", ":statu", ":status:", "Eins", "ein", "einsx", "\x00", "€"} {
		writes(t, e, hidesNew(shortest(name), asIs("XX")), secret(name, "XX"))
		holds(t, e, api.MaxTable, before...)
		x := New()
		writes(t, x, addsNew(shortest(name), asIs("XX")), field(name, "XX"))
		holds(t, x, api.MaxTable, field(name, "XX"))
		writes(t, x, append(index(62), adds(62, asIs("YY"))...), fields(name, "XX", name, "YY")...)
	}
	// A value is no name, and its letters count.
	writes(t, New(), addsNew(asIs("GET"), asIs("")), field("GET", ""))
	writes(t, New(), adds(2, asIs("XET")), field(":method", "XET"))
	writes(t, New(), adds(1, asIs("x")), field(":authority", "x"))
	writes(t, New(), adds(2, asIs("")), field(":method", ""))
}

// TestNameOfTheNewest: the newest with the name gives the index, and what went
// gives none.
func TestNameOfTheNewest(t *testing.T) {
	e := after(t, fields("a", "1", "b", "1", "a", "2", "c", "1")...)
	writes(t, e, hides(63, asIs("X")), secret("a", "X"))
	writes(t, e, hides(64, asIs("X")), secret("b", "X"))
	writes(t, e, hides(63, asIs("1")), secret("a", "1"))
	e.Peer(68)
	writes(t, e, slices.Concat(limit(68), hides(63, asIs("X")), hidesNew(asIs("b"), asIs("X"))), secret("a", "X"), secret("b", "X"))
	e.Peer(67)
	writes(t, e, slices.Concat(limit(67), hidesNew(asIs("a"), asIs("X"))), secret("a", "X"))
}

// TestNever: a field that the one table has, or the other, or neither, is
// neither added nor written by its whole index.
func TestNever(t *testing.T) {
	a := field("a", "1")
	e := after(t, a, field(":status", "299"))
	before := content(e.Table())
	for i := 1; i <= 61; i++ {
		f, _ := stat.Get(i)
		_, named := stat.Find(f.Name, "")
		writes(t, e, hides(named, shortest(f.Value)), secret(f.Name, f.Value))
	}
	writes(t, e, unhex(t, "1203 4745 54"), secret(":method", "GET"))
	writes(t, e, unhex(t, "1f00 00"), secret("accept-charset", ""))
	writes(t, e, hides(63, asIs("1")), secret("a", "1"))
	writes(t, e, hides(8, asIs("299")), secret(":status", "299"))
	writes(t, e, hides(63, asIs("2")), secret("a", "2"))
	writes(t, e, hidesNew(asIs("b"), asIs("1")), secret("b", "1"))
	writes(t, e, hidesNew(asIs("b"), asIs("1")), secret("b", "1"))
	holds(t, e, api.MaxTable, before...)
	// It is of one field alone.
	e = New()
	writes(t, e, slices.Concat(hidesNew(asIs("a"), asIs("1")), addsNew(asIs("a"), asIs("1")), hides(62, asIs("1")), index(62), hides(62, asIs("1")), hides(2, asIs("GET")), index(2)),
		secret("a", "1"), a, secret("a", "1"), a, secret("a", "1"), secret(":method", "GET"), field(":method", "GET"))
	holds(t, e, api.MaxTable, a)
	// One that is greater than the table drives nothing out.
	great := sized("great", 5000)
	great.Never = true
	writes(t, e, hidesNew(packed("great"), packed(great.Value)), great)
	holds(t, e, api.MaxTable, a)
}

func TestAddedDrivesOut(t *testing.T) {
	a, b, c := sized("a", 40), sized("b", 60), sized("c", 50)
	newA, newB, newC := addsNew(asIs("a"), packed(a.Value)), addsNew(asIs("b"), packed(b.Value)), addsNew(asIs("c"), packed(c.Value))
	e := New()
	e.Peer(110)
	writes(t, e, slices.Concat(limit(110), newA, newB, newC, index(63), newA), a, b, c, b, a)
	holds(t, e, 110, a, c)
	// Its name may be that of one that it drives out.
	e = New()
	e.Peer(100)
	writes(t, e, slices.Concat(limit(100), newA, newB, adds(63, asIs("2"))), a, b, field("a", "2"))
	holds(t, e, 100, field("a", "2"), b)
	// Just as great as the table.
	d := sized("d", 100)
	writes(t, e, append(addsNew(asIs("d"), packed(d.Value)), index(62)...), d, d)
	holds(t, e, 100, d)
}

// TestGreaterThanTheTable: such a field is written as one that is added, and
// leaves the table empty; its name may be one that it drives out.
func TestGreaterThanTheTable(t *testing.T) {
	a, great := sized("a", 40), sized("a", 101)
	newA := addsNew(asIs("a"), packed(a.Value))
	e := New()
	e.Peer(100)
	writes(t, e, slices.Concat(limit(100), newA, adds(62, packed(great.Value)), addsNew(asIs("a"), packed(great.Value)), newA), a, great, great, a)
	holds(t, e, 100, a)
	writes(t, e, adds(62, packed(great.Value)), great)
	holds(t, e, 100)
	great = sized("great", api.MaxTable+1)
	e = after(t, a)
	for range 3 {
		writes(t, e, addsNew(packed("great"), packed(great.Value)), great)
		holds(t, e, api.MaxTable)
	}
	// A table of nothing: no field goes in, those known ahead are found.
	e = New()
	e.Peer(0)
	writes(t, e, slices.Concat(limit(0), newA, newA, index(8), adds(8, asIs("299")), adds(8, asIs("299"))), a, a, field(":status", "200"), field(":status", "299"), field(":status", "299"))
	holds(t, e, 0)
	e.Peer(31)
	writes(t, e, slices.Concat(limit(31), addsNew(asIs(""), asIs("")), addsNew(asIs(""), asIs(""))), field("", ""), field("", ""))
	e.Peer(32)
	writes(t, e, slices.Concat(limit(32), addsNew(asIs(""), asIs("")), index(62)), field("", ""), field("", ""))
	holds(t, e, 32, field("", ""))
}

// TestIndexesOfMoreBytes: of fields, and of names added and never added.
func TestIndexesOfMoreBytes(t *testing.T) {
	var l []stat.Field
	for i := range 110 {
		l = append(l, field("n"+strconv.Itoa(i), ""))
	}
	e := after(t, l...)
	if e.Table().Len() != 110 {
		t.Fatalf("P9.3: Len %d", e.Table().Len())
	}
	for i, f := range l {
		writes(t, e, index(61+110-i), f)
		writes(t, e, hides(61+110-i, asIs("X")), secret(f.Name, "X"))
	}
	writes(t, e, unhex(t, "fe"), l[45])
	writes(t, e, unhex(t, "ff00"), l[44])
	writes(t, e, unhex(t, "ff2c"), l[0])
	writes(t, e, unhex(t, "1f9c01 0158"), secret("n0", "X"))
	holds(t, e, api.MaxTable, reversed(l)...)
	for _, i := range []int{0, 1, 44, 45, 46, 108, 109} {
		writes(t, after(t, l...), adds(61+110-i, asIs("X")), field(l[i].Name, "X"))
	}
	writes(t, after(t, l...), unhex(t, "7e 0158"), field("n109", "X"))
	writes(t, after(t, l...), unhex(t, "7f00 0158"), field("n108", "X"))
	writes(t, New(), unhex(t, "7d 0158"), field("www-authenticate", "X"))
	writes(t, New(), unhex(t, "1f00 0158"), secret("accept-charset", "X"))
	writes(t, New(), unhex(t, "18 0158"), secret(":status", "X"))
}

func reversed(l []stat.Field) []stat.Field {
	out := slices.Clone(l)
	slices.Reverse(out)
	return out
}

// TestStrings: the empty one, and those whose Huffman text is shorter, as long
// or longer, as a name and as a value, added and never.
func TestStrings(t *testing.T) {
	for text, want := range map[string]string{
		"":           "00",
		"000":        "82 0001",
		"302":        "82 6402",
		"0000":       "83 00000f",
		"aaa":        "82 18c7",
		"custom":     "84 25a849e9",
		"xxxxxxxx":   "87 f3e7cf9f3e7cf9",
		"0000000~":   "86 000000001ffd",
		"0":          "01 30",
		"00":         "02 3030",
		"x":          "01 78",
		"www":        "03 777777",
		"307":        "03 333037",
		"XX":         "02 5858",
		"xxxxxxx":    "07 78787878787878",
		"aaaaaaaa\n": "09 61616161616161610a",
		"~":          "01 7e",
		"\n":         "01 0a",
		"\x00":       "01 00",
		"\xff":       "01 ff",
		"€":          "03 e282ac",
		"00000\n":    "06 30303030300a",
	} {
		b := unhex(t, want)
		writes(t, New(), addsNew(b, asIs("1")), field(text, "1"))
		writes(t, New(), addsNew(asIs("n"), b), field("n", text))
		writes(t, New(), addsNew(b, b), field(text, text))
		writes(t, New(), hidesNew(b, asIs("1")), secret(text, "1"))
		writes(t, New(), hidesNew(asIs("n"), b), secret("n", text))
		writes(t, after(t, field("n", "1")), adds(62, b), field("n", text))
		writes(t, after(t, field("n", "1")), hides(62, b), secret("n", text))
		if text != "" {
			writes(t, New(), adds(1, b), field(":authority", text))
		}
		writes(t, New(), hides(1, b), secret(":authority", text))
	}
}

// TestLengths: of one byte and more, of either kind of string. A code of "0"
// has five bits, one of "X" eight.
func TestLengths(t *testing.T) {
	for n, head := range map[int]string{1: "01", 126: "7e", 127: "7f00", 128: "7f01", 254: "7f7f", 255: "7f8001", 1000: "7fe906", api.MaxString: "7f817f"} {
		s := strings.Repeat("X", n)
		b := append(unhex(t, head), s...)
		writes(t, New(), addsNew(b, b), field(s, s))
		writes(t, New(), hides(1, b), secret(":authority", s))
	}
	for n, head := range map[int]string{200: "fd", 201: "fe", 202: "ff00", 203: "ff00", 204: "ff01", 406: "ff7f", 408: "ff8001", api.MaxString: "ff814f"} {
		s := strings.Repeat("0", n)
		b := append(unhex(t, head), huff.Encode([]byte(s))...)
		writes(t, New(), addsNew(b, b), field(s, s))
		writes(t, New(), hides(1, b), secret(":authority", s))
	}
}

// TestMaxString: just as long is right, whatever its Huffman text is; one more
// is not, though that may be far shorter.
func TestMaxString(t *testing.T) {
	for _, c := range []string{"0", "X", "\n", "\xff"} {
		most, more := strings.Repeat(c, api.MaxString), strings.Repeat(c, api.MaxString+1)
		write := asIs
		if c == "0" {
			write = packed
		}
		writes(t, New(), addsNew(write(most), write(most)), field(most, most))
		writes(t, New(), hidesNew(write(most), write(most)), secret(most, most))
		writes(t, New(), adds(38, write(most)), field("host", most))
		a := field("a", "1")
		for _, f := range []stat.Field{field(more, ""), field("", more), field(more, more), field(more, most), field("host", more), field("a", more), field(more, "1"), secret(more, ""), secret("host", more), field(more+more, more+more)} {
			for _, l := range [][]stat.Field{{f}, {f, a}, {field("b", "2"), f}, {a, field("b", "2"), f, field("c", "3")}, {f, f}, {field(most, most), f}} {
				refuses(t, New(), l...)
				e := after(t, a)
				refuses(t, e, l...)
				writes(t, e, append(index(62), addsNew(asIs("b"), asIs("2"))...), a, field("b", "2"))
			}
		}
	}
}

// TestLongKeepsLimits: P9.2: what is to be told stays so behind a list that is
// too long, and what was set ahead of it counts with what is set behind it.
func TestLongKeepsLimits(t *testing.T) {
	long := field("n", strings.Repeat("0", api.MaxString+1))
	for _, c := range []struct{ ahead, behind, limit []int }{
		{nil, nil, nil},
		{[]int{100}, nil, nil},
		{[]int{200}, nil, []int{200}},
		{[]int{50}, nil, []int{50}},
		{[]int{50, 200}, nil, []int{50, 200}},
		{[]int{50}, []int{100}, []int{50, 100}},
		{[]int{50}, []int{200}, []int{50, 200}},
		{[]int{50}, []int{20}, []int{20}},
		{[]int{200}, []int{100}, nil},
		{nil, []int{50}, []int{50}},
	} {
		e := New()
		e.Peer(100)
		writes(t, e, limit(100))
		peers(e, c.ahead...)
		for range 3 {
			refuses(t, e, field("a", "1"), long)
		}
		peers(e, c.behind...)
		refuses(t, e, long)
		var want []byte
		for _, n := range c.limit {
			want = append(want, limit(n)...)
		}
		writes(t, e, append(want, 0x88), field(":status", "200"))
		writes(t, e, nil)
	}
	e := New()
	e.Peer(100)
	refuses(t, e, long)
	writes(t, e, append(limit(100), addsNew(asIs("a"), asIs("1"))...), field("a", "1"))
	holds(t, e, 100, field("a", "1"))
}

// TestTableIsTheOneAtWork: whoever has it sees what goes on.
func TestTableIsTheOneAtWork(t *testing.T) {
	e := New()
	held := e.Table()
	a := field("a", "1")
	writes(t, e, addsNew(asIs("a"), asIs("1")), a)
	if f, ok := held.Get(1); !ok || f != a || e.Table() != held {
		t.Errorf("P9.3: %v", f)
	}
	e.Peer(33)
	if held.Len() != 0 || held.Most() != 33 || e.Table() != held {
		t.Errorf("P9.3: Len %d, Most %d", held.Len(), held.Most())
	}
	refuses(t, e, field("", strings.Repeat("0", api.MaxString+1)))
	writes(t, e, append(limit(33), index(2)...), field(":method", "GET"))
	if e.Table() != held {
		t.Error("P9.3: another table")
	}
}

// TestAskingChangesNothing: P0.5.
func TestAskingChangesNothing(t *testing.T) {
	e := after(t, field("a", "1"))
	e.Peer(50)
	for range 5 {
		holds(t, e, 50, field("a", "1"))
	}
	writes(t, e, append(limit(50), index(62)...), field("a", "1"))
}

// TestTakesNothingOver: P0.4: neither changed nor kept, nor is what lies behind
// the list's length read.
func TestTakesNothingOver(t *testing.T) {
	long := strings.Repeat("0", api.MaxString+1)
	l := []stat.Field{field("a", "1"), secret("b", "2"), field("a", "1"), field(":method", "GET"), field("c", "3"), field(long, long)}
	was := slices.Clone(l)
	e := New()
	writes(t, e, slices.Concat(addsNew(asIs("a"), asIs("1")), hidesNew(asIs("b"), asIs("2")), index(62), index(2)), l[:4]...)
	if !slices.Equal(l, was) {
		t.Errorf("P0.4: %v", l[:5])
	}
	refuses(t, e, l...)
	if !slices.Equal(l, was) {
		t.Errorf("P0.4: %v", l[:5])
	}
	clear(l)
	holds(t, e, api.MaxTable, field("a", "1"))
	writes(t, e, index(62), field("a", "1"))
}

// TestAnswersAreNew: P9.3: writing into what was answered, or behind it.
func TestAnswersAreNew(t *testing.T) {
	a, b := field("a", "1"), field("b", "2")
	e, other := New(), New()
	spoil := func(b []byte) {
		for i := range b[:cap(b)] {
			b[:cap(b)][i] = 0xee
		}
		_ = append(b, 0xee, 0xee, 0xee)
	}
	for i := range 5 {
		e.Peer(100 + i)
		want := slices.Concat(limit(100+i), addsNew(asIs("a"), asIs("1")), addsNew(asIs("b"), asIs("2")), index(2), hidesNew(packed("name"), asIs("X")))
		if i > 0 {
			want = slices.Concat(limit(100+i), index(63), index(62), index(2), hidesNew(packed("name"), asIs("X")))
		}
		l := []stat.Field{a, b, field(":method", "GET"), secret("name", "X")}
		got, err := e.Encode(l)
		if err != api.OK || !bytes.Equal(got, want) {
			t.Fatalf("P9.3: %x, %d, not %x", got, err, want)
		}
		kept, _ := e.Encode([]stat.Field{b, a})
		spoil(got)
		if !bytes.Equal(kept, append(index(62), index(63)...)) {
			t.Errorf("P9.3: %x", kept)
		}
		spoil(kept)
		holds(t, e, 100+i, b, a)
		f, _ := e.Table().Get(1)
		f.Name = "y"
		holds(t, e, 100+i, b, a)
		other.Peer(100 + i)
		writes(t, other, want, l...)
	}
}

// model is the encoder told another way: both tables as one list, gone through
// from its beginning, and all limits since the last block.
type model struct {
	table []stat.Field // the newest first
	told  int
	set   []int
}

func newModel() *model {
	return &model{told: api.MaxTable}
}

// most is the limit that holds.
func (m *model) most() int {
	if len(m.set) == 0 {
		return m.told
	}
	return m.set[len(m.set)-1]
}

func (m *model) cut() {
	for n := range m.table {
		if stat.Total(m.table[:n+1]) > m.most() {
			m.table = m.table[:n]
			return
		}
	}
}

func (m *model) peer(n int) {
	m.set = append(m.set, min(max(n, 0), api.MaxTable))
	m.cut()
}

// find is the first index that is as asked, of both tables; 0, if none is.
func (m *model) find(is func(f stat.Field) bool) int {
	var all []stat.Field
	for i := 1; i <= 61; i++ {
		f, _ := stat.Get(i)
		all = append(all, f)
	}
	return 1 + slices.IndexFunc(append(all, m.table...), is)
}

func (m *model) field(f stat.Field) []byte {
	both := m.find(func(x stat.Field) bool { return x.Name == f.Name && x.Value == f.Value })
	name := m.find(func(x stat.Field) bool { return x.Name == f.Name })
	switch {
	case both > 0 && !f.Never:
		return index(both)
	case f.Never && name > 0:
		return hides(name, shortest(f.Value))
	case f.Never:
		return hidesNew(shortest(f.Name), shortest(f.Value))
	}
	m.table = append([]stat.Field{f}, m.table...)
	m.cut()
	if name > 0 {
		return adds(name, shortest(f.Value))
	}
	return addsNew(shortest(f.Name), shortest(f.Value))
}

func (m *model) block(l []stat.Field) []byte {
	var b []byte
	most := m.most()
	if least := slices.Min(append(m.set, most)); least < most {
		b = append(limit(least), limit(most)...)
	} else if most != m.told {
		b = limit(most)
	}
	m.told, m.set = most, nil
	for _, f := range l {
		b = append(b, m.field(f)...)
	}
	return b
}

// anyLimit is often one of few, so that limits come again, and often out of
// bounds.
func anyLimit(r *rand.Rand) int {
	switch r.Intn(4) {
	case 0:
		return 100 * r.Intn(4)
	case 1:
		return r.Intn(400) - 20
	case 2:
		return r.Intn(api.MaxTable + 200)
	}
	return api.MaxTable
}

func anyText(r *rand.Rand) string {
	b := make([]byte, r.Intn(8))
	if r.Intn(20) == 0 {
		b = make([]byte, r.Intn(600))
	}
	mask := 1<<(1+r.Intn(8)) - 1
	for i := range b {
		b[i] = byte('0' + r.Intn(256)&mask)
	}
	return string(b)
}

// anyField is often one that is known ahead, or that came before.
func anyField(r *rand.Rand) stat.Field {
	f, _ := stat.Get(1 + r.Intn(61))
	switch r.Intn(4) {
	case 0:
		f = field("n"+strconv.Itoa(r.Intn(3+147*r.Intn(2))), strconv.Itoa(r.Intn(2)))
	case 1:
		f.Value = anyText(r)
	case 2:
		f = field(anyText(r), anyText(r))
	}
	f.Never = r.Intn(5) == 0
	return f
}

func anyList(r *rand.Rand) []stat.Field {
	l := make([]stat.Field, r.Intn(12))
	for i := range l {
		l[i] = anyField(r)
	}
	return l
}

// TestLongRows: P9.1 to P9.4 behind every block of long rows, with limits and
// lists that are too long between them.
func TestLongRows(t *testing.T) {
	r := rand.New(rand.NewSource(9))
	long := field("", strings.Repeat("0", api.MaxString+1))
	for row := range 60 {
		e, d, m := New(), unpack.New(), newModel()
		for range 120 {
			// In some rows limits are rare, so that the table is full.
			for range r.Intn(4) * r.Intn(2+row%3) / 2 {
				n := anyLimit(r)
				e.Peer(n)
				m.peer(n)
				holds(t, e, m.most(), m.table...)
			}
			l := anyList(r)
			if r.Intn(8) == 0 {
				refuses(t, e, slices.Insert(slices.Clone(l), r.Intn(len(l)+1), long)...)
			}
			was := slices.Clone(l)
			want := m.block(l)
			b, err := e.Encode(l)
			if err != api.OK || !bytes.Equal(b, want) {
				t.Fatalf("P9.2: %v: %x, %d, not %x", l, b, err, want)
			}
			if !slices.Equal(l, was) {
				t.Fatalf("P0.4: %v, not %v", l, was)
			}
			got, bad := d.Decode(b, 1<<30)
			if bad != api.OK || !slices.Equal(got, l) {
				t.Fatalf("P9.4: %x: %v, %d, not %v", b, got, bad, l)
			}
			holds(t, e, m.most(), m.table...)
			holds(t, e, d.Table().Most(), content(d.Table())...)
			if t.Failed() {
				return
			}
		}
	}
}
