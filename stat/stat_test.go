package stat

import (
	"math"
	"math/rand"
	"slices"
	"strings"
	"testing"
)

// appendix is RFC 7541's appendix A, a line an entry: index, name, value.
const appendix = `1|:authority|
2|:method|GET
3|:method|POST
4|:path|/
5|:path|/index.html
6|:scheme|http
7|:scheme|https
8|:status|200
9|:status|204
10|:status|206
11|:status|304
12|:status|400
13|:status|404
14|:status|500
15|accept-charset|
16|accept-encoding|gzip, deflate
17|accept-language|
18|accept-ranges|
19|accept|
20|access-control-allow-origin|
21|age|
22|allow|
23|authorization|
24|cache-control|
25|content-disposition|
26|content-encoding|
27|content-language|
28|content-length|
29|content-location|
30|content-range|
31|content-type|
32|cookie|
33|date|
34|etag|
35|expect|
36|expires|
37|from|
38|host|
39|if-match|
40|if-modified-since|
41|if-none-match|
42|if-range|
43|if-unmodified-since|
44|last-modified|
45|link|
46|location|
47|max-forwards|
48|proxy-authenticate|
49|proxy-authorization|
50|range|
51|referer|
52|refresh|
53|retry-after|
54|server|
55|set-cookie|
56|strict-transport-security|
57|transfer-encoding|
58|user-agent|
59|vary|
60|via|
61|www-authenticate|`

// entries has the appendix's names and values, the index 0 left empty.
func entries(t *testing.T) [][2]string {
	t.Helper()
	all := [][2]string{{}}
	for _, line := range strings.Split(appendix, "\n") {
		cells := strings.Split(line, "|")
		all = append(all, [2]string{cells[1], cells[2]})
	}
	if len(all) != 62 {
		t.Fatalf("the appendix has %d entries", len(all)-1)
	}
	return all
}

// plainFind goes through the appendix from its end, so that the lowest stays.
func plainFind(all [][2]string, name, value string) (int, int) {
	both, named := 0, 0
	for i := len(all) - 1; i > 0; i-- {
		if all[i][0] == name {
			named = i
			if all[i][1] == value {
				both = i
			}
		}
	}
	return both, named
}

func found(t *testing.T, name, value string, both, named int) {
	t.Helper()
	if b, n := Find(name, value); b != both || n != named {
		t.Errorf("P6.1: Find(%q, %q): %d, %d, not %d, %d", name, value, b, n, both, named)
	}
}

func TestGetOfEachIndex(t *testing.T) {
	for i, e := range entries(t) {
		if i == 0 {
			continue
		}
		if f, ok := Get(i); !ok || f != (Field{Name: e[0], Value: e[1]}) {
			t.Errorf("P6.1: Get(%d): %v, %v, not %q", i, f, ok, e)
		}
	}
}

func TestGetOfNoIndex(t *testing.T) {
	for _, i := range []int{0, -1, -2, -61, -62, 62, 63, 64, 122, 255, 256 + 2, 1<<16 + 2, 1<<32 + 2, -1<<32 + 2, math.MaxInt32, math.MinInt32, math.MaxInt - 1, math.MaxInt, math.MinInt, math.MinInt + 1, math.MinInt + 2} {
		if f, ok := Get(i); ok || f != (Field{}) {
			t.Errorf("P6.1: Get(%d): %v, %v", i, f, ok)
		}
	}
}

func TestFindOfSharedNames(t *testing.T) {
	found(t, ":method", "GET", 2, 2)
	found(t, ":method", "POST", 3, 2)
	found(t, ":method", "CONNECT", 0, 2)
	found(t, ":path", "/", 4, 4)
	found(t, ":path", "/index.html", 5, 4)
	found(t, ":path", "", 0, 4)
	found(t, ":scheme", "http", 6, 6)
	found(t, ":scheme", "https", 7, 6)
	found(t, ":scheme", "httpss", 0, 6)
	for i, code := range []string{"200", "204", "206", "304", "400", "404", "500"} {
		found(t, ":status", code, 8+i, 8)
	}
	found(t, ":status", "407", 0, 8)
	found(t, ":status", "", 0, 8)
}

// TestFindOfEachEntry: as it stands, and with a value that no entry has, or
// that an entry of another name has.
func TestFindOfEachEntry(t *testing.T) {
	all := entries(t)
	for i, e := range all {
		if i == 0 {
			continue
		}
		_, named := plainFind(all, e[0], e[1])
		found(t, e[0], e[1], i, named)
		for _, none := range []string{"x", " ", "\x00", e[1] + " ", e[1] + "\x00", e[0], "gzip,deflate", "/index", "2000"} {
			found(t, e[0], none, 0, named)
		}
		for _, other := range all {
			both, _ := plainFind(all, e[0], other[1])
			found(t, e[0], other[1], both, named)
		}
	}
}

func TestFindOfEmptyOnes(t *testing.T) {
	found(t, "", "", 0, 0)
	for _, e := range entries(t) {
		found(t, "", e[1], 0, 0)
		found(t, "", e[0], 0, 0)
	}
	found(t, ":authority", "", 1, 1)
	found(t, "via", "", 60, 60)
	found(t, "accept-encoding", "", 0, 16)
	found(t, ":method", "", 0, 2)
}

// TestFindOfNamesNearby: texts are compared byte by byte, so that a letter's
// case, a letter more and one fewer make another name.
func TestFindOfNamesNearby(t *testing.T) {
	all := entries(t)
	for _, e := range all[1:] {
		name, value := e[0], e[1]
		for i, c := range []byte(name) {
			if c >= 'a' && c <= 'z' {
				found(t, name[:i]+string(rune(c-'a'+'A'))+name[i+1:], value, 0, 0)
			}
			found(t, name[:i]+string(rune(c))+name[i:], value, 0, 0)
		}
		for _, more := range []string{"x", "-", " ", ":", "\x00", "\xff"} {
			found(t, name+more, value, 0, 0)
			found(t, more+name, value, 0, 0)
		}
		found(t, strings.ToUpper(name), value, 0, 0)
		both, named := plainFind(all, name[1:], value)
		found(t, name[1:], value, both, named)
		both, named = plainFind(all, name[:len(name)-1], value)
		found(t, name[:len(name)-1], value, both, named)
	}
}

func TestFindOfValuesNearby(t *testing.T) {
	for i, e := range entries(t) {
		name, value := e[0], e[1]
		if i == 0 || value == "" {
			continue
		}
		_, named := Find(name, value)
		for _, other := range []string{value + "x", "x" + value, value + " ", strings.ToUpper(value) + "!", strings.ToLower(value) + "!"} {
			found(t, name, other, 0, named)
		}
		if upper := strings.ToUpper(value); upper != value {
			found(t, name, upper, 0, named)
		}
		if lower := strings.ToLower(value); lower != value {
			found(t, name, lower, 0, named)
		}
	}
}

func TestFindOfOthers(t *testing.T) {
	for _, name := range []string{"x-none", "connection", "te", "upgrade", ":protocol", "method", "GET", "gzip, deflate", "\x00", "\xff", "é", strings.Repeat("a", 1<<16)} {
		for _, value := range []string{"", "GET", "200", "/", name} {
			found(t, name, value, 0, 0)
		}
	}
	found(t, "via", strings.Repeat("a", 1<<16), 0, 60)
	// Name and value are not one text that is cut elsewhere.
	found(t, ":methodGET", "", 0, 0)
	found(t, ":metho", "dGET", 0, 0)
	found(t, ":methodG", "ET", 0, 0)
	found(t, "GET", ":method", 0, 0)
}

func TestFindOfGet(t *testing.T) {
	for i := 1; i <= 61; i++ {
		f, _ := Get(i)
		both, named := Find(f.Name, f.Value)
		// No two entries of the appendix are alike, so that it is the index itself.
		if both != i {
			t.Errorf("P6.2: Find of Get(%d): %d", i, both)
		}
		if g, ok := Get(named); !ok || g.Name != f.Name || named > both {
			t.Errorf("P6.2: Find of Get(%d): the name at %d", i, named)
		}
		if g, ok := Get(named - 1); ok && g.Name == f.Name {
			t.Errorf("P6.2: Find of Get(%d): the name is at %d too", i, named-1)
		}
	}
}

func TestSize(t *testing.T) {
	long := strings.Repeat("x", 1<<20)
	for _, c := range []struct {
		f    Field
		want int
	}{
		{Field{}, 32},
		{Field{Never: true}, 32},
		{Field{Name: "a"}, 33},
		{Field{Value: "a"}, 33},
		{Field{Name: "a", Value: "bc"}, 35},
		{Field{Name: "ab", Value: "c"}, 35},
		{Field{Name: ":method", Value: "GET"}, 42},
		{Field{Name: ":method", Value: "GET", Never: true}, 42},
		// RFC 7541's appendix C.2.1.
		{Field{Name: "custom-key", Value: "custom-header"}, 55},
		// Bytes are counted, not letters.
		{Field{Name: "é", Value: "\x00"}, 35},
		{Field{Name: "\u20ac", Value: "\U0001f600"}, 39},
		{Field{Name: "\xff\xfe", Value: "\x80"}, 35},
		{Field{Name: "\x00\x00", Value: "\r\n"}, 36},
		{Field{Name: " a ", Value: "\t"}, 36},
		{Field{Name: long}, 1<<20 + 32},
		{Field{Value: long}, 1<<20 + 32},
		{Field{Name: long, Value: long + "é", Never: true}, 1<<21 + 34},
	} {
		if n := Size(c.f); n != c.want {
			t.Errorf("P6.1: Size of %d and %d bytes: %d, not %d", len(c.f.Name), len(c.f.Value), n, c.want)
		}
	}
}

func TestTotal(t *testing.T) {
	long := strings.Repeat("x", 1<<20)
	for _, c := range []struct {
		l    []Field
		want int
	}{
		{nil, 0},
		{[]Field{}, 0},
		{[]Field{{Name: "a"}}[:0], 0},
		{[]Field{{}}, 32},
		{[]Field{{Name: "a", Value: "bc"}}, 35},
		{[]Field{{Name: "a", Value: "bc"}, {}, {Name: "é", Value: "\x00", Never: true}}, 102},
		{[]Field{{Name: "a"}, {Name: "a"}, {Name: "a"}}, 99},
		{[]Field{{Name: long, Value: long}, {Value: long}}, 3<<20 + 64},
		{make([]Field, 100000), 3200000},
		// RFC 7541's appendix C.3.3: the table at its end.
		{[]Field{{Name: "custom-key", Value: "custom-value"}, {Name: "cache-control", Value: "no-cache"}, {Name: ":authority", Value: "www.example.com"}}, 164},
	} {
		if n := Total(c.l); n != c.want {
			t.Errorf("P6.1: Total of %d fields: %d, not %d", len(c.l), n, c.want)
		}
	}
}

// TestTotalOfAny: lists at random, whose lengths are counted as they are made.
func TestTotalOfAny(t *testing.T) {
	r := rand.New(rand.NewSource(6))
	for range 500 {
		var l []Field
		want := 0
		for range r.Intn(50) {
			name, value := r.Intn(100), r.Intn(100)
			l = append(l, Field{Name: anyBytes(r, name), Value: anyBytes(r, value), Never: r.Intn(2) == 0})
			want += name + value + 32
		}
		if n := Total(l); n != want {
			t.Fatalf("P6.1: Total(%v): %d, not %d", l, n, want)
		}
	}
}

func anyBytes(r *rand.Rand, n int) string {
	b := make([]byte, n)
	r.Read(b)
	return string(b)
}

// same: held both ways round.
func same(t *testing.T, a, b []Field, want bool) {
	t.Helper()
	if Same(a, b) != want || Same(b, a) != want {
		t.Errorf("P6.1: Same(%v, %v): %v, %v, not %v", a, b, Same(a, b), Same(b, a), want)
	}
}

func TestSameOfAlike(t *testing.T) {
	list := []Field{{Name: "a", Value: "b"}, {}, {Name: "c", Value: "d", Never: true}, {Name: "a", Value: "b"}}
	same(t, list, list, true)
	same(t, list, slices.Clone(list), true)
	for i := range list {
		other := slices.Clone(list)
		other[i].Never = !other[i].Never
		same(t, list, other, true)
	}
	same(t, nil, nil, true)
	same(t, nil, []Field{}, true)
	same(t, []Field{}, []Field{}, true)
	same(t, nil, list[:0], true)
	same(t, list[:0], list[4:], true)
	same(t, list[:1], list[3:], true)
}

func TestSameOfOthers(t *testing.T) {
	list := []Field{{Name: "a", Value: "b"}, {}, {Name: "c", Value: "d", Never: true}, {Name: "e", Value: "\x00\xff"}}
	for i := range list {
		other := slices.Clone(list)
		other[i].Name += "x"
		same(t, list, other, false)
		other = slices.Clone(list)
		other[i].Value += "x"
		same(t, list, other, false)
		same(t, list, list[:i], false)
		same(t, list, list[i+1:], false)
		for j := range i {
			other = slices.Clone(list)
			other[i], other[j] = other[j], other[i]
			same(t, list, other, false)
		}
	}
	same(t, list, append(slices.Clone(list), Field{}), false)
	same(t, nil, []Field{{}}, false)
	same(t, []Field{}, []Field{{}}, false)
	same(t, []Field{{}}, []Field{{}, {}}, false)
	// A name and a value are not one text, nor the same the other way round.
	same(t, []Field{{Name: "ab", Value: "c"}}, []Field{{Name: "a", Value: "bc"}}, false)
	same(t, []Field{{Name: "a", Value: "b"}}, []Field{{Name: "b", Value: "a"}}, false)
	same(t, []Field{{Name: "a"}}, []Field{{Value: "a"}}, false)
	same(t, []Field{{Name: "via"}}, []Field{{Name: "Via"}}, false)
	same(t, []Field{{Name: "via", Value: "x"}}, []Field{{Name: "via", Value: "X"}}, false)
	same(t, []Field{{Name: "a", Value: "\xff"}}, []Field{{Name: "a", Value: "\xfe"}}, false)
	same(t, []Field{{Name: "a", Value: "\xff"}}, []Field{{Name: "a", Value: "\ufffd"}}, false)
}

// TestWhatIsHandedIn: behind what is handed in lies more, which is neither
// read nor written.
func TestWhatIsHandedIn(t *testing.T) {
	was := []Field{{Name: "a", Value: "b", Never: true}, {Name: "c", Value: "d"}, {Name: "e", Value: "f", Never: true}}
	for n := range len(was) + 1 {
		a, b := slices.Clone(was), slices.Clone(was)
		b[2].Value = "other"
		if got := Total(a[:n]); got != 34*n {
			t.Errorf("P0.4: Total of %d: %d", n, got)
		}
		if got := Same(a[:n], b[:n]); got != (n < 3) {
			t.Errorf("P0.4: Same of %d: %v", n, got)
		}
		b[2].Value = "f"
		if !slices.Equal(a, was) || !slices.Equal(b, was) {
			t.Errorf("P0.4: changed: %v, %v", a, b)
		}
	}
}

// TestWhatIsAnswered: what is written into an answer shows in no other one.
func TestWhatIsAnswered(t *testing.T) {
	for i, e := range entries(t) {
		if i == 0 {
			continue
		}
		f, _ := Get(i)
		f.Name, f.Value, f.Never = "x", "y", true
		if g, ok := Get(i); !ok || g != (Field{Name: e[0], Value: e[1]}) {
			t.Errorf("P0.4: Get(%d) behind a change: %v", i, g)
		}
		found(t, "x", "y", 0, 0)
	}
}

// TestOrderOfCalls: what is answered does not hang on what was asked before.
func TestOrderOfCalls(t *testing.T) {
	all := entries(t)
	r := rand.New(rand.NewSource(66))
	for range 5000 {
		Get(r.Intn(200) - 100)
		name, value := all[r.Intn(62)][0], all[r.Intn(62)][1]
		both, named := plainFind(all, name, value)
		found(t, name, value, both, named)
		i := 1 + r.Intn(61)
		if f, ok := Get(i); !ok || f != (Field{Name: all[i][0], Value: all[i][1]}) {
			t.Fatalf("P0.5: Get(%d): %v", i, f)
		}
	}
}
