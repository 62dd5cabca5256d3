package dyn

import (
	"math"
	"math/rand"
	"slices"
	"strconv"
	"strings"
	"testing"

	"wayleave/api"
	"wayleave/stat"
)

// outside are numbers that are no Most.
var outside = []int{-1, -2, -40, -4096, api.MaxTable + 1, api.MaxTable + 2, 2 * api.MaxTable, 1 << 16, 1<<32 + 40, -1<<32 + 40, math.MaxInt32, math.MinInt32, math.MaxInt - 1, math.MaxInt, math.MinInt, math.MinInt + 40}

func made(t *testing.T, most int) *Table {
	t.Helper()
	x, e := New(most)
	if x == nil || e != api.OK {
		t.Fatalf("P7.1: New(%d): %v, %d", most, x, e)
	}
	return x
}

func field(name, value string) stat.Field {
	return stat.Field{Name: name, Value: value}
}

// sized is a field of size bytes, 33 at least, whose name begins with mark.
func sized(mark string, size int) stat.Field {
	return field(mark, strings.Repeat("v", size-32-len(mark)))
}

// filled has the fields added in their order.
func filled(t *testing.T, most int, l ...stat.Field) *Table {
	t.Helper()
	x := made(t, most)
	for _, f := range l {
		x.Add(f)
	}
	return x
}

// holds asks for all that the table tells: want is the newest first.
func holds(t *testing.T, x *Table, most int, want ...stat.Field) {
	t.Helper()
	if x.Most() != most {
		t.Errorf("P7.1: Most: %d, not %d", x.Most(), most)
	}
	if x.Len() != len(want) {
		t.Errorf("P7.1: Len: %d, not %d", x.Len(), len(want))
	}
	var all []stat.Field
	for i, w := range want {
		f, ok := x.Get(i + 1)
		if !ok || f != w {
			t.Errorf("P7.1: Get(%d): %v, %v, not %v", i+1, f, ok, w)
		}
		all = append(all, f)
	}
	if f, ok := x.Get(len(want) + 1); ok || f != (stat.Field{}) {
		t.Errorf("P7.1: Get(%d): %v, %v", len(want)+1, f, ok)
	}
	if x.Size() != stat.Total(all) || x.Size() != stat.Total(want) {
		t.Errorf("P7.1: Size: %d, not %d", x.Size(), stat.Total(want))
	}
	if x.Size() > x.Most() {
		t.Errorf("P7.2: Size %d, Most %d", x.Size(), x.Most())
	}
}

func found(t *testing.T, x *Table, name, value string, both, named int) {
	t.Helper()
	if b, n := x.Find(name, value); b != both || n != named {
		t.Errorf("P7.1: Find(%q, %q): %d, %d, not %d, %d", name, value, b, n, both, named)
	}
}

func TestNewWithinBounds(t *testing.T) {
	for _, most := range []int{0, 1, 31, 32, 33, 40, 100, api.MaxTable - 1, api.MaxTable} {
		x := made(t, most)
		holds(t, x, most)
		found(t, x, "", "", 0, 0)
		found(t, x, "a", "", 0, 0)
	}
}

func TestNewOutside(t *testing.T) {
	for _, most := range outside {
		if x, e := New(most); x != nil || e != api.ErrRange {
			t.Errorf("P7.1: New(%d): %v, %d", most, x, e)
		}
	}
}

// TestExample is the chapter's own.
func TestExample(t *testing.T) {
	x := made(t, 40)
	x.Add(field("a", ""))
	holds(t, x, 40, field("a", ""))
	x.Add(field("b", ""))
	holds(t, x, 40, field("b", ""))
}

func TestAddJustGoesIn(t *testing.T) {
	for _, size := range []int{33, 34, 100, api.MaxTable - 1, api.MaxTable} {
		f := sized("a", size)
		holds(t, filled(t, size, f), size, f)
		holds(t, filled(t, size-1, f), size-1)
	}
	holds(t, filled(t, 32, field("", "")), 32, field("", ""))
	holds(t, filled(t, 31, field("", "")), 31)
	holds(t, filled(t, 0, field("", "")), 0)
}

func TestAddFillsToTheByte(t *testing.T) {
	a, b, c := sized("a", 33), sized("b", 40), sized("c", 50)
	holds(t, filled(t, 123, a, b, c), 123, c, b, a)
	holds(t, filled(t, 122, a, b, c), 122, c, b)
	holds(t, filled(t, 90, a, b, c), 90, c, b)
	holds(t, filled(t, 89, a, b, c), 89, c)
}

func TestAddDrivesOut(t *testing.T) {
	a, b, c := sized("a", 40), sized("b", 33), sized("c", 60)
	for _, k := range []struct {
		size int
		left []stat.Field
	}{
		{67, []stat.Field{c, b, a}},
		{68, []stat.Field{c, b}},
		{107, []stat.Field{c, b}},
		{108, []stat.Field{c}},
		{140, []stat.Field{c}},
		{141, nil},
		{200, nil},
	} {
		x := filled(t, 200, a, b, c)
		d := sized("d", k.size)
		x.Add(d)
		holds(t, x, 200, append([]stat.Field{d}, k.left...)...)
	}
}

// TestAddTooGreat: the eldest go until it goes in, which it never does, so
// that none is left; the table takes others as ever.
func TestAddTooGreat(t *testing.T) {
	for _, size := range []int{101, 102, api.MaxTable + 1, 1 << 20} {
		x := filled(t, 100, field("a", ""), field("b", "1"))
		x.Add(sized("c", size))
		holds(t, x, 100)
		found(t, x, "a", "", 0, 0)
		found(t, x, "c", "", 0, 0)
		x.Add(field("d", ""))
		holds(t, x, 100, field("d", ""))
	}
	x := filled(t, 100, sized("c", 101))
	holds(t, x, 100)
	x = filled(t, api.MaxTable, field("a", ""), field(strings.Repeat("n", api.MaxTable-31), ""))
	holds(t, x, api.MaxTable)
}

func TestAddForgetsNever(t *testing.T) {
	x := filled(t, 100, stat.Field{Name: "a", Value: "1", Never: true}, field("b", ""))
	x.Add(stat.Field{Never: true})
	holds(t, x, 100, field("", ""), field("b", ""), field("a", "1"))
	found(t, x, "a", "1", 3, 3)
}

func TestAddOfTheSameTwice(t *testing.T) {
	f := field("a", "1")
	x := filled(t, 102, f, f)
	holds(t, x, 102, f, f)
	found(t, x, "a", "1", 1, 1)
	x.Add(f)
	holds(t, x, 102, f, f, f)
	x.Add(f)
	holds(t, x, 102, f, f, f)
}

// TestAddMany: the fields move through the table in order, however many come.
func TestAddMany(t *testing.T) {
	x := made(t, api.MaxTable)
	for i := range 1000 {
		x.Add(field(strconv.Itoa(i%10), ""))
		count := min(i+1, api.MaxTable/33)
		if x.Len() != count || x.Size() != 33*count {
			t.Fatalf("P7.1: %d added: Len %d, Size %d", i+1, x.Len(), x.Size())
		}
		for k := range count {
			if f, ok := x.Get(k + 1); !ok || f != field(strconv.Itoa((i-k)%10), "") {
				t.Fatalf("P7.1: %d added: Get(%d): %v, %v", i+1, k+1, f, ok)
			}
		}
	}
	y := made(t, api.MaxTable)
	for range 200 {
		y.Add(field("", ""))
	}
	if y.Len() != 128 || y.Size() != api.MaxTable {
		t.Errorf("P7.1: Len %d, Size %d", y.Len(), y.Size())
	}
}

// TestSizeCountsBytes: a rune of three bytes is three.
func TestSizeCountsBytes(t *testing.T) {
	x := filled(t, 40, field("€", "é"))
	holds(t, x, 40, field("€", "é"))
	if x.Size() != 37 {
		t.Errorf("P7.1: Size: %d", x.Size())
	}
	holds(t, filled(t, 36, field("€", "é")), 36)
}

func TestLimitWithinBounds(t *testing.T) {
	for _, n := range []int{0, 1, 31, 32, 40, api.MaxTable - 1, api.MaxTable} {
		x := made(t, 100)
		if e := x.Limit(n); e != api.OK {
			t.Errorf("P7.1: Limit(%d): %d", n, e)
		}
		holds(t, x, n)
	}
}

func TestLimitOutside(t *testing.T) {
	a, b := field("a", "1"), field("b", "")
	for _, n := range outside {
		x := filled(t, 100, a, b)
		if e := x.Limit(n); e != api.ErrRange {
			t.Errorf("P7.1: Limit(%d): %d", n, e)
		}
		holds(t, x, 100, b, a)
		found(t, x, "a", "1", 2, 2)
		x.Add(field("", ""))
		holds(t, x, 100, field("", ""), b, a)
	}
}

func TestLimitDrivesOut(t *testing.T) {
	a, b, c := sized("a", 40), sized("b", 33), sized("c", 60)
	for _, k := range []struct {
		n    int
		left []stat.Field
	}{
		{api.MaxTable, []stat.Field{c, b, a}},
		{200, []stat.Field{c, b, a}},
		{134, []stat.Field{c, b, a}},
		{133, []stat.Field{c, b, a}},
		{132, []stat.Field{c, b}},
		{93, []stat.Field{c, b}},
		{92, []stat.Field{c}},
		{60, []stat.Field{c}},
		{59, nil},
		{33, nil},
		{0, nil},
	} {
		x := filled(t, 200, a, b, c)
		if e := x.Limit(k.n); e != api.OK {
			t.Errorf("P7.1: Limit(%d): %d", k.n, e)
		}
		holds(t, x, k.n, k.left...)
	}
}

func TestLimitUpAgain(t *testing.T) {
	a, b, c := sized("a", 40), sized("b", 33), sized("c", 60)
	x := filled(t, 200, a, b, c)
	x.Limit(93)
	x.Limit(200)
	holds(t, x, 200, c, b)
	found(t, x, a.Name, a.Value, 0, 0)
	d := sized("d", 107)
	x.Add(d)
	holds(t, x, 200, d, c, b)
	x.Limit(0)
	x.Limit(api.MaxTable)
	holds(t, x, api.MaxTable)
	x.Add(a)
	holds(t, x, api.MaxTable, a)
}

// TestLimitHoldsForAdd: what goes in hangs on the limit that was set last.
func TestLimitHoldsForAdd(t *testing.T) {
	x := made(t, 0)
	x.Limit(33)
	x.Add(field("a", ""))
	holds(t, x, 33, field("a", ""))
	x.Limit(66)
	x.Add(field("b", ""))
	holds(t, x, 66, field("b", ""), field("a", ""))
	x.Limit(65)
	x.Add(field("c", ""))
	holds(t, x, 65, field("c", ""))
}

func TestGetOfNoIndex(t *testing.T) {
	x := filled(t, 200, field("a", ""), field("b", ""), field("c", ""))
	holds(t, x, 200, field("c", ""), field("b", ""), field("a", ""))
	for _, i := range []int{0, -1, -2, -3, 4, 5, 62, 1<<16 + 1, 1<<32 + 1, -1<<32 + 1, math.MaxInt32, math.MinInt32, math.MaxInt - 1, math.MaxInt, math.MinInt, math.MinInt + 1} {
		if f, ok := x.Get(i); ok || f != (stat.Field{}) {
			t.Errorf("P7.1: Get(%d): %v, %v", i, f, ok)
		}
	}
}

func TestFind(t *testing.T) {
	x := filled(t, api.MaxTable, field("a", "1"), field("b", "1"), field("a", "2"), field("a", "1"), field("c", ""), field("a", "3"))
	found(t, x, "a", "3", 1, 1)
	found(t, x, "c", "", 2, 2)
	found(t, x, "a", "1", 3, 1)
	found(t, x, "a", "2", 4, 1)
	found(t, x, "b", "1", 5, 5)
	found(t, x, "a", "4", 0, 1)
	found(t, x, "a", "", 0, 1)
	found(t, x, "b", "2", 0, 5)
	found(t, x, "c", "1", 0, 2)
	found(t, x, "d", "1", 0, 0)
	found(t, x, "1", "a", 0, 0)
	found(t, x, "A", "1", 0, 0)
	found(t, x, "aa", "1", 0, 0)
	found(t, x, "a\x00", "1", 0, 0)
	found(t, x, "", "", 0, 0)
	found(t, x, "", "1", 0, 0)
}

func TestFindOfEmptyTexts(t *testing.T) {
	x := filled(t, api.MaxTable, field("", ""), field("", "1"), field("a", ""))
	found(t, x, "", "", 3, 2)
	found(t, x, "", "1", 2, 2)
	found(t, x, "", "2", 0, 2)
	found(t, x, "a", "", 1, 1)
}

// TestFindBehindWhatWent: neither what went nor the place it had is found.
func TestFindBehindWhatWent(t *testing.T) {
	x := filled(t, 102, field("a", "1"), field("b", "2"), field("c", "3"))
	found(t, x, "a", "1", 3, 3)
	x.Add(field("b", "4"))
	found(t, x, "a", "1", 0, 0)
	found(t, x, "b", "2", 3, 1)
	found(t, x, "c", "3", 2, 2)
	x.Limit(68)
	found(t, x, "b", "2", 0, 1)
	found(t, x, "c", "3", 2, 2)
}

// TestFindKnowsNoStatic: what is known ahead is stat's alone.
func TestFindKnowsNoStatic(t *testing.T) {
	x := made(t, api.MaxTable)
	found(t, x, ":method", "GET", 0, 0)
	x.Add(field(":method", "GET"))
	found(t, x, ":method", "GET", 1, 1)
}

// TestNothingIsShared: P0.4 and P0.5.
func TestNothingIsShared(t *testing.T) {
	name, value := []byte("name"), []byte("value")
	l := []stat.Field{{Name: string(name), Value: string(value), Never: true}, field("b", "1")}
	before := slices.Clone(l)
	x, y := filled(t, 200, l...), filled(t, 200, l...)
	if !slices.Equal(l, before) {
		t.Errorf("P0.4: %v", l)
	}
	name[0], value[0] = 'x', 'x'
	l[0], l[1] = field("x", "x"), field("y", "y")
	f, _ := x.Get(1)
	f.Name, f.Value = "z", "z"
	holds(t, x, 200, field("b", "1"), field("name", "value"))
	x.Add(field("c", ""))
	x.Limit(40)
	holds(t, x, 40, field("c", ""))
	holds(t, y, 200, field("b", "1"), field("name", "value"))
}

// TestAskingChangesNothing: P0.5.
func TestAskingChangesNothing(t *testing.T) {
	a, b := field("a", "1"), field("b", "2")
	x := filled(t, 100, a, b)
	for range 3 {
		holds(t, x, 100, b, a)
		found(t, x, "a", "1", 2, 2)
		found(t, x, "a", "2", 0, 2)
		found(t, x, "c", "", 0, 0)
	}
}

// model is the table told plainly: all that came in, the newest first.
type model struct {
	l    []stat.Field
	most int
}

func (m *model) add(f stat.Field) {
	f.Never = false
	m.l = append([]stat.Field{f}, m.l...)
	m.cut()
}

// cut keeps as many of the newest as go in: none, if the newest does not.
func (m *model) cut() {
	for n := range m.l {
		if stat.Total(m.l[:n+1]) > m.most {
			m.l = m.l[:n]
			return
		}
	}
}

// find goes from the eldest on, so that the newest stays.
func (m *model) find(name, value string) (int, int) {
	both, named := 0, 0
	for i := len(m.l); i > 0; i-- {
		if m.l[i-1].Name == name {
			named = i
			if m.l[i-1].Value == value {
				both = i
			}
		}
	}
	return both, named
}

func anyField(r *rand.Rand) stat.Field {
	name := []string{"", "a", "b", "c", "cookie"}[r.Intn(5)]
	length := r.Intn(4)
	if r.Intn(8) == 0 {
		length = r.Intn(400)
	}
	return stat.Field{Name: name, Value: strings.Repeat("v", length), Never: r.Intn(4) == 0}
}

// step makes one call of the table and of the model.
func step(t *testing.T, r *rand.Rand, x *Table, m *model) {
	t.Helper()
	switch r.Intn(12) {
	case 0:
		m.most = r.Intn(400)
		m.cut()
		if e := x.Limit(m.most); e != api.OK {
			t.Errorf("P7.1: Limit(%d): %d", m.most, e)
		}
	case 1:
		n := outside[r.Intn(len(outside))]
		if e := x.Limit(n); e != api.ErrRange {
			t.Errorf("P7.1: Limit(%d): %d", n, e)
		}
	default:
		f := anyField(r)
		x.Add(f)
		m.add(f)
	}
}

// TestLongRows: P7.1 and P7.2 behind every call.
func TestLongRows(t *testing.T) {
	r := rand.New(rand.NewSource(7))
	for range 60 {
		m := &model{most: r.Intn(400)}
		x := made(t, m.most)
		for range 200 {
			step(t, r, x, m)
			holds(t, x, m.most, m.l...)
			f := anyField(r)
			both, named := m.find(f.Name, f.Value)
			found(t, x, f.Name, f.Value, both, named)
			if t.Failed() {
				return
			}
		}
	}
}
