package sets

import (
	"fmt"
	"math"
	"math/rand"
	"testing"

	"wayleave/api"
	"wayleave/part"
)

// The document's numbers, written out.
const (
	most  = 2147483647 // MaxPint and MaxWindow
	small = 16384      // the least frame
	great = 16777215   // the greatest one
)

func TestLimits(t *testing.T) {
	if api.MaxPint != most || api.MaxWindow != most {
		t.Errorf("MaxPint, MaxWindow: %d, %d", api.MaxPint, api.MaxWindow)
	}
}

// The faults that Apply may tell, and none.
var (
	none     = api.Fault{}
	protocol = api.Fault{Bad: true, Conn: true, Code: 1}
	flow     = api.Fault{Bad: true, Conn: true, Code: 3}
)

// first is what First should be; other has no number of it.
var (
	first = Sets{Table: 4096, Push: 1, Streams: most, Window: 65535, Frame: 16384, List: most}
	other = Sets{Table: 11, Push: 0, Streams: 33, Window: 44, Frame: 55555, List: 66}
)

// odd has numbers that no settings come to have; Apply takes them as they are.
var odd = Sets{Table: math.MaxInt, Push: 9, Streams: -1, Window: math.MinInt, Frame: 0, List: most + 1}

// begins has the settings that calls begin from.
func begins() []Sets {
	return []Sets{first, other, odd, {}}
}

// edges has the values at which something may change, and ordinary ones.
func edges() []int {
	return []int{
		math.MinInt, math.MinInt + 1, -1 << 32, -most - 2, -most - 1, -most, -65536, -great, -small, -2, -1,
		0, 1, 2, 3, 77, 4095, 4096, 4097, small - 1, small, small + 1, 65535, 65536, great - 1, great, great + 1,
		most - 1, most, most + 1, most + 2, 1<<32 - 1, 1 << 32, 1<<32 + 1, 1 << 53, math.MaxInt - 1, math.MaxInt,
	}
}

// strangers has IDs that are none of 1 to 6.
func strangers() []int {
	return []int{
		math.MinInt, -1 << 32, -65536, -6, -5, -4, -3, -2, -1, 0, 7, 8, 9, 16, 255, 256, 257, 258,
		65535, 65536, 65537, 65540, 1<<32 + 2, 1<<32 + 5, math.MaxInt - 1, math.MaxInt,
	}
}

// at is where an ID's number stands in settings.
func at(s *Sets, id int) *int {
	return map[int]*int{1: &s.Table, 2: &s.Push, 3: &s.Streams, 4: &s.Window, 5: &s.Frame, 6: &s.List}[id]
}

// wantOne is what s is behind one setting, worked out by a table of bounds.
func wantOne(s Sets, one part.Set) (Sets, api.Fault) {
	bounds := map[int]struct {
		least, greatest int
		cut             bool
		fault           api.Fault
	}{
		1: {math.MinInt, most, true, none},
		2: {0, 1, false, protocol},
		3: {math.MinInt, most, true, none},
		4: {math.MinInt, most, false, flow},
		5: {small, great, false, protocol},
		6: {math.MinInt, most, true, none},
	}
	b, known := bounds[one.ID]
	switch {
	case !known:
		return s, none
	case one.Value >= b.least && one.Value <= b.greatest:
		*at(&s, one.ID) = one.Value
	case b.cut:
		*at(&s, one.ID) = b.greatest
	default:
		return Sets{}, b.fault
	}
	return s, none
}

// want is what Apply should answer.
func want(s Sets, l []part.Set) (Sets, api.Fault) {
	for _, one := range l {
		next, x := wantOne(s, one)
		if x.Bad {
			return Sets{}, x
		}
		s = next
	}
	return s, none
}

// check calls Apply once and looks at what it answers, and at what was handed
// in, with the memory behind it.
func check(t *testing.T, s Sets, l []part.Set, wanted Sets, fault api.Fault) {
	t.Helper()
	behind := []part.Set{{ID: 1, Value: 5}, {ID: 2, Value: 9}, {ID: 4, Value: math.MaxInt}}
	memory := append(append(make([]part.Set, 0, len(l)+len(behind)), l...), behind...)
	var handed []part.Set
	if l != nil {
		handed = memory[:len(l)]
	}
	got, x := Apply(s, handed)
	if got != wanted || x != fault {
		t.Fatalf("P13.1: Apply(%+v, %s): %+v, %+v, not %+v, %+v", s, told(l), got, x, wanted, fault)
	}
	for i, one := range l {
		if memory[i] != one {
			t.Fatalf("P0.4: Apply(%+v, %s) made setting %d %v", s, told(l), i, memory[i])
		}
	}
	for i, one := range behind {
		if memory[len(l)+i] != one {
			t.Fatalf("P0.4: Apply(%+v, %s) wrote behind the list", s, told(l))
		}
	}
	if again, y := Apply(s, handed); again != got || y != x {
		t.Fatalf("P0.5: Apply(%+v, %s) anew: %+v, %+v", s, told(l), again, y)
	}
}

// told is a list, shortened.
func told(l []part.Set) string {
	if len(l) > 8 {
		return fmt.Sprintf("%v and %d more", l[:8], len(l)-8)
	}
	return fmt.Sprint(l)
}

func TestFirst(t *testing.T) {
	got := First()
	for _, c := range []struct {
		name      string
		got, want int
	}{
		{"Table", got.Table, 4096}, {"Push", got.Push, 1}, {"Streams", got.Streams, most},
		{"Window", got.Window, 65535}, {"Frame", got.Frame, 16384}, {"List", got.List, most},
	} {
		if c.got != c.want {
			t.Errorf("P13.1: First's %s: %d, not %d", c.name, c.got, c.want)
		}
	}
	got.Table, got.Push = 7, 0
	if First() != first {
		t.Errorf("P0.5: First anew: %+v", First())
	}
}

// Apply of none is s, whatever s is.
func TestNone(t *testing.T) {
	for _, s := range append(begins(), Sets{1, 2, 3, 4, 5, 6}, Sets{Push: -1}, Sets{Window: math.MaxInt}) {
		check(t, s, nil, s, none)
		check(t, s, []part.Set{}, s, none)
	}
}

// Each ID moves its own field, from settings that have no number of First's.
func TestEach(t *testing.T) {
	for _, c := range []struct {
		one  part.Set
		want Sets
	}{
		{part.Set{ID: 1, Value: 100}, Sets{Table: 100, Push: 0, Streams: 33, Window: 44, Frame: 55555, List: 66}},
		{part.Set{ID: 2, Value: 1}, Sets{Table: 11, Push: 1, Streams: 33, Window: 44, Frame: 55555, List: 66}},
		{part.Set{ID: 3, Value: 300}, Sets{Table: 11, Push: 0, Streams: 300, Window: 44, Frame: 55555, List: 66}},
		{part.Set{ID: 4, Value: 400}, Sets{Table: 11, Push: 0, Streams: 33, Window: 400, Frame: 55555, List: 66}},
		{part.Set{ID: 5, Value: 50000}, Sets{Table: 11, Push: 0, Streams: 33, Window: 44, Frame: 50000, List: 66}},
		{part.Set{ID: 6, Value: 600}, Sets{Table: 11, Push: 0, Streams: 33, Window: 44, Frame: 55555, List: 600}},
	} {
		check(t, other, []part.Set{c.one}, c.want, none)
	}
	all := []part.Set{{ID: 6, Value: 1}, {ID: 4, Value: 2}, {ID: 2, Value: 0}, {ID: 5, Value: small}, {ID: 3, Value: 3}, {ID: 1, Value: 4}}
	for _, s := range begins() {
		check(t, s, all, Sets{Table: 4, Streams: 3, Window: 2, Frame: small, List: 1}, none)
	}
}

// Table, Streams and List are cut to MaxPint, and below 0 as they come.
func TestCut(t *testing.T) {
	for _, c := range []struct{ value, want int }{
		{0, 0}, {1, 1}, {4096, 4096}, {4097, 4097}, {most - 1, most - 1}, {most, most}, {most + 1, most}, {most + 2, most},
		{1<<32 - 1, most}, {1 << 32, most}, {1<<32 + 1, most}, {math.MaxInt, most},
		{-1, -1}, {-most, -most}, {-most - 1, -most - 1}, {-most - 2, -most - 2}, {-1 << 32, -1 << 32}, {math.MinInt, math.MinInt},
	} {
		for _, id := range []int{1, 3, 6} {
			for _, s := range begins() {
				wanted := s
				*at(&wanted, id) = c.want
				check(t, s, []part.Set{{ID: id, Value: c.value}}, wanted, none)
			}
		}
	}
}

// Push, Window and Frame have bounds, beyond which there is a fault.
func TestBounds(t *testing.T) {
	for _, c := range []struct {
		id, value int
		fault     api.Fault
	}{
		{2, 0, none}, {2, 1, none}, {2, 2, protocol}, {2, 3, protocol}, {2, 256, protocol}, {2, 257, protocol},
		{2, 1 << 32, protocol}, {2, 1<<32 + 1, protocol}, {2, math.MaxInt, protocol},
		{2, -1, protocol}, {2, -2, protocol}, {2, math.MinInt, protocol}, {2, math.MinInt + 1, protocol},
		{4, 0, none}, {4, 1, none}, {4, 65535, none}, {4, 65536, none}, {4, most - 1, none}, {4, most, none},
		{4, most + 1, flow}, {4, most + 2, flow}, {4, 1<<32 - 1, flow}, {4, 1 << 32, flow}, {4, math.MaxInt, flow},
		{4, -1, none}, {4, -most, none}, {4, -most - 1, none}, {4, -1 << 32, none}, {4, math.MinInt, none},
		{5, small - 1, protocol}, {5, small, none}, {5, small + 1, none}, {5, great - 1, none}, {5, great, none}, {5, great + 1, protocol},
		{5, 0, protocol}, {5, 1, protocol}, {5, most, protocol}, {5, 1<<32 + small, protocol}, {5, math.MaxInt, protocol},
		{5, -1, protocol}, {5, -small, protocol}, {5, -great, protocol}, {5, math.MinInt, protocol}, {5, math.MinInt + small, protocol},
	} {
		for _, s := range begins() {
			wanted := s
			*at(&wanted, c.id) = c.value
			if c.fault.Bad {
				wanted = Sets{}
			}
			check(t, s, []part.Set{{ID: c.id, Value: c.value}}, wanted, c.fault)
		}
	}
}

// Other IDs are passed over, whatever their values.
func TestStrangers(t *testing.T) {
	for _, id := range strangers() {
		for _, value := range edges() {
			stranger := part.Set{ID: id, Value: value}
			for _, s := range begins() {
				check(t, s, []part.Set{stranger}, s, none)
			}
			wanted := other
			wanted.Window, wanted.List = 8, 9
			check(t, other, []part.Set{stranger, {ID: 4, Value: 8}, stranger, {ID: 6, Value: 9}, stranger}, wanted, none)
			check(t, other, []part.Set{stranger, {ID: 2, Value: 2}, stranger}, Sets{}, protocol)
		}
	}
}

// good has two values of an ID that stand as they come.
func good(id int) (int, int) {
	switch id {
	case 2:
		return 1, 0
	case 5:
		return 20000, 30000
	}
	return 700, 70
}

// bad has the IDs that have faults, each with a wrong value and its fault.
func bad() map[part.Set]api.Fault {
	return map[part.Set]api.Fault{
		{ID: 2, Value: 2}:         protocol,
		{ID: 2, Value: -1}:        protocol,
		{ID: 4, Value: most + 1}:  flow,
		{ID: 5, Value: small - 1}: protocol,
		{ID: 5, Value: great + 1}: protocol,
	}
}

// others has good settings of all IDs but one, and a stranger amidst them.
func others(id int) []part.Set {
	l := []part.Set{{ID: 7, Value: 5}}
	for other := 6; other >= 1; other-- {
		if other != id {
			a, _ := good(other)
			l = append(l, part.Set{ID: other, Value: a})
		}
	}
	return l
}

// The last one of an ID counts, whatever stands between.
func TestLast(t *testing.T) {
	for id := 1; id <= 6; id++ {
		a, b := good(id)
		for _, c := range []struct {
			values []int
			want   int
		}{{[]int{a, b}, b}, {[]int{b, a}, a}, {[]int{a, b, a}, a}, {[]int{b, a, a, b}, b}, {[]int{a, a}, a}} {
			var alone, apart []part.Set
			for _, value := range c.values {
				alone = append(alone, part.Set{ID: id, Value: value})
				apart = append(append(apart, part.Set{ID: id, Value: value}), others(id)...)
			}
			for _, s := range begins() {
				wanted := s
				*at(&wanted, id) = c.want
				if got, x := Apply(s, alone); got != wanted || x != none {
					t.Errorf("P13.2: Apply(%+v, %v): %+v, %+v, not %+v", s, alone, got, x, wanted)
				}
				wanted = Sets{Table: 700, Push: 1, Streams: 700, Window: 700, Frame: 20000, List: 700}
				*at(&wanted, id) = c.want
				if got, x := Apply(s, apart); got != wanted || x != none {
					t.Errorf("P13.2: Apply(%+v, %v): %+v, %+v, not %+v", s, apart, got, x, wanted)
				}
			}
		}
	}
}

// The last one counts too where one of them is cut, or below 0.
func TestLastCut(t *testing.T) {
	for _, c := range []struct {
		values []int
		want   int
	}{{[]int{5, most + 5}, most}, {[]int{most + 5, 5}, 5}, {[]int{most + 5, -5}, -5}, {[]int{-5, 0}, 0}, {[]int{9, -5, math.MaxInt, 8}, 8}} {
		for _, id := range []int{1, 3, 6} {
			var l []part.Set
			for _, value := range c.values {
				l = append(l, part.Set{ID: id, Value: value}, part.Set{ID: 0, Value: 1})
			}
			wanted := other
			*at(&wanted, id) = c.want
			if got, x := Apply(other, l); got != wanted || x != none {
				t.Errorf("P13.2: Apply(%+v, %v): %+v, %+v, not %+v", other, l, got, x, wanted)
			}
		}
	}
}

// A good one ahead of a bad one or behind it doesn't mend it.
func TestFaults(t *testing.T) {
	for wrong, fault := range bad() {
		a, b := good(wrong.ID)
		before, behind := part.Set{ID: wrong.ID, Value: a}, part.Set{ID: wrong.ID, Value: b}
		for _, s := range begins() {
			for _, l := range [][]part.Set{
				{wrong}, {before, wrong}, {wrong, behind}, {before, wrong, behind}, {before, behind, wrong}, {wrong, wrong},
				{{ID: 1, Value: 1}, {ID: 3, Value: 3}, wrong, {ID: 6, Value: 6}}, {{ID: 0, Value: 1}, wrong},
			} {
				check(t, s, l, Sets{}, fault)
			}
		}
	}
}

// Of two faults the first is told.
func TestFirstFault(t *testing.T) {
	for a, fault := range bad() {
		for b := range bad() {
			for _, l := range [][]part.Set{
				{a, b}, {{ID: 1, Value: 1}, a, b}, {a, {ID: 1, Value: 1}, b, a}, {{ID: 7, Value: 7}, a, {ID: 4, Value: 1}, b},
			} {
				check(t, other, l, Sets{}, fault)
			}
		}
	}
}

func TestLong(t *testing.T) {
	const size = 1000
	var l []part.Set
	for i := range size {
		id := i%7 + 1
		value, _ := good(id)
		if id != 2 {
			value += i
		}
		l = append(l, part.Set{ID: id, Value: value})
	}
	wanted := Sets{Table: 700 + 994, Push: 1, Streams: 700 + 996, Window: 700 + 997, Frame: 20000 + 998, List: 700 + 999}
	for _, s := range begins() {
		check(t, s, l, wanted, none)
	}
	for wrong, fault := range bad() {
		for _, i := range []int{0, 1, 17, size / 2, size - 2, size - 1} {
			bent := append([]part.Set(nil), l...)
			bent[i] = wrong
			check(t, other, bent, Sets{}, fault)
		}
	}
	same := make([]part.Set, size)
	for i := range same {
		same[i] = part.Set{ID: 3, Value: size - i}
	}
	wanted = other
	wanted.Streams = 1
	check(t, other, same, wanted, none)
	for i := range same {
		same[i] = part.Set{ID: 65535 - i, Value: math.MaxInt - i}
	}
	check(t, other, same, other, none)
}

// All pairs of settings at all edges, against the model.
func TestPairs(t *testing.T) {
	for id := 0; id <= 7; id++ {
		for _, value := range edges() {
			one := part.Set{ID: id, Value: value}
			for _, s := range begins() {
				wanted, x := want(s, []part.Set{one})
				check(t, s, []part.Set{one}, wanted, x)
			}
			for then := 0; then <= 7; then++ {
				for _, second := range edges() {
					l := []part.Set{one, {ID: then, Value: second}}
					wanted, x := want(other, l)
					check(t, other, l, wanted, x)
				}
			}
		}
	}
}

// anyOne is a setting that is wrong now and then.
func anyOne(r *rand.Rand) part.Set {
	id := r.Intn(8)
	switch r.Intn(30) {
	case 0:
		return part.Set{ID: id, Value: edges()[r.Intn(len(edges()))]}
	case 1:
		return part.Set{ID: strangers()[r.Intn(len(strangers()))], Value: int(r.Uint64())}
	case 2:
		return part.Set{ID: id, Value: int(r.Uint32())}
	}
	switch id {
	case 2:
		return part.Set{ID: id, Value: r.Intn(2)}
	case 5:
		return part.Set{ID: id, Value: small + r.Intn(great-small+1)}
	}
	return part.Set{ID: id, Value: r.Intn(most)}
}

// Rows of lists, one behind the other, as a connection would have them; a list
// with a fault leaves what was.
func TestRows(t *testing.T) {
	r := rand.New(rand.NewSource(13))
	for range 300 {
		s := First()
		for range 60 {
			l := make([]part.Set, r.Intn(12))
			for i := range l {
				l[i] = anyOne(r)
			}
			wanted, x := want(s, l)
			check(t, s, l, wanted, x)
			if !x.Bad {
				s = wanted
			}
		}
	}
}

// Apply of a list is Apply of its beginning, then of the rest.
func TestSplit(t *testing.T) {
	r := rand.New(rand.NewSource(14))
	for range 2000 {
		l := make([]part.Set, r.Intn(12))
		for i := range l {
			l[i] = anyOne(r)
		}
		whole, x := Apply(other, l)
		cut := r.Intn(len(l) + 1)
		half, y := Apply(other, l[:cut])
		if !y.Bad {
			half, y = Apply(half, l[cut:])
		}
		if half != whole || x != y {
			t.Fatalf("P13.1: %v cut at %d: %+v, %+v, not %+v, %+v", l, cut, half, y, whole, x)
		}
	}
}

// What part reads of a frame goes in as it is.
func TestRead(t *testing.T) {
	l := []part.Set{{ID: 1, Value: 1<<32 - 1}, {ID: 4, Value: most}, {ID: 3, Value: 100}, {ID: 65535, Value: 1<<32 - 1}, {ID: 2, Value: 0}}
	p, x := part.Read(part.Settings(l, false))
	if x.Bad {
		t.Fatalf("part.Read: %+v", x)
	}
	check(t, First(), p.Sets, Sets{Table: most, Push: 0, Streams: 100, Window: most, Frame: 16384, List: most}, none)
	p, _ = part.Read(part.Settings([]part.Set{{ID: 4, Value: most + 1}}, false))
	check(t, First(), p.Sets, Sets{}, flow)
}
