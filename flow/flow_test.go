package flow

import (
	"math"
	"math/rand"
	"testing"

	"wayleave/api"
)

// most is MaxWindow as the document has it (2^31 - 1), written out.
const most = 2147483647

func TestMost(t *testing.T) {
	if api.MaxWindow != most {
		t.Errorf("MaxWindow: %d", api.MaxWindow)
	}
}

// none is what a call answers beside windows; the others are all the faults.
var (
	none         = api.Fault{}
	protocol     = api.Fault{Bad: true, Conn: true, Code: 1}
	connTooMuch  = api.Fault{Bad: true, Conn: true, Code: 3}
	streamIsMuch = api.Fault{Bad: true, Conn: false, Code: 3}
)

// sizes has the edges that a window may have, and ordinary ones between.
func sizes() []int {
	return []int{-most, -most + 1, -most + 2, -1 << 30, -65536, -1000, -5, -2, -1, 0, 1, 2, 3, 4, 10, 1000, 65535, 1 << 30, most/2 + 1, most - 2, most - 1, most}
}

// wrongSizes has whole numbers that no window has.
func wrongSizes() []int {
	return []int{
		-most - 1, -most - 2, -1 << 32, -1 << 53, -1<<53 - 1, math.MinInt + 1, math.MinInt,
		most + 1, most + 2, 1 << 32, 1<<32 + 5, 1 << 53, 1<<53 + 1, 1 << 62, math.MaxInt - 1, math.MaxInt,
	}
}

// wrongParts has what no part of windows may be: not whole, out of bounds, no number.
func wrongParts() []float64 {
	parts := []float64{
		0.5, -0.5, 1.25, -3.000001, 1 - 1.0/(1<<53), math.SmallestNonzeroFloat64, -math.SmallestNonzeroFloat64,
		most - 0.5, most + 0.25, most + 0.5, math.Nextafter(most, 0), math.Nextafter(most, math.Inf(1)),
		-most + 0.5, -most - 0.25, -most - 0.5, math.Nextafter(-most, 0), math.Nextafter(-most, math.Inf(-1)),
		1 << 63, 1 << 64, -1 << 63, -1 << 64, math.MaxFloat64, -math.MaxFloat64,
		math.NaN(), math.Inf(1), math.Inf(-1),
	}
	for _, n := range wrongSizes() {
		parts = append(parts, float64(n))
	}
	return parts
}

// wrong has numbers that are wrong in one part, in the other one, in both.
func wrong() []complex128 {
	var l []complex128
	for _, x := range wrongParts() {
		for _, n := range []float64{0, 3, -3, most, -most} {
			l = append(l, complex(x, n), complex(n, x))
		}
		l = append(l, complex(x, x), complex(x, 0.5), complex(0.5, x))
	}
	return l
}

// number makes windows without asking the package.
func number(stream, conn int) complex128 {
	return complex(float64(stream), float64(conn))
}

// each calls one with all two sizes.
func each(one func(stream, conn int)) {
	for _, stream := range sizes() {
		for _, conn := range sizes() {
			one(stream, conn)
		}
	}
}

// within is a number held at two bounds, bound by bound.
func within(n, least, greatest int) int {
	if n < least {
		return least
	}
	if n > greatest {
		return greatest
	}
	return n
}

// wantMay is how much goes through two windows.
func wantMay(stream, conn int) int {
	if stream <= 0 || conn <= 0 {
		return 0
	}
	if stream < conn {
		return stream
	}
	return conn
}

// wantSpend is what Spend answers of good windows, worked out as ints.
func wantSpend(stream, conn, n int) (complex128, api.Errno) {
	if n == 0 {
		return number(stream, conn), 0
	}
	if n < 0 || stream < n || conn < n {
		return 0, 1
	}
	return number(stream-n, conn-n), 0
}

// wantGrant is what Grant answers of good windows, worked out as ints.
func wantGrant(stream, conn, toStream, toConn int) (complex128, api.Fault) {
	for _, n := range []int{toStream, toConn} {
		if n < 0 || n > most {
			return 0, protocol
		}
	}
	if toConn > most-conn {
		return 0, connTooMuch
	}
	if toStream > most-stream {
		return 0, streamIsMuch
	}
	return number(stream+toStream, conn+toConn), none
}

// wantShift is what Shift answers of good windows, worked out as ints.
func wantShift(stream, conn, by int) (complex128, api.Fault) {
	if by < -most || by > most {
		return 0, protocol
	}
	if stream+by > most {
		return 0, connTooMuch
	}
	return number(within(stream+by, -most, most), conn), none
}

func checkSpend(t *testing.T, stream, conn, n int) {
	t.Helper()
	want, e := wantSpend(stream, conn, n)
	if z, f := Spend(number(stream, conn), n); z != want || f != e {
		t.Errorf("P12.1: Spend(%d and %d, %d): %v, %d, not %v, %d", stream, conn, n, z, f, want, e)
	}
}

func checkGrant(t *testing.T, stream, conn, toStream, toConn int) {
	t.Helper()
	want, x := wantGrant(stream, conn, toStream, toConn)
	if z, y := Grant(number(stream, conn), toStream, toConn); z != want || y != x {
		t.Errorf("P12.2: Grant(%d and %d, %d, %d): %v, %v, not %v, %v", stream, conn, toStream, toConn, z, y, want, x)
	}
}

func checkShift(t *testing.T, stream, conn, by int) {
	t.Helper()
	want, x := wantShift(stream, conn, by)
	if z, y := Shift(number(stream, conn), by); z != want || y != x {
		t.Errorf("P12.2: Shift(%d and %d, %d): %v, %v, not %v, %v", stream, conn, by, z, y, want, x)
	}
}

func TestExample(t *testing.T) {
	if may := May(Windows(10, 4)); may != 4 {
		t.Errorf("P12.1: the example: %d", may)
	}
}

func TestWindowsWithinBounds(t *testing.T) {
	each(func(stream, conn int) {
		z := Windows(stream, conn)
		if real(z) != float64(stream) || imag(z) != float64(conn) {
			t.Errorf("P12.1: Windows(%d, %d): %v", stream, conn, z)
		}
		if Stream(z) != stream || Conn(z) != conn || May(z) != wantMay(stream, conn) {
			t.Errorf("P12.1: of Windows(%d, %d): %d, %d, %d", stream, conn, Stream(z), Conn(z), May(z))
		}
	})
}

func TestWindowsAreCut(t *testing.T) {
	all := append(wrongSizes(), sizes()...)
	for _, stream := range all {
		for _, conn := range all {
			z := Windows(stream, conn)
			if z != number(within(stream, -most, most), within(conn, -most, most)) {
				t.Errorf("P12.1: Windows(%d, %d): %v", stream, conn, z)
			}
		}
	}
	for _, c := range []struct {
		stream, conn int
		want         complex128
	}{
		{most + 1, 7, 2147483647 + 7i}, {7, most + 1, 7 + 2147483647i},
		{-most - 1, 7, -2147483647 + 7i}, {7, -most - 1, 7 - 2147483647i},
		{math.MinInt, math.MaxInt, -2147483647 + 2147483647i}, {math.MaxInt, math.MinInt, 2147483647 - 2147483647i},
	} {
		if z := Windows(c.stream, c.conn); z != c.want {
			t.Errorf("P12.1: Windows(%d, %d): %v, not %v", c.stream, c.conn, z, c.want)
		}
	}
}

func TestMay(t *testing.T) {
	for _, c := range []struct {
		z    complex128
		want int
	}{
		{10 + 4i, 4}, {4 + 10i, 4}, {4 + 4i, 4}, {0, 0}, {10, 0}, {10i, 0}, {1 + 1i, 1},
		{-5 + 9i, 0}, {9 - 5i, 0}, {-5 - 9i, 0}, {-1, 0}, {-1i, 0},
		{most + most*1i, most}, {most + (most-1)*1i, most - 1}, {most - 1 + most*1i, most - 1},
		{-most + most*1i, 0}, {most - most*1i, 0}, {-most - most*1i, 0},
	} {
		if may := May(c.z); may != c.want {
			t.Errorf("P12.1: May(%v): %d, not %d", c.z, may, c.want)
		}
	}
}

func TestSpend(t *testing.T) {
	amounts := append(wrongSizes(), sizes()...)
	each(func(stream, conn int) {
		for _, n := range amounts {
			checkSpend(t, stream, conn, n)
		}
		may := wantMay(stream, conn)
		for _, n := range []int{may - 1, may, may + 1, stream, stream + 1, conn, conn + 1} {
			checkSpend(t, stream, conn, n)
		}
	})
}

func TestSpendCases(t *testing.T) {
	for _, c := range []struct {
		z    complex128
		n    int
		want complex128
		e    api.Errno
	}{
		{10 + 4i, 0, 10 + 4i, api.OK}, {10 + 4i, 3, 7 + 1i, api.OK}, {10 + 4i, 4, 6, api.OK}, {4 + 10i, 4, 6i, api.OK},
		{10 + 4i, 5, 0, api.ErrRange}, {4 + 10i, 5, 0, api.ErrRange}, {10 + 4i, -1, 0, api.ErrRange},
		{10 + 4i, math.MaxInt, 0, api.ErrRange}, {10 + 4i, math.MinInt, 0, api.ErrRange},
		{0, 0, 0, api.OK}, {0, 1, 0, api.ErrRange}, {most + most*1i, most, 0, api.OK}, {most + most*1i, most + 1, 0, api.ErrRange},
		{-5 + 9i, 0, -5 + 9i, api.OK}, {-5 + 9i, 1, 0, api.ErrRange}, {-5 + 9i, -1, 0, api.ErrRange}, {-5 + 9i, -5, 0, api.ErrRange},
		{9 - 5i, 0, 9 - 5i, api.OK}, {9 - 5i, 1, 0, api.ErrRange}, {-most - most*1i, 0, -most - most*1i, api.OK},
	} {
		if z, e := Spend(c.z, c.n); z != c.want || e != c.e {
			t.Errorf("P12.1: Spend(%v, %d): %v, %d, not %v, %d", c.z, c.n, z, e, c.want, c.e)
		}
	}
}

func TestGrant(t *testing.T) {
	amounts := append(wrongSizes(), sizes()...)
	each(func(stream, conn int) {
		for _, toStream := range amounts {
			for _, toConn := range amounts {
				checkGrant(t, stream, conn, toStream, toConn)
			}
		}
		// What still fits, and one less and one more of it.
		for _, a := range []int{-1, 0, 1} {
			for _, b := range []int{-1, 0, 1} {
				checkGrant(t, stream, conn, most-stream+a, most-conn+b)
			}
			checkGrant(t, stream, conn, most-stream+a, 0)
			checkGrant(t, stream, conn, 0, most-conn+a)
		}
	})
}

func TestGrantCases(t *testing.T) {
	for _, c := range []struct {
		z            complex128
		stream, conn int
		want         complex128
		x            api.Fault
	}{
		{10 + 4i, 0, 0, 10 + 4i, none}, {10 + 4i, 5, 6, 15 + 10i, none}, {10 + 4i, 5, 0, 15 + 4i, none}, {10 + 4i, 0, 6, 10 + 10i, none},
		{0, most, most, most + most*1i, none}, {-5 - 7i, 5, 7, 0, none}, {-5 - 7i, 3, 4, -2 - 3i, none},
		{-most - most*1i, most, most, 0, none}, {-most - most*1i, 0, 0, -most - most*1i, none},
		{most, 0, most, most + most*1i, none}, {most - 1, 1, 0, most, none}, {(most - 1) * 1i, 0, 1, most * 1i, none},
		{most, 1, 0, 0, streamIsMuch}, {1, most, 0, 0, streamIsMuch}, {2, most - 1, most, 0, streamIsMuch},
		{most * 1i, 0, 1, 0, connTooMuch}, {1i, 0, most, 0, connTooMuch}, {2i, most, most - 1, 0, connTooMuch},
		{1 + 1i, most, most, 0, connTooMuch}, {most + most*1i, 1, 1, 0, connTooMuch}, {most + most*1i, most, most, 0, connTooMuch},
		{-1 - 1i, most, most, most - 1 + (most-1)*1i, none}, {-1 + 1i, most, most, 0, connTooMuch}, {1 - 1i, most, most, 0, streamIsMuch},
		{0, -1, 0, 0, protocol}, {0, 0, -1, 0, protocol}, {10 + 4i, -1, -1, 0, protocol},
		{-most, most + 1, 0, 0, protocol}, {-most * 1i, 0, most + 1, 0, protocol},
		// A number out of its bounds is told ahead of a window that is too great.
		{most + most*1i, -1, 1, 0, protocol}, {most + most*1i, 1, -1, 0, protocol}, {most + most*1i, most + 1, 1, 0, protocol},
		{0, math.MaxInt, 0, 0, protocol}, {0, 0, math.MaxInt, 0, protocol}, {0, math.MinInt, 0, 0, protocol}, {0, 0, math.MinInt, 0, protocol},
	} {
		if z, x := Grant(c.z, c.stream, c.conn); z != c.want || x != c.x {
			t.Errorf("P12.2: Grant(%v, %d, %d): %v, %v, not %v, %v", c.z, c.stream, c.conn, z, x, c.want, c.x)
		}
	}
}

func TestShift(t *testing.T) {
	amounts := append(wrongSizes(), sizes()...)
	each(func(stream, conn int) {
		for _, by := range amounts {
			checkShift(t, stream, conn, by)
		}
		// Up to the bounds, and one less and one more of it.
		for _, a := range []int{-1, 0, 1} {
			checkShift(t, stream, conn, most-stream+a)
			checkShift(t, stream, conn, -most-stream+a)
		}
	})
}

func TestShiftCases(t *testing.T) {
	for _, c := range []struct {
		z    complex128
		by   int
		want complex128
		x    api.Fault
	}{
		{10 + 4i, 0, 10 + 4i, none}, {10 + 4i, 1, 11 + 4i, none}, {10 + 4i, -1, 9 + 4i, none}, {10 + 4i, -30, -20 + 4i, none}, {-20 - 4i, 30, 10 - 4i, none},
		{0, most, most, none}, {0, -most, -most, none}, {0, most + 1, 0, protocol}, {0, -most - 1, 0, protocol},
		{0, math.MaxInt, 0, protocol}, {0, math.MinInt, 0, protocol}, {most, most + 1, 0, protocol}, {-most, -most - 1, 0, protocol},
		{-most, most, 0, none}, {-most, most + 1, 0, protocol}, {most, -most, 0, none}, {most, -most - 1, 0, protocol},
		{most, 0, most, none}, {most, 1, 0, connTooMuch}, {most, most, 0, connTooMuch}, {1, most, 0, connTooMuch}, {-1, most, most - 1, none}, {most - 1, 1, most, none},
		{-most, 0, -most, none}, {-most, -1, -most, none}, {-most, -most, -most, none}, {-1, -most, -most, none}, {1, -most, -most + 1, none}, {-most + 1, -1, -most, none},
		{most * 1i, 1, 1 + most*1i, none}, {most * 1i, most, most + most*1i, none}, {-most * 1i, -most, -most - most*1i, none}, {-most + most*1i, -1, -most + most*1i, none},
	} {
		if z, x := Shift(c.z, c.by); z != c.want || x != c.x {
			t.Errorf("P12.2: Shift(%v, %d): %v, %v, not %v, %v", c.z, c.by, z, x, c.want, c.x)
		}
	}
}

func TestWhatAreNoWindows(t *testing.T) {
	amounts := []int{0, 1, -1, 2, most, -most, most + 1, -most - 1, math.MaxInt, math.MinInt}
	for _, z := range wrong() {
		if Stream(z) != 0 || Conn(z) != 0 || May(z) != 0 {
			t.Errorf("P12.2: of %v: %d, %d, %d", z, Stream(z), Conn(z), May(z))
		}
		for _, n := range amounts {
			if a, e := Spend(z, n); a != 0 || e != api.ErrRange {
				t.Errorf("P12.2: Spend(%v, %d): %v, %d", z, n, a, e)
			}
			for _, m := range amounts {
				if a, x := Grant(z, n, m); a != 0 || x != protocol {
					t.Errorf("P12.2: Grant(%v, %d, %d): %v, %v", z, n, m, a, x)
				}
			}
			if a, x := Shift(z, n); a != 0 || x != protocol {
				t.Errorf("P12.2: Shift(%v, %d): %v, %v", z, n, a, x)
			}
		}
	}
}

// TestWhatWouldComeOutRight: what are no windows is refused even where the
// number that would come out is right.
func TestWhatWouldComeOutRight(t *testing.T) {
	for _, z := range []complex128{most + 1 + 5i, 5 + (most+1)*1i, most + 1 + (most+1)*1i} {
		if a, e := Spend(z, 1); a != 0 || e != api.ErrRange {
			t.Errorf("P12.2: Spend(%v, 1): %v, %d", z, a, e)
		}
	}
	for _, z := range []complex128{-most - 1, (-most - 1) * 1i, -most - 1 + (-most-1)*1i} {
		if a, x := Grant(z, 1, 1); a != 0 || x != protocol {
			t.Errorf("P12.2: Grant(%v, 1, 1): %v, %v", z, a, x)
		}
	}
	for _, c := range []struct {
		z  complex128
		by int
	}{{most + 1, -1}, {most + 100, -most}, {-most - 1, 1}, {-most - 1, -1}, {-most - 100, most}} {
		if a, x := Shift(c.z, c.by); a != 0 || x != protocol {
			t.Errorf("P12.2: Shift(%v, %d): %v, %v", c.z, c.by, a, x)
		}
	}
}

// TestNegativeZero: a zero with a sign is 0, so it is a window.
func TestNegativeZero(t *testing.T) {
	zero := math.Copysign(0, -1)
	for _, z := range []complex128{complex(zero, 0), complex(0, zero), complex(zero, zero)} {
		if Stream(z) != 0 || Conn(z) != 0 || May(z) != 0 {
			t.Errorf("P12.1: 0 with a sign: %d, %d, %d", Stream(z), Conn(z), May(z))
		}
		if a, e := Spend(z, 0); a != 0 || e != api.OK {
			t.Errorf("P12.1: none spent of 0 with a sign: %v, %d", a, e)
		}
		if a, e := Spend(z, 1); a != 0 || e != api.ErrRange {
			t.Errorf("P12.1: one spent of 0 with a sign: %v, %d", a, e)
		}
		if a, x := Grant(z, most, most); a != number(most, most) || x != none {
			t.Errorf("P12.2: 0 with a sign granted: %v, %v", a, x)
		}
		if a, x := Shift(z, -most); a != -most || x != none {
			t.Errorf("P12.2: 0 with a sign shifted: %v, %v", a, x)
		}
	}
	one := complex(zero, 7)
	if Stream(one) != 0 || Conn(one) != 7 || May(one) != 0 {
		t.Errorf("P12.1: 0 with a sign beside 7: %d, %d, %d", Stream(one), Conn(one), May(one))
	}
	other := complex(7, zero)
	if Stream(other) != 7 || Conn(other) != 0 || May(other) != 0 {
		t.Errorf("P12.1: 7 beside 0 with a sign: %d, %d, %d", Stream(other), Conn(other), May(other))
	}
}

// near is a number about one of the places where something changes, or any.
func near(r *rand.Rand) int {
	places := []int{0, most, -most, most / 2, -most / 2, 65535, 2 * most, -2 * most}
	if r.Intn(4) == 0 {
		return r.Intn(4*most) - 2*most
	}
	return places[r.Intn(len(places))] + r.Intn(7) - 3
}

func TestAnyNumbers(t *testing.T) {
	r := rand.New(rand.NewSource(12))
	for range 300000 {
		a, b := near(r), near(r)
		stream, conn := within(a, -most, most), within(b, -most, most)
		if z := Windows(a, b); z != number(stream, conn) {
			t.Fatalf("P12.1: Windows(%d, %d): %v", a, b, z)
		}
		if may := May(number(stream, conn)); may != wantMay(stream, conn) {
			t.Fatalf("P12.1: May of %d and %d: %d", stream, conn, may)
		}
		checkSpend(t, stream, conn, near(r))
		checkGrant(t, stream, conn, near(r), near(r))
		checkShift(t, stream, conn, near(r))
	}
}

// TestLongRow goes on from what was answered, as a stream does, beside ints.
func TestLongRow(t *testing.T) {
	r := rand.New(rand.NewSource(120))
	z, stream, conn := Windows(api.Window, api.Window), api.Window, api.Window
	for i := range 100000 {
		var got, want complex128
		var x, y api.Fault
		var e, f api.Errno
		switch n, m := r.Intn(1<<20), r.Intn(1<<20); r.Intn(3) {
		case 0:
			n = r.Intn(wantMay(stream, conn) + 2)
			got, e = Spend(z, n)
			want, f = wantSpend(stream, conn, n)
		case 1:
			got, x = Grant(z, n, m)
			want, y = wantGrant(stream, conn, n, m)
		default:
			got, x = Shift(z, n-m)
			want, y = wantShift(stream, conn, n-m)
		}
		if got != want || x != y || e != f {
			t.Fatalf("P12.1, P12.2: call %d, of %d and %d: %v, %v, %d, not %v, %v, %d", i, stream, conn, got, x, e, want, y, f)
		}
		if !x.Bad && e == api.OK {
			z, stream, conn = got, int(real(want)), int(imag(want))
		}
	}
}

func TestSpendTakesBackWhatGrantGave(t *testing.T) {
	r := rand.New(rand.NewSource(121))
	check := func(stream, conn, n int) {
		z := number(stream, conn)
		granted, x := Grant(z, n, n)
		if x != none {
			t.Fatalf("P12.2: Grant(%v, %d, %d): %v", z, n, n, x)
		}
		if back, e := Spend(granted, n); back != z || e != api.OK {
			t.Fatalf("P12.3: %v and %d: %v, %d", z, n, back, e)
		}
	}
	for _, c := range [][3]int{{0, 0, 0}, {0, 0, most}, {most, most, 0}, {10, 4, most - 10}, {4, 10, most - 10}, {0, 0, 1}} {
		check(c[0], c[1], c[2])
	}
	for range 100000 {
		stream, conn := r.Intn(most), r.Intn(most)
		check(stream, conn, r.Intn(most-max(stream, conn)+1))
	}
}
