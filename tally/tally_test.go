package tally

import (
	"math"
	"math/rand"
	"testing"

	"wayleave/api"
)

// counts has the edges that a part may have, and ordinary ones between.
func counts() []int {
	return []int{0, 1, 2, 3, 4, 1000, 1<<31 - 1, 1 << 32, api.MaxCount / 2, api.MaxCount/2 + 1, api.MaxCount - 1, api.MaxCount}
}

// wrongCounts has whole numbers that are no counts.
func wrongCounts() []int {
	return []int{-1, -2, -1 << 31, -api.MaxCount, math.MinInt, api.MaxCount + 1, api.MaxCount + 2, 1 << 53, 1<<53 + 1, math.MaxInt - 1, math.MaxInt}
}

// wrongParts has what no part of a pair may be: not whole, out of bounds, no number.
func wrongParts() []float64 {
	parts := []float64{
		0.5, -0.5, 1.25, 3.000001, 1 - 1.0/(1<<53), math.SmallestNonzeroFloat64, -math.SmallestNonzeroFloat64,
		api.MaxCount - 0.5, api.MaxCount + 0.25, math.Nextafter(api.MaxCount, 0), math.Nextafter(api.MaxCount, math.Inf(1)),
		1 << 63, 1 << 64, -1 << 63, math.MaxFloat64, -math.MaxFloat64,
		math.NaN(), math.Inf(1), math.Inf(-1),
	}
	for _, n := range wrongCounts() {
		parts = append(parts, float64(n))
	}
	return parts
}

// pairs has each two counts as one number.
func pairs() []complex128 {
	var l []complex128
	for _, up := range counts() {
		for _, down := range counts() {
			l = append(l, complex(float64(up), float64(down)))
		}
	}
	return l
}

// wrongPairs has numbers that are wrong in one part, in the other one, in both.
func wrongPairs() []complex128 {
	var l []complex128
	for _, x := range wrongParts() {
		for _, n := range []float64{0, 3, api.MaxCount} {
			l = append(l, complex(x, n), complex(n, x))
		}
		l = append(l, complex(x, x), complex(x, -1), complex(-1, x))
	}
	return l
}

// whole reads a number's parts without asking the package.
func whole(z complex128) (up, down int) {
	return int(real(z)), int(imag(z))
}

// want is what a call that works the counts out as ints would answer.
func want(up, down int) (complex128, api.Errno) {
	if up < 0 || up > api.MaxCount || down < 0 || down > api.MaxCount {
		return 0, api.ErrRange
	}
	return complex(float64(up), float64(down)), api.OK
}

func TestPairOfCounts(t *testing.T) {
	for _, up := range counts() {
		for _, down := range counts() {
			z, e := Pair(up, down)
			if e != api.OK || real(z) != float64(up) || imag(z) != float64(down) {
				t.Errorf("P1.1: Pair(%d, %d): %v, %d", up, down, z, e)
			}
			if !Is(z) || Up(z) != up || Down(z) != down {
				t.Errorf("P1.1: of Pair(%d, %d): %v, %d, %d", up, down, Is(z), Up(z), Down(z))
			}
		}
	}
	if z, e := Pair(3, 4); z != 3+4i || e != api.OK {
		t.Errorf("P1.1: the example: %v, %d", z, e)
	}
}

func TestPairOfWrongCounts(t *testing.T) {
	refused := func(up, down int) {
		if z, e := Pair(up, down); z != 0 || e != api.ErrRange {
			t.Errorf("P1.1: Pair(%d, %d): %v, %d", up, down, z, e)
		}
	}
	for _, n := range wrongCounts() {
		for _, good := range counts() {
			refused(n, good)
			refused(good, n)
		}
		for _, other := range wrongCounts() {
			refused(n, other)
		}
	}
}

func TestIsOfWrongPairs(t *testing.T) {
	for _, z := range wrongPairs() {
		if Is(z) || Up(z) != 0 || Down(z) != 0 {
			t.Errorf("P1.1: %v is no pair: %v, %d, %d", z, Is(z), Up(z), Down(z))
		}
	}
}

func TestIsOfNegativeZero(t *testing.T) {
	zero := math.Copysign(0, -1)
	for _, z := range []complex128{complex(zero, zero), complex(zero, 0), complex(0, zero)} {
		if !Is(z) || Up(z) != 0 || Down(z) != 0 || !Covers(0, z) || !Covers(z, 0) || Least(z, 5+5i) != 0 {
			t.Errorf("P1.1: 0 with a sign: %v, %d, %d", Is(z), Up(z), Down(z))
		}
		if s, e := Add(z, 3+4i); s != 3+4i || e != api.OK {
			t.Errorf("P1.2: 0 with a sign added: %v, %d", s, e)
		}
		if r, e := Sub(3+4i, z); r != 3+4i || e != api.OK {
			t.Errorf("P1.2: 0 with a sign taken: %v, %d", r, e)
		}
	}
}

func TestAddAndSubOfPairs(t *testing.T) {
	for _, a := range pairs() {
		for _, b := range pairs() {
			aUp, aDown := whole(a)
			bUp, bDown := whole(b)
			sum, e := want(aUp+bUp, aDown+bDown)
			if z, f := Add(a, b); z != sum || f != e {
				t.Errorf("P1.2: Add(%v, %v): %v, %d, not %v, %d", a, b, z, f, sum, e)
			}
			rest, e := want(aUp-bUp, aDown-bDown)
			if z, f := Sub(a, b); z != rest || f != e {
				t.Errorf("P1.2: Sub(%v, %v): %v, %d, not %v, %d", a, b, z, f, rest, e)
			}
		}
	}
}

// TestWrongPairsThatComeOutRight: what is no pair is refused even where the
// number that would come out is one.
func TestWrongPairsThatComeOutRight(t *testing.T) {
	for _, c := range [][2]complex128{{0.5, 0.5}, {2.5i, 1.5i}, {-1, 3}, {3i, -1i}, {api.MaxCount + 1, -1}, {4 + 4i, -1 - 1i}} {
		if z, e := Add(c[0], c[1]); z != 0 || e != api.ErrRange {
			t.Errorf("P1.2: Add(%v, %v): %v, %d", c[0], c[1], z, e)
		}
		if z, e := Add(c[1], c[0]); z != 0 || e != api.ErrRange {
			t.Errorf("P1.2: Add(%v, %v): %v, %d", c[1], c[0], z, e)
		}
	}
	for _, c := range [][2]complex128{{2.5, 0.5}, {2.5i, 1.5i}, {3, -1}, {3i, -1i}, {-1, -3}, {api.MaxCount + 1, 1}, {api.MaxCount + 5, api.MaxCount + 2}} {
		if z, e := Sub(c[0], c[1]); z != 0 || e != api.ErrRange {
			t.Errorf("P1.2: Sub(%v, %v): %v, %d", c[0], c[1], z, e)
		}
	}
}

func TestSumsOfWrongPairs(t *testing.T) {
	refused := func(name string, a, b complex128, call func(a, b complex128) (complex128, api.Errno)) {
		if z, e := call(a, b); z != 0 || e != api.ErrRange {
			t.Errorf("P1.2: %s(%v, %v): %v, %d", name, a, b, z, e)
		}
	}
	others := append([]complex128{0, 3 + 4i, complex(api.MaxCount, api.MaxCount)}, wrongPairs()...)
	for _, wrong := range wrongPairs() {
		for _, other := range others {
			refused("Add", wrong, other, Add)
			refused("Add", other, wrong, Add)
			refused("Sub", wrong, other, Sub)
			refused("Sub", other, wrong, Sub)
		}
	}
}

func TestCoversAndLeastOfPairs(t *testing.T) {
	for _, a := range pairs() {
		for _, b := range pairs() {
			aUp, aDown := whole(a)
			bUp, bDown := whole(b)
			if covers := bUp <= aUp && bDown <= aDown; Covers(a, b) != covers {
				t.Errorf("P1.2: Covers(%v, %v): not %v", a, b, covers)
			}
			if least, _ := want(min(aUp, bUp), min(aDown, bDown)); Least(a, b) != least {
				t.Errorf("P1.2: Least(%v, %v): %v, not %v", a, b, Least(a, b), least)
			}
		}
	}
}

func TestCoversAndLeastOfWrongPairs(t *testing.T) {
	others := append([]complex128{0, 3 + 4i, complex(api.MaxCount, api.MaxCount)}, wrongPairs()...)
	for _, wrong := range wrongPairs() {
		for _, other := range others {
			if Covers(wrong, other) || Covers(other, wrong) {
				t.Errorf("P1.2: Covers of %v and %v", wrong, other)
			}
			if Least(wrong, other) != 0 || Least(other, wrong) != 0 {
				t.Errorf("P1.2: Least of %v and %v: %v, %v", wrong, other, Least(wrong, other), Least(other, wrong))
			}
		}
	}
}

func TestSubTakesBackWhatAddGave(t *testing.T) {
	r := rand.New(rand.NewSource(1))
	added := 0
	for range 10000 {
		a, _ := Pair(r.Intn(api.MaxCount+1), r.Intn(api.MaxCount+1))
		b, _ := Pair(r.Intn(api.MaxCount+1), r.Intn(api.MaxCount+1))
		sum, e := Add(a, b)
		if e != api.OK {
			continue
		}
		added++
		if back, f := Sub(sum, b); back != a || f != api.OK {
			t.Fatalf("P1.3: %v and %v: %v, %d", a, b, back, f)
		}
	}
	if added == 0 {
		t.Fatal("P1.3: no two pairs could be added")
	}
}
