// Package tally: bytes both ways (chapter 1). The bytes up are the real part
// of a number, the bytes down its imaginary part.
package tally

import (
	"math"

	"wayleave/api"
)

// Pair makes one number of two counts.
func Pair(up, down int) (complex128, api.Errno) {
	if !isCount(up) || !isCount(down) {
		return 0, api.ErrRange
	}
	return complex(float64(up), float64(down)), api.OK
}

// Is tells whether z is a pair of counts.
func Is(z complex128) bool {
	return isPart(real(z)) && isPart(imag(z))
}

// Up is the count of bytes up; 0 of what is no pair.
func Up(z complex128) int {
	if !Is(z) {
		return 0
	}
	return int(real(z))
}

// Down is the count of bytes down; 0 of what is no pair.
func Down(z complex128) int {
	if !Is(z) {
		return 0
	}
	return int(imag(z))
}

// Add puts two pairs together, both ways at once.
func Add(a, b complex128) (complex128, api.Errno) {
	if !Is(a) || !Is(b) {
		return 0, api.ErrRange
	}
	return checked(a + b)
}

// Sub takes the pair b from the pair a, both ways at once.
func Sub(a, b complex128) (complex128, api.Errno) {
	if !Is(a) || !Is(b) {
		return 0, api.ErrRange
	}
	return checked(a - b)
}

// Covers tells whether z is at most most, each way for itself.
func Covers(most, z complex128) bool {
	return Is(most) && Is(z) && real(z) <= real(most) && imag(z) <= imag(most)
}

// Least is the lesser count, each way for itself; 0 if one is no pair.
func Least(a, b complex128) complex128 {
	if !Is(a) || !Is(b) {
		return 0
	}
	return complex(min(real(a), real(b)), min(imag(a), imag(b)))
}

func isCount(n int) bool {
	return n >= 0 && n <= api.MaxCount
}

// isPart needs no case for NaN and the infinities: the bounds shut them out.
func isPart(x float64) bool {
	return x >= 0 && x <= api.MaxCount && math.Trunc(x) == x
}

// checked is exact: MaxCount is so far below 2^53 that neither the sum nor the
// difference of two pairs is rounded before it is held against the bounds.
func checked(z complex128) (complex128, api.Errno) {
	if !Is(z) {
		return 0, api.ErrRange
	}
	return z, api.OK
}
