package sha

import "math/bits"

// rootBits is how many bits a root has at most: 64 behind the point, and 16 before it, as numbers have 32.
const rootBits = 64 + 16

// wide is a number modulo 2^256, its lowest word first.
type wide [4]uint64

// Root returns the first 64 bits of the fractional part of the square root of the low 32 bits of n.
func Root(n uint64) uint64 {
	return fraction(n, 2)
}

// Cube returns the first 64 bits of the fractional part of the cube root of the low 32 bits of n.
func Cube(n uint64) uint64 {
	return fraction(n, 3)
}

// fraction finds the greatest number whose power is not above n, both with 64 bits more behind the point for each factor; its low word is the fractional part.
func fraction(n uint64, degree int) uint64 {
	var bound, root wide
	bound[degree] = uint64(uint32(n))
	for i := rootBits - 1; i >= 0; i-- {
		more := root
		more[i/64] |= 1 << (i % 64)
		if !above(power(more, degree), bound) {
			root = more
		}
	}
	return root[0]
}

func power(a wide, degree int) wide {
	out := a
	for range degree - 1 {
		out = times(out, a)
	}
	return out
}

func times(a, b wide) wide {
	var out wide
	for i := range a {
		var carry uint64
		for j := range len(b) - i {
			hi, lo := bits.Mul64(a[i], b[j])
			var c, d uint64
			lo, c = bits.Add64(lo, carry, 0)
			out[i+j], d = bits.Add64(out[i+j], lo, 0)
			carry = hi + c + d
		}
	}
	return out
}

// above tells whether a is greater than b.
func above(a, b wide) bool {
	for i := len(a) - 1; i >= 0; i-- {
		if a[i] != b[i] {
			return a[i] > b[i]
		}
	}
	return false
}
