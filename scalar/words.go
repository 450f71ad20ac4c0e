package scalar

import (
	"cmp"
	"math/bits"
	"slices"

	"headwater/api"
)

// words is a number of 256 bits, wide one of 512. The highest word stands first, since slices.CompareFunc lets the first elements that differ tell which of two is greater.
type (
	words [4]uint64
	wide  [8]uint64
)

// order returns L.
func order() words {
	return words{1 << 60, 0, 0x14def9dea2f79cd6, 0x5812631a5cf5d3ed}
}

// read returns the words of a.
func read(a *api.Num) (w words) {
	fill(w[:], a[:])
	return w
}

// fill puts the bytes of b, the lowest first, into w, which is zero and has room for them.
func fill(w []uint64, b []byte) {
	for i, x := range b {
		w[len(w)-1-i/8] |= uint64(x) << (8 * (i % 8))
	}
}

// number returns the bytes of w.
func (w *words) number() (a api.Num) {
	for i := range a {
		a[i] = byte(w[len(w)-1-i/8] >> (8 * (i % 8)))
	}
	return a
}

// rest returns the residue of n: of the bits from the highest on, each makes twice what those before it left, and itself. What was left is below L, so that makes less than 2L, and L goes into it once at most.
func (n *wide) rest() (r words) {
	l := order()
	for _, word := range n {
		for i := 63; i >= 0; i-- {
			r.double(word >> i & 1)
			if r.reaches(&l) {
				r.sub(&l)
			}
		}
	}
	return r
}

// double makes w twice as much, plus a bit. The highest bit of w must not be set.
func (w *words) double(bit uint64) {
	for i := len(w) - 1; i >= 0; i-- {
		w[i], bit = w[i]<<1|bit, w[i]>>63
	}
}

// reaches reports whether w is v or above.
func (w *words) reaches(v *words) bool {
	return slices.CompareFunc(w[:], v[:], cmp.Compare[uint64]) >= 0
}

// sub takes v from w, which reaches it.
func (w *words) sub(v *words) {
	var borrow uint64
	for i := len(w) - 1; i >= 0; i-- {
		w[i], borrow = bits.Sub64(w[i], v[i], borrow)
	}
}

// product returns a times b, plus c. That is below 2^512, even of the greatest numbers of 256 bits.
func product(a, b, c *words) (n wide) {
	copy(n[len(n)-len(c):], c[:])
	for i := len(a) - 1; i >= 0; i-- {
		var over uint64
		for j := len(b) - 1; j >= 0; j-- {
			over, n[i+j+1] = plus(a[i], b[j], n[i+j+1], over)
		}
		n[i] = over
	}
	return n
}

// plus returns the 128 bits of a times b, plus c and d: there is room for both, as (2^64 - 1)^2 + 2 * (2^64 - 1) is 2^128 - 1.
func plus(a, b, c, d uint64) (high, low uint64) {
	high, low = bits.Mul64(a, b)
	low, more := bits.Add64(low, c, 0)
	high += more
	low, more = bits.Add64(low, d, 0)
	return high + more, low
}
