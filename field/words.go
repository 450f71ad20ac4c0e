package field

import (
	"math/bits"

	"headwater/api"
)

// words is a number of five words, of which each counts 2^51 times as much as the one before. Words of 51 bits leave room for sums of products in 128 bits, and what is beyond the fifth word counts 19 times as much as the first.
//
// Its methods change it in place: where arrays are handed round as values, copying costs more than counting. read and mul leave words of at most 2^52, and from such add and sub make words below 2^54; that is as much as mul and number take.
type words [5]uint64

// quads is a number of 256 bits in four words of 64 bits, the lowest first.
type quads [4]uint64

const (
	width = 51
	mask  = 1<<width - 1
	fold  = 19 // 2^255 modulo p
)

// split returns the bits of a in words of 64 bits.
func split(a *api.Num) (q quads) {
	q[0] = quad(a[:8])
	q[1] = quad(a[8:16])
	q[2] = quad(a[16:24])
	q[3] = quad(a[24:])
	return q
}

// quad returns the number of the eight bytes of b. It is written out, as is setQuad, since the compiler makes one load, or store, of it.
func quad(b []byte) uint64 {
	_ = b[7]
	return uint64(b[0]) | uint64(b[1])<<8 | uint64(b[2])<<16 | uint64(b[3])<<24 |
		uint64(b[4])<<32 | uint64(b[5])<<40 | uint64(b[6])<<48 | uint64(b[7])<<56
}

// setQuad writes n into the eight bytes of b.
func setQuad(b []byte, n uint64) {
	_ = b[7]
	b[0] = byte(n)
	b[1] = byte(n >> 8)
	b[2] = byte(n >> 16)
	b[3] = byte(n >> 24)
	b[4] = byte(n >> 32)
	b[5] = byte(n >> 40)
	b[6] = byte(n >> 48)
	b[7] = byte(n >> 56)
}

// shift shifts q by one bit, and reports whether the highest one was set.
func (q *quads) shift() bool {
	top := q[3] >> 63
	q[3] = q[3]<<1 | q[2]>>63
	q[2] = q[2]<<1 | q[1]>>63
	q[1] = q[1]<<1 | q[0]>>63
	q[0] <<= 1
	return top == 1
}

// read makes w what a represents; the fifth word gets 52 bits.
func (w *words) read(a *api.Num) {
	q := split(a)
	w[0] = q[0] & mask
	w[1] = (q[0]>>51 | q[1]<<13) & mask
	w[2] = (q[1]>>38 | q[2]<<26) & mask
	w[3] = (q[2]>>25 | q[3]<<39) & mask
	w[4] = q[3] >> 12
}

// number returns the number below p that w represents.
func (w *words) number() (a api.Num) {
	w.least()
	setQuad(a[:8], w[0]|w[1]<<51)
	setQuad(a[8:16], w[1]>>13|w[2]<<38)
	setQuad(a[16:24], w[2]>>26|w[3]<<25)
	setQuad(a[24:], w[3]>>39|w[4]<<12)
	return a
}

// least takes from w the multiple of p that makes it canonical.
func (w *words) least() {
	w.wrap()
	// Now w is below 2p, so p goes into it once at most, namely if w + 19 reaches 2^255; and what w + 19 has beyond that is w - p.
	over := (w[0] + fold) >> width
	for _, x := range w[1:] {
		over = (x + over) >> width
	}
	w[0] += fold * over
	w.pass()
}

// wrap cuts each word to 51 bits, and adds to the first what is beyond the fifth. That is two statements, since Go leaves open whether w[0] is read before or after a call that stands beside it.
func (w *words) wrap() {
	over := w.pass()
	w[0] += fold * over
}

// pass cuts each word to 51 bits, passing the rest on to the next one, and returns what is beyond the fifth.
func (w *words) pass() uint64 {
	over := uint64(0)
	for i := range w {
		x := w[i] + over
		w[i] = x & mask
		over = x >> width
	}
	return over
}

// add adds b to w.
func (w *words) add(b *words) {
	for i := range w {
		w[i] += b[i]
	}
}

// sub takes b from w. Each word of 4p is added beforehand: it is more than any word of b that read leaves.
func (w *words) sub(b *words) {
	w[0] += 4*(mask-18) - b[0]
	for i := 1; i < len(w); i++ {
		w[i] += 4*mask - b[i]
	}
}

// mul makes w the product of a and b, of which each may be w.
func (w *words) mul(a, b *words) {
	// What word i of a and word j of b give counts with word i + j, and from the sixth on 19 times as much with the first.
	b0, b1, b2, b3, b4 := b[0], b[1], b[2], b[3], b[4]
	c1, c2, c3, c4 := fold*b1, fold*b2, fold*b3, fold*b4
	h0, l0 := sum(a, b0, c4, c3, c2, c1)
	h1, l1 := sum(a, b1, b0, c4, c3, c2)
	h2, l2 := sum(a, b2, b1, b0, c4, c3)
	h3, l3 := sum(a, b3, b2, b1, b0, c4)
	h4, l4 := sum(a, b4, b3, b2, b1, b0)
	w[0] = l0 & mask
	w[1] = l1&mask + beyond(h0, l0)
	w[2] = l2&mask + beyond(h1, l1)
	w[3] = l3&mask + beyond(h2, l2)
	w[4] = l4&mask + beyond(h3, l3)
	w[0] += fold * beyond(h4, l4)
	w.wrap()
}

// beyond returns the bits of 128 that are beyond 51.
func beyond(high, low uint64) uint64 { return high<<(64-width) | low>>width }

// sum returns the 128 bits of the words of a times these, added up.
func sum(a *words, b0, b1, b2, b3, b4 uint64) (high, low uint64) {
	high, low = bits.Mul64(a[0], b0)
	high, low = plus(high, low, a[1], b1)
	high, low = plus(high, low, a[2], b2)
	high, low = plus(high, low, a[3], b3)
	return plus(high, low, a[4], b4)
}

// plus adds a times b to 128 bits.
func plus(high, low, a, b uint64) (uint64, uint64) {
	h, l := bits.Mul64(a, b)
	low, bit := bits.Add64(low, l, 0)
	high, _ = bits.Add64(high, h, bit)
	return high, low
}

// pow makes w the power e of a.
func (w *words) pow(a *words, e *api.Num) {
	left := split(e)
	r := words{1}
	for range 8 * len(e) {
		r.mul(&r, &r)
		if left.shift() {
			r.mul(&r, a)
		}
	}
	*w = r
}
