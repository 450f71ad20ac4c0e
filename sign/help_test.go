package sign_test

import (
	"crypto/sha512"
	"encoding/hex"
	"math/big"
	"math/rand"
	"slices"

	"headwater/api"
)

// affine is a point of the model that the package is held against: the formulas of the chapters, computed by big numbers.
type affine struct{ x, y *big.Int }

var (
	nought = big.NewInt(0)
	one    = big.NewInt(1)
	p      = new(big.Int).Sub(bit(255), big.NewInt(19))
	order  = plus(bit(252), written("27742317777372353535851937790883648493"))
	d      = times(big.NewInt(-121665), inverse(big.NewInt(121666)))
	zero   = affine{nought, one}
	base   = lift(times(big.NewInt(4), inverse(big.NewInt(5))))
)

// written returns the number whose decimals are s.
func written(s string) *big.Int {
	n, ok := new(big.Int).SetString(s, 10)
	if !ok {
		panic(s)
	}
	return n
}

// octets returns the bytes that s tells in hexadecimal.
func octets(s string) []byte {
	b, err := hex.DecodeString(s)
	if err != nil {
		panic(err)
	}
	return b
}

// bit returns 2 to the power of i.
func bit(i uint) *big.Int { return new(big.Int).Lsh(big.NewInt(1), i) }

// plus returns a plus b, as it is.
func plus(a, b *big.Int) *big.Int { return new(big.Int).Add(a, b) }

// residue returns n modulo p, not below 0.
func residue(n *big.Int) *big.Int { return new(big.Int).Mod(n, p) }

// times returns the product of all of l modulo p.
func times(l ...*big.Int) *big.Int {
	r := big.NewInt(1)
	for _, n := range l {
		r = residue(r.Mul(r, n))
	}
	return r
}

// inverse returns the number whose product with n is 1 modulo p.
func inverse(n *big.Int) *big.Int { return new(big.Int).ModInverse(residue(n), p) }

// number returns the 32 bytes of n, the lowest first.
func number(n *big.Int) [32]byte {
	b := n.FillBytes(make([]byte, 32))
	slices.Reverse(b)
	return [32]byte(b)
}

// value returns the number whose bytes b are, the lowest first.
func value(b []byte) *big.Int {
	b = slices.Clone(b)
	slices.Reverse(b)
	return new(big.Int).SetBytes(b)
}

// sum returns the sum of a and b.
func (a affine) sum(b affine) affine {
	k := times(d, a.x, b.x, a.y, b.y)
	x := plus(times(a.x, b.y), times(b.x, a.y))
	y := plus(times(a.y, b.y), times(a.x, b.x))
	return affine{times(x, inverse(plus(one, k))), times(y, inverse(new(big.Int).Sub(one, k)))}
}

// multiple returns a added to itself k times.
func (a affine) multiple(k *big.Int) affine {
	r := zero
	for i := k.BitLen() - 1; i >= 0; i-- {
		r = r.sum(r)
		if k.Bit(i) == 1 {
			r = r.sum(a)
		}
	}
	return r
}

// bytes returns the bytes of a point.
func (a affine) bytes() [32]byte { return number(new(big.Int).SetBit(a.y, 255, a.x.Bit(0))) }

// across returns an X of the points with this Y; nil if there are none.
func across(y *big.Int) *big.Int {
	yy := times(y, y)
	xx := times(new(big.Int).Sub(yy, one), inverse(plus(one, times(d, yy))))
	return new(big.Int).ModSqrt(xx, p)
}

// lift returns the point with this Y whose X is even; there has to be one.
func lift(y *big.Int) affine {
	x := across(y)
	if x == nil {
		panic(y.String())
	}
	if x.Bit(0) == 1 {
		x.Sub(p, x)
	}
	return affine{x, y}
}

// lax returns the point whose bytes b are if nothing but the residue of the Y and the lowest bit of the X counts.
func lax(b [32]byte) (affine, bool) {
	y := value(b[:])
	odd := y.Bit(255)
	y = residue(y.SetBit(y, 255, 0))
	if across(y) == nil {
		return affine{}, false
	}
	a := lift(y)
	if odd == 1 {
		a.x = residue(new(big.Int).Neg(a.x))
	}
	return a, true
}

// read returns the point whose bytes b are, if they are those of one.
func read(b [32]byte) (affine, bool) {
	a, ok := lax(b)
	return a, ok && a.bytes() == b
}

// twist returns a point of order 8: of a point that is not a multiple of the base point, L times it.
func twist() affine {
	for y := big.NewInt(2); ; y = plus(y, one) {
		if across(y) == nil {
			continue
		}
		t := lift(y).multiple(order)
		if t.multiple(big.NewInt(4)).bytes() != zero.bytes() {
			return t
		}
	}
}

// smalls returns the points of small order: the multiples of one of order 8, from Zero on.
func smalls() []affine {
	l := []affine{zero}
	t := twist()
	for range 7 {
		l = append(l, l[len(l)-1].sum(t))
	}
	return l
}

// hash returns the number modulo L of SHA-512 of all pieces.
func hash(pieces ...[]byte) *big.Int {
	h := sha512.Sum512(slices.Concat(pieces...))
	return new(big.Int).Mod(value(h[:]), order)
}

// secret returns the secret number of a seed, and the last 32 bytes of its hash.
func secret(seed [32]byte) (*big.Int, []byte) {
	h := sha512.Sum512(seed[:])
	n := value(h[:32])
	for i := range 3 {
		n.SetBit(n, i, 0)
	}
	n.SetBit(n, 255, 0)
	return n.SetBit(n, 254, 1), h[32:]
}

// joined returns the signature of R and S.
func joined(r [32]byte, s *big.Int) api.Sig {
	n := number(s)
	return api.Sig(slices.Concat(r[:], n[:]))
}

// signed returns the key of a seed and the signature of b, as the chapter defines them.
func signed(seed [32]byte, b []byte) (api.Key, api.Sig) {
	n, tail := secret(seed)
	k := base.multiple(n).bytes()
	r := hash(tail, b)
	above := base.multiple(r).bytes()
	s := plus(new(big.Int).Mul(hash(above[:], k[:], b), n), r)
	return k, joined(above, s.Mod(s, order))
}

// holds reports whether the base point times S is R plus k times the key.
func holds(k api.Key, b []byte, s api.Sig, key, above affine) bool {
	right := above.sum(key.multiple(hash(s[:32], k[:], b)))
	return base.multiple(value(s[32:])).bytes() == right.bytes()
}

// good reports whether a signature is valid, as the chapter defines it.
func good(k api.Key, b []byte, s api.Sig) bool {
	key, ok := read(k)
	above, there := read([32]byte(s[:32]))
	return ok && there && value(s[32:]).Cmp(order) < 0 && holds(k, b, s, key, above)
}

// loose reports whether a signature would be valid if it did not matter how the points and S are written.
func loose(k api.Key, b []byte, s api.Sig) bool {
	key, ok := lax(k)
	above, there := lax([32]byte(s[:32]))
	return ok && there && holds(k, b, s, key, above)
}

// some returns n bytes, the same for the same seed.
func some(n int, seed int64) []byte {
	b := make([]byte, n)
	rand.New(rand.NewSource(seed)).Read(b)
	return b
}

// seeds returns the edges among the seeds, and n others.
func seeds(n int) [][32]byte {
	l := [][32]byte{{}, {0: 1}, {31: 1}, {31: 128}, number(new(big.Int).Sub(bit(256), one)), number(order), number(p)}
	for i := range n {
		l = append(l, [32]byte(some(32, int64(100+i))))
	}
	return l
}

// lengths returns how many bytes are signed: none, one, what just fills pieces of SHA-512 behind 0, 32 and 64 bytes, with the 17 bytes of padding and without, and some thousands.
func lengths() []int {
	l := []int{0, 1, 2, 3, 31, 32, 33, 1000, 1023, 4096, 5000}
	for _, before := range []int{0, 32, 64} {
		for _, pieces := range []int{1, 2} {
			for _, end := range []int{128 * pieces, 128*pieces - 17} {
				l = append(l, end-before-1, end-before, end-before+1)
			}
		}
	}
	return l
}
