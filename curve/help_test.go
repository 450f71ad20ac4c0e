package curve_test

import (
	"math/big"
	"math/rand"
	"slices"
	"testing"

	"headwater/api"
	"headwater/curve"
)

// affine is a point of the model that the package is held against: the chapter's formulas, computed by big numbers.
type affine struct{ x, y *big.Int }

var (
	nought = big.NewInt(0)
	one    = big.NewInt(1)
	p      = new(big.Int).Sub(bit(255), big.NewInt(19))
	order  = plus(bit(252), written("27742317777372353535851937790883648493"))
	most   = new(big.Int).Sub(bit(256), one)
	d      = times(big.NewInt(-121665), inverse(big.NewInt(121666)))
	zero   = affine{nought, one}
	base   = lift(times(big.NewInt(4), inverse(big.NewInt(5))), 0)
)

// written returns the number whose decimals are s.
func written(s string) *big.Int {
	n, ok := new(big.Int).SetString(s, 10)
	if !ok {
		panic(s)
	}
	return n
}

// bit returns 2 to the power of i.
func bit(i uint) *big.Int { return new(big.Int).Lsh(big.NewInt(1), i) }

// plus returns a plus b, as it is.
func plus(a, b *big.Int) *big.Int { return new(big.Int).Add(a, b) }

// residue returns n modulo p, not below 0.
func residue(n *big.Int) *big.Int { return new(big.Int).Mod(n, p) }

// times returns the product of all of l modulo p.
func times(l ...*big.Int) *big.Int {
	r := big.NewInt(1)
	for _, n := range l {
		r = residue(r.Mul(r, n))
	}
	return r
}

// inverse returns the number whose product with n is 1 modulo p.
func inverse(n *big.Int) *big.Int { return new(big.Int).ModInverse(residue(n), p) }

// number returns the 32 bytes of n, the lowest first.
func number(n *big.Int) api.Num {
	b := n.FillBytes(make([]byte, 32))
	slices.Reverse(b)
	return api.Num(b)
}

// value returns the number whose bytes a is.
func value(a [32]byte) *big.Int {
	slices.Reverse(a[:])
	return new(big.Int).SetBytes(a[:])
}

// point returns a in bytes.
func (a affine) point() api.Point { return api.Point{X: number(a.x), Y: number(a.y)} }

// bytes returns the bytes of a point, as the chapter defines them.
func (a affine) bytes() [32]byte {
	return number(new(big.Int).SetBit(a.y, 255, a.x.Bit(0)))
}

// model returns the point whose bytes q is.
func model(q api.Point) affine { return affine{value(q.X), value(q.Y)} }

// valid reports whether a is a point: its coordinates are below p, and on the curve.
func (a affine) valid() bool {
	xx, yy := times(a.x, a.x), times(a.y, a.y)
	left := residue(new(big.Int).Sub(yy, xx))
	return a.x.Cmp(p) < 0 && a.y.Cmp(p) < 0 && left.Cmp(residue(plus(one, times(d, xx, yy)))) == 0
}

// sum returns the sum of a and b by the chapter's formula.
func (a affine) sum(b affine) affine {
	k := times(d, a.x, b.x, a.y, b.y)
	x := plus(times(a.x, b.y), times(b.x, a.y))
	y := plus(times(a.y, b.y), times(a.x, b.x))
	return affine{times(x, inverse(plus(one, k))), times(y, inverse(new(big.Int).Sub(one, k)))}
}

// multiple returns a added to itself k times.
func (a affine) multiple(k *big.Int) affine {
	r := zero
	for i := k.BitLen() - 1; i >= 0; i-- {
		r = r.sum(r)
		if k.Bit(i) == 1 {
			r = r.sum(a)
		}
	}
	return r
}

// minus returns the negative of a.
func (a affine) minus() affine { return affine{residue(new(big.Int).Neg(a.x)), a.y} }

// across returns the X of a point with this Y whose lowest bit is odd; nil if there is none.
func across(y *big.Int, odd uint) *big.Int {
	yy := times(y, y)
	xx := times(new(big.Int).Sub(yy, one), inverse(plus(one, times(d, yy))))
	x := new(big.Int).ModSqrt(xx, p)
	if x == nil || x.Sign() == 0 && odd == 1 {
		return nil
	}
	if x.Bit(0) != odd {
		x.Sub(p, x)
	}
	return x
}

// lift returns the point with this Y whose X has odd as its lowest bit; there has to be one.
func lift(y *big.Int, odd uint) affine {
	x := across(y, odd)
	if x == nil {
		panic(y.String())
	}
	return affine{x, y}
}

// twist returns a point of order 8: of a point that is not a multiple of the base point, L times it.
func twist() affine {
	for y := big.NewInt(2); ; y = plus(y, one) {
		x := across(y, 0)
		if x == nil {
			continue
		}
		t := affine{x, y}.multiple(order)
		if t.multiple(big.NewInt(4)).point() != zero.point() {
			return t
		}
	}
}

// smalls returns the points of small order: the multiples of one of order 8, from Zero on.
func smalls() []affine {
	l := []affine{zero}
	t := twist()
	for range 7 {
		l = append(l, l[len(l)-1].sum(t))
	}
	return l
}

// some returns n points of any order, the same in each run.
func some(n int, seed int64) []affine {
	r := rand.New(rand.NewSource(seed))
	var l []affine
	for len(l) < n {
		y := new(big.Int).Rand(r, p)
		if x := across(y, uint(r.Intn(2))); x != nil {
			l = append(l, affine{x, y})
		}
	}
	return l
}

// extremes returns the points with the least and the greatest Y, besides those with X 0.
func extremes() []affine {
	var l []affine
	for i := int64(0); len(l) < 12; i++ {
		for _, y := range []*big.Int{big.NewInt(i), new(big.Int).Sub(p, big.NewInt(i+1))} {
			for odd := range uint(2) {
				if x := across(y, odd); x != nil && x.Sign() != 0 {
					l = append(l, affine{x, y})
				}
			}
		}
	}
	return l
}

// points returns the edges among the points and n others: those of small order (also those with X 0), the base point plus each of them, its negative, twice it, and the least and the greatest.
func points(n int, seed int64) []affine {
	l := smalls()
	for _, s := range l[1:] {
		l = append(l, base.sum(s))
	}
	l = append(l, base, base.minus(), base.sum(base), base.sum(base).minus())
	return append(append(l, extremes()...), some(n, seed)...)
}

// numbers returns the edges among the multiples, and n others of 256 bits.
func numbers(n int, seed int64) []*big.Int {
	var l []*big.Int
	for i := range int64(17) {
		l = append(l, big.NewInt(i))
	}
	eight := new(big.Int).Lsh(order, 3)
	for _, m := range []*big.Int{order, eight, p, bit(252), bit(255)} {
		for i := int64(-1); i <= 1; i++ {
			l = append(l, plus(m, big.NewInt(i)))
		}
	}
	l = append(l, bit(64), bit(128), most, new(big.Int).Sub(most, one))
	r := rand.New(rand.NewSource(seed))
	for range n {
		l = append(l, new(big.Int).Rand(r, bit(256)))
	}
	return l
}

// wrong returns what is not a point: coordinates that are not canonical, though they represent points, and coordinates that are off the curve.
func wrong() []api.Point {
	var l []api.Point
	for _, a := range append(smalls(), base, base.minus()) {
		x, y := plus(a.x, p), plus(a.y, p)
		l = append(l, affine{x, a.y}.point(), affine{a.x, y}.point(), affine{x, y}.point())
	}
	two := new(big.Int).Lsh(p, 1)
	for _, a := range []affine{
		{two, one}, {nought, plus(two, one)}, {nought, nought}, {one, one}, {one, nought}, {p, nought}, {nought, p},
		{base.y, base.x}, {base.x, base.minus().x}, {plus(base.x, one), base.y}, {base.x, plus(base.y, one)},
		{base.x, one}, {nought, base.y}, {most, most}, {nought, most}, {most, one}, {base.x, nought}, {nought, big.NewInt(2)},
	} {
		l = append(l, a.point())
	}
	return l
}

// same tells of a point that is not want, or that Check refuses.
func same(t *testing.T, got api.Point, want affine, call string, args ...any) {
	t.Helper()
	if got != want.point() {
		t.Fatalf("%s %x: (%x, %x), not (%x, %x)", call, args, value(got.X), value(got.Y), want.x, want.y)
	}
	if e := curve.Check(got); e != api.OK {
		t.Fatalf("%s %x: Check of (%x, %x) is %d", call, args, value(got.X), value(got.Y), e)
	}
}
