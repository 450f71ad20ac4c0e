package curve_test

import (
	"math/big"
	"testing"

	"headwater/api"
	"headwater/curve"
	"headwater/scalar"
)

// equal tells of two results that ought to be the same point.
func equal(t *testing.T, a, b api.Point, what string) {
	t.Helper()
	if a != b {
		t.Fatalf("%s: %x and %x", what, a, b)
	}
}

// P5.3: sums can be taken in any order, Zero changes none, and each point has a negative.
func TestGroup(t *testing.T) {
	add := curve.Add
	l := points(10, 18)
	for i := range l {
		for j := range l {
			a, b, c := l[i].point(), l[j].point(), l[(3*i+5*j+1)%len(l)].point()
			equal(t, add(a, b), add(b, a), "sums of two")
			equal(t, add(add(a, b), c), add(a, add(b, c)), "sums of three")
			equal(t, add(add(a, b), c), add(add(c, a), b), "sums of three in another order")
			equal(t, add(curve.Neg(a), curve.Neg(b)), curve.Neg(add(a, b)), "Neg of a sum")
			equal(t, add(add(a, b), curve.Neg(b)), a, "what was added and is taken again")
		}
	}
}

// P5.3: Mul of a sum of points is the sum of the Muls.
func TestMulOfASumOfPoints(t *testing.T) {
	l, ks := points(5, 19), numbers(5, 20)
	for i, k := range ks {
		k := number(k)
		for j := range 4 {
			a, b := l[(i+7*j)%len(l)].point(), l[(5*i+j+1)%len(l)].point()
			equal(t, curve.Mul(k, curve.Add(a, b)), curve.Add(curve.Mul(k, a), curve.Mul(k, b)), "Mul of a sum of points")
			equal(t, curve.Mul2(k, a, k, b), curve.Mul(k, curve.Add(a, b)), "Mul2 by the same number")
			equal(t, curve.Mul(k, curve.Neg(a)), curve.Neg(curve.Mul(k, a)), "Mul of Neg")
		}
	}
}

// P5.3: Mul by a sum of numbers is the sum of the Muls, as long as the sum has 256 bits; by a product, Mul of Mul.
func TestMulByASumOfNumbers(t *testing.T) {
	l, ks := points(5, 21), numbers(5, 22)
	for i, k := range ks {
		m := ks[(3*i+4)%len(ks)]
		a := l[i%len(l)].point()
		if s := plus(k, m); s.Cmp(most) <= 0 {
			equal(t, curve.Mul(number(s), a), curve.Add(curve.Mul(number(k), a), curve.Mul(number(m), a)), "Mul by a sum")
			equal(t, curve.Mul(number(s), a), curve.Mul2(number(k), a, number(m), a), "Mul2 of one point")
		}
		if n := new(big.Int).Mul(k, m); n.Cmp(most) <= 0 {
			equal(t, curve.Mul(number(n), a), curve.Mul(number(k), curve.Mul(number(m), a)), "Mul by a product")
		}
	}
}

// P5.3: L times the base point is Zero, so that numbers count for it as their residues modulo L do.
func TestOrderOfTheBasePoint(t *testing.T) {
	b := curve.Base()
	equal(t, curve.Mul(scalar.L(), b), curve.Zero(), "L times the base point")
	ks := numbers(5, 23)
	for i, k := range ks {
		n := number(k)
		r, _ := scalar.Rest(n[:])
		equal(t, curve.Mul(n, b), curve.Mul(r, b), "a number and its residue")
		m := number(ks[(7*i+2)%len(ks)])
		equal(t, curve.Add(curve.Mul(n, b), curve.Mul(m, b)), curve.Mul(scalar.Add(n, m), b), "a sum modulo L")
		equal(t, curve.Mul(n, curve.Mul(m, b)), curve.Mul(scalar.Mul(n, m), b), "a product modulo L")
	}
}

// P5.3: Read of Bytes is the point.
func TestReadOfBytes(t *testing.T) {
	for _, a := range points(100, 24) {
		b, e := curve.Bytes(a.point())
		if e != api.OK {
			t.Fatalf("Bytes of (%x, %x): error %d", a.x, a.y, e)
		}
		q, e := curve.Read(b)
		if e != api.OK || q != a.point() {
			t.Fatalf("Read of Bytes of (%x, %x): %x, error %d", a.x, a.y, q, e)
		}
	}
}

// P5.3: no other bytes give a point: what can be read is what Bytes gives of it, also beside the bytes of a point, by one bit each, and by p.
func TestNoOtherBytes(t *testing.T) {
	var l [][32]byte
	for _, a := range append(append(smalls(), extremes()...), base) {
		b := a.bytes()
		for i := range 256 {
			c := b
			c[i/8] ^= 1 << (i % 8)
			l = append(l, c)
		}
		if y := plus(a.y, p); y.BitLen() <= 255 {
			c := signed(y)
			l = append(l, c[0], c[1])
		}
	}
	for _, b := range l {
		q, e := curve.Read(b)
		if e != api.OK {
			continue
		}
		if c, e := curve.Bytes(q); e != api.OK || c != b {
			t.Fatalf("%x gives %x, whose bytes are %x, error %d", b, q, c, e)
		}
	}
}

// P5.3: the bytes with the other sign are those of the negative, if it is another point, and otherwise of none.
func TestTheOtherSign(t *testing.T) {
	for _, a := range points(50, 25) {
		b := a.bytes()
		b[31] ^= 128
		q, e := curve.Read(b)
		if a.x.Sign() == 0 {
			if e != api.ErrBad || q != (api.Point{}) {
				t.Errorf("Read of %x: %x, error %d", b, q, e)
			}
			continue
		}
		if e != api.OK {
			t.Fatalf("Read of %x: error %d", b, e)
		}
		same(t, q, a.minus(), "Read of the other sign", b)
	}
}

// T6: what a call answers is the same again, whatever was called in between.
func TestAgain(t *testing.T) {
	k, m := number(most), scalar.L()
	for _, a := range points(5, 26) {
		q, b := a.point(), curve.Base()
		sum, minus, product, two := curve.Add(q, b), curve.Neg(q), curve.Mul(k, q), curve.Mul2(k, q, m, b)
		curve.Mul2(m, b, m, b)
		equal(t, curve.Add(q, b), sum, "Add again")
		equal(t, curve.Neg(q), minus, "Neg again")
		equal(t, curve.Mul(k, q), product, "Mul again")
		equal(t, curve.Mul2(k, q, m, b), two, "Mul2 again")
		equal(t, curve.Base(), base.point(), "Base again")
		equal(t, curve.Zero(), zero.point(), "Zero again")
	}
}
