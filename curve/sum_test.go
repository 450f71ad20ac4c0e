package curve_test

import (
	"math/big"
	"testing"

	"headwater/api"
	"headwater/curve"
	"headwater/field"
)

// P5.1: D is -121665 times Inv 121666, canonical.
func TestD(t *testing.T) {
	got := curve.D()
	if got != number(d) || got != field.Mul(field.Neg(field.Of(121665)), field.Inv(field.Of(121666))) {
		t.Errorf("D is %x, not %x", value(got), d)
	}
	if !field.Canon(got) {
		t.Error("D is not canonical")
	}
	if _, ok := field.Root(got); ok {
		t.Error("D has a root: sums could divide by 0")
	}
}

// P5.1: Zero is (0, 1); the base point has y = 4 times Inv 5, and the x that is not Odd.
func TestZeroAndBase(t *testing.T) {
	if curve.Zero() != (api.Point{Y: api.Num{1}}) {
		t.Error("Zero is not (0, 1)")
	}
	same(t, curve.Base(), base, "Base")
	if b := curve.Base(); b.Y != field.Mul(field.Of(4), field.Inv(field.Of(5))) || field.Odd(b.X) {
		t.Errorf("Base is %x", b)
	}
}

// P5.1: Check takes all points.
func TestCheckOfPoints(t *testing.T) {
	for _, a := range points(100, 1) {
		for _, b := range []affine{a, a.minus()} {
			if e := curve.Check(b.point()); e != api.OK {
				t.Errorf("Check of (%x, %x): %d", b.x, b.y, e)
			}
		}
	}
}

// P5.1: Check refuses coordinates that are not canonical, and such as are off the curve.
func TestCheckOfWrongPoints(t *testing.T) {
	for _, q := range wrong() {
		if e := curve.Check(q); e != api.ErrArg {
			t.Errorf("Check of (%x, %x): %d", value(q.X), value(q.Y), e)
		}
	}
}

// P5.1: each bit of both coordinates counts; whether what is left is a point is held against the model.
func TestCheckOfEachBit(t *testing.T) {
	for _, a := range append(some(2, 2), base, zero) {
		for i := range 256 {
			x, y := a.point(), a.point()
			x.X[i/8] ^= 1 << (i % 8)
			y.Y[i/8] ^= 1 << (i % 8)
			for _, q := range []api.Point{x, y} {
				if got := curve.Check(q) == api.OK; got != model(q).valid() {
					t.Fatalf("Check of (%x, %x): %v", value(q.X), value(q.Y), got)
				}
			}
		}
	}
}

// P5.1: Add of all pairs of edges and others, among them a point twice, a point and its negative, and Zero on either side.
func TestAdd(t *testing.T) {
	l := points(5, 3)
	for _, a := range l {
		for _, b := range append(l, a.minus()) {
			same(t, curve.Add(a.point(), b.point()), a.sum(b), "Add", a.x, a.y, b.x, b.y)
		}
	}
}

// P5.1: sums whose result is plain: of a point and its negative, with Zero, and of the points with X 0 or Y 0.
func TestPlainSums(t *testing.T) {
	less := new(big.Int).Sub(p, one)
	half := affine{nought, less}.point()
	for _, a := range points(20, 4) {
		q := a.point()
		if curve.Add(q, curve.Neg(q)) != curve.Zero() || curve.Add(curve.Neg(q), q) != curve.Zero() {
			t.Errorf("(%x, %x) and its negative", a.x, a.y)
		}
		if curve.Add(q, curve.Zero()) != q || curve.Add(curve.Zero(), q) != q {
			t.Errorf("(%x, %x) and Zero", a.x, a.y)
		}
		opposite := affine{residue(new(big.Int).Neg(a.x)), residue(new(big.Int).Neg(a.y))}
		same(t, curve.Add(q, half), opposite, "Add of (0, -1)", a.x, a.y)
	}
	if curve.Add(half, half) != curve.Zero() {
		t.Error("(0, -1) twice is not Zero")
	}
	quarter := lift(nought, 0).point()
	if curve.Add(quarter, quarter) != half {
		t.Error("a point with Y 0 twice is not (0, -1)")
	}
}

// P5.1: Neg has the negative X, which is 0 for 0.
func TestNeg(t *testing.T) {
	for _, a := range points(50, 5) {
		same(t, curve.Neg(a.point()), a.minus(), "Neg", a.x, a.y)
		if curve.Neg(curve.Neg(a.point())) != a.point() {
			t.Fatalf("Neg of Neg of (%x, %x)", a.x, a.y)
		}
	}
	if curve.Neg(curve.Zero()) != curve.Zero() {
		t.Error("Neg of Zero")
	}
}

// The first sentence of the promises: Add and Neg return Zero if a point is not valid, on either side.
func TestSumsOfWrongPoints(t *testing.T) {
	for _, q := range wrong() {
		for _, a := range []api.Point{curve.Base(), curve.Zero(), q, api.Point{}} {
			if curve.Add(a, q) != curve.Zero() || curve.Add(q, a) != curve.Zero() {
				t.Errorf("Add of %x and %x is not Zero", a, q)
			}
		}
		if curve.Neg(q) != curve.Zero() {
			t.Errorf("Neg of %x is not Zero", q)
		}
	}
}
