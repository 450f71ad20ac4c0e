package curve

import (
	"headwater/api"
	"headwater/field"
	"headwater/scalar"
)

// extended is a point in extended coordinates: X is x/z, Y is y/z, and X times Y is t/z. With them a sum takes no inverse, which costs more than a hundred products.
//
// The formulas below hold for all points alike, as no denominator is ever 0: there are no cases. They spend a product rather than two sums, since package field takes about as long for each.
type extended struct{ x, y, z, t api.Num }

// read makes r the point p.
func (r *extended) read(p *api.Point) {
	r.x, r.y, r.z = p.X, p.Y, field.Of(1)
	r.t = field.Mul(p.X, p.Y)
}

// point returns the point that r is.
func (r *extended) point() api.Point {
	i := field.Inv(r.z)
	return api.Point{X: field.Mul(r.x, i), Y: field.Mul(r.y, i)}
}

// add makes r the sum of p and q, of which each may be r.
func (r *extended) add(p, q *extended) {
	// One and the d x1 x2 y1 y2 of the chapter, both times z1 z2.
	one := field.Mul(p.z, q.z)
	d := field.Mul(D(), field.Mul(p.t, q.t))
	x := field.Add(field.Mul(p.x, q.y), field.Mul(p.y, q.x))
	y := field.Add(field.Mul(p.y, q.y), field.Mul(p.x, q.x))
	overX, overY := field.Add(one, d), field.Sub(one, d)
	r.divide(&x, &overX, &y, &overY)
}

// double makes r twice p, which may be r.
func (r *extended) double(p *extended) {
	// By the curve's equation 1 + d x^2 y^2 is y^2 - x^2, and 1 - d x^2 y^2 is 2 less that: so t is not needed.
	xx, yy := field.Mul(p.x, p.x), field.Mul(p.y, p.y)
	one, x := field.Mul(p.z, p.z), field.Mul(p.x, p.y)
	x = field.Add(x, x)
	y := field.Add(yy, xx)
	overX := field.Sub(yy, xx)
	overY := field.Sub(field.Add(one, one), overX)
	r.divide(&x, &overX, &y, &overY)
}

// divide makes r the point whose X is x/overX, and whose Y is y/overY, by giving both the same denominator.
func (r *extended) divide(x, overX, y, overY *api.Num) {
	r.x = field.Mul(*x, *overY)
	r.y = field.Mul(*y, *overX)
	r.z = field.Mul(*overX, *overY)
	r.t = field.Mul(*x, *y)
}

// pair is a bit of each of two numbers.
type pair [2]bool

// mul2 makes r the sum of a times p and b times q. Both multiples share the doublings, and where both have a bit one sum.
func (r *extended) mul2(a *api.Num, p *extended, b *api.Num, q *extended) {
	var both extended
	both.add(p, q)
	zero := Zero()
	r.read(&zero)
	for i := highest(a, b); i >= 0; i-- {
		r.double(r)
		switch (pair{scalar.Bit(*a, i), scalar.Bit(*b, i)}) {
		case pair{true, true}:
			r.add(r, &both)
		case pair{true, false}:
			r.add(r, p)
		case pair{false, true}:
			r.add(r, q)
		}
	}
}

// highest returns the place of the highest bit that a or b has; below 0 if there is none. What is above would only double Zero.
func highest(a, b *api.Num) int {
	i := 8*len(a) - 1
	for i >= 0 && !scalar.Bit(*a, i) && !scalar.Bit(*b, i) {
		i--
	}
	return i
}
