package field_test

import (
	"testing"

	"headwater/api"
	"headwater/field"
)

// equal tells of two results that ought to be the same bytes.
func equal(t *testing.T, a, b api.Num, what string) {
	t.Helper()
	if a != b {
		t.Fatalf("%s: %x and %x", what, value(a), value(b))
	}
}

// checkLaws tells of a law of fields that does not hold for a, b and c.
func checkLaws(t *testing.T, a, b, c api.Num) {
	t.Helper()
	add, mul := field.Add, field.Mul
	equal(t, add(a, b), add(b, a), "sums of two in any order")
	equal(t, mul(a, b), mul(b, a), "products of two in any order")
	equal(t, add(add(a, b), c), add(a, add(b, c)), "sums of three")
	equal(t, mul(mul(a, b), c), mul(a, mul(b, c)), "products of three")
	equal(t, mul(a, add(b, c)), add(mul(a, b), mul(a, c)), "a product of a sum")
	equal(t, field.Sub(a, b), add(a, field.Neg(b)), "Sub is Add of Neg")
	equal(t, add(field.Sub(a, b), b), field.Rest(a), "what was taken and is added again")
}

// P3.3: sums and products are those of a field.
func TestLawsOfAField(t *testing.T) {
	l := all(300, 10)
	for i, a := range l {
		checkLaws(t, a, l[(7*i+1)%len(l)], l[(11*i+5)%len(l)])
		checkLaws(t, a, a, l[(13*i+2)%len(l)])
	}
	e := edges()
	for i, a := range e {
		for j, b := range e {
			checkLaws(t, a, b, e[(i+3*j)%len(e)])
		}
	}
}

// P3.3: 0 and 1 change nothing, sums with Neg are 0, and Inv of what is not 0 times it is 1.
func TestNeutralAndInverse(t *testing.T) {
	for _, a := range all(100, 11) {
		equal(t, field.Add(a, api.Num{}), field.Rest(a), "a plus 0")
		equal(t, field.Mul(a, field.Of(1)), field.Rest(a), "a times 1")
		equal(t, field.Mul(a, api.Num{}), api.Num{}, "a times 0")
		equal(t, field.Add(a, field.Neg(a)), api.Num{}, "a plus -a")
		if !field.Same(a, api.Num{}) {
			equal(t, field.Mul(field.Inv(a), a), field.Of(1), "Inv of a times a")
		}
	}
}

// P3.3: of a and -a exactly one is Odd, unless a is 0: then none is.
func TestOneOfTwoIsOdd(t *testing.T) {
	for _, a := range all(500, 12) {
		odd, other := field.Odd(a), field.Odd(field.Neg(a))
		if field.Same(a, api.Num{}) {
			if odd || other {
				t.Fatalf("%x is 0, and Odd", value(a))
			}
		} else if odd == other {
			t.Fatalf("%x and its negative: both %v", value(a), odd)
		}
	}
}

// P3.1, P3.2: what a call answers hangs on the residues alone (for an exponent, on the number itself).
func TestResiduesAlone(t *testing.T) {
	l := all(50, 13)
	for i, a := range l {
		b := l[(i*17+3)%len(l)]
		x, y := field.Rest(a), field.Rest(b)
		equal(t, field.Add(a, b), field.Add(x, y), "Add")
		equal(t, field.Sub(a, b), field.Sub(x, y), "Sub")
		equal(t, field.Mul(a, b), field.Mul(x, y), "Mul")
		equal(t, field.Neg(a), field.Neg(x), "Neg")
		equal(t, field.Pow(a, b), field.Pow(x, b), "Pow")
		equal(t, field.Inv(a), field.Inv(x), "Inv")
		r, ok := field.Root(a)
		s, is := field.Root(x)
		equal(t, r, s, "Root")
		if ok != is || field.Odd(a) != field.Odd(x) || !field.Same(a, x) {
			t.Fatalf("%x and %x are told apart", value(a), value(x))
		}
	}
}
