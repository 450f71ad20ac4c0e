package scalar_test

import (
	"bytes"
	"math/rand"
	"testing"

	"headwater/api"
	"headwater/scalar"
)

// equal tells of two results that ought to be the same bytes.
func equal(t *testing.T, a, b api.Num, what string) {
	t.Helper()
	if a != b {
		t.Fatalf("%s: %x and %x", what, value(a), value(b))
	}
}

// rest returns the residue of what Rest takes.
func rest(t *testing.T, b []byte) api.Num {
	t.Helper()
	r, e := scalar.Rest(b)
	if e != api.OK {
		t.Fatalf("Rest of %d bytes: error %d", len(b), e)
	}
	return r
}

// checkLaws tells of a law of sums and products that does not hold for a, b and c.
func checkLaws(t *testing.T, a, b, c api.Num) {
	t.Helper()
	add, mul := scalar.Add, scalar.Mul
	equal(t, add(a, b), add(b, a), "sums of two in any order")
	equal(t, mul(a, b), mul(b, a), "products of two in any order")
	equal(t, add(add(a, b), c), add(a, add(b, c)), "sums of three")
	equal(t, add(add(a, b), c), add(add(c, a), b), "sums of three in another order")
	equal(t, mul(mul(a, b), c), mul(a, mul(b, c)), "products of three")
	equal(t, mul(mul(a, b), c), mul(mul(c, a), b), "products of three in another order")
	equal(t, mul(a, add(b, c)), add(mul(a, b), mul(a, c)), "a product of a sum")
	equal(t, scalar.MulAdd(a, b, c), add(mul(a, b), c), "MulAdd is Add of Mul")
	equal(t, scalar.Neg(mul(a, b)), mul(scalar.Neg(a), b), "Neg of a product")
	equal(t, scalar.Neg(add(a, b)), add(scalar.Neg(a), scalar.Neg(b)), "Neg of a sum")
}

// P4.2: sums and products are those modulo L, in any order.
func TestLaws(t *testing.T) {
	l := all(300, 7)
	for i, a := range l {
		checkLaws(t, a, l[(7*i+1)%len(l)], l[(11*i+5)%len(l)])
		checkLaws(t, a, a, l[(13*i+2)%len(l)])
	}
}

// P4.2: 0 and 1 change nothing but what is not canonical, and sums with Neg are 0.
func TestNeutral(t *testing.T) {
	for _, a := range all(200, 8) {
		r := rest(t, a[:])
		equal(t, scalar.Add(a, api.Num{}), r, "a plus 0")
		equal(t, scalar.Mul(a, api.Num{1}), r, "a times 1")
		equal(t, scalar.Mul(a, api.Num{}), api.Num{}, "a times 0")
		equal(t, scalar.MulAdd(a, scalar.L(), a), r, "a times L, plus a")
		equal(t, scalar.Add(a, scalar.Neg(a)), api.Num{}, "a plus -a")
		equal(t, scalar.Neg(scalar.Neg(a)), r, "Neg of Neg")
	}
}

// P4.2: what a call answers hangs on the residues alone, and is canonical.
func TestResiduesAlone(t *testing.T) {
	l := all(100, 9)
	for i, a := range l {
		b, c := l[(i*17+3)%len(l)], l[(i*5+1)%len(l)]
		x, y, z := rest(t, a[:]), rest(t, b[:]), rest(t, c[:])
		for _, p := range [][2]api.Num{
			{scalar.Add(a, b), scalar.Add(x, y)},
			{scalar.Mul(a, b), scalar.Mul(x, y)},
			{scalar.MulAdd(a, b, c), scalar.MulAdd(x, y, z)},
			{scalar.Neg(a), scalar.Neg(x)},
		} {
			equal(t, p[0], p[1], "of residues")
			if !scalar.Canon(p[0]) {
				t.Fatalf("%x is not canonical", value(p[0]))
			}
		}
	}
}

// P4.2: zero bytes that are appended change nothing, as long as there are 64 at most.
func TestZerosAppended(t *testing.T) {
	r := rand.New(rand.NewSource(10))
	for n := range 65 {
		others := make([]byte, n)
		r.Read(others)
		for _, b := range [][]byte{make([]byte, n), bytes.Repeat([]byte{255}, n), others} {
			want := rest(t, b)
			for len(b) < 64 {
				b = append(b, 0)
				equal(t, rest(t, b), want, "Rest with a zero appended")
			}
			if got, e := scalar.Rest(append(b, 0)); e != api.ErrLong || got != (api.Num{}) {
				t.Fatalf("a 65th byte that is zero: %x, error %d", value(got), e)
			}
		}
	}
}

// T6: what a call answers is the same again, whatever was called in between.
func TestAgain(t *testing.T) {
	l := some(50, 11)
	for i, a := range l {
		b, c := l[(i+7)%len(l)], l[(i+11)%len(l)]
		sum, product, both, minus, r := scalar.Add(a, b), scalar.Mul(a, b), scalar.MulAdd(a, b, c), scalar.Neg(a), rest(t, a[:])
		scalar.MulAdd(c, c, c)
		equal(t, scalar.Add(a, b), sum, "Add again")
		equal(t, scalar.Mul(a, b), product, "Mul again")
		equal(t, scalar.MulAdd(a, b, c), both, "MulAdd again")
		equal(t, scalar.Neg(a), minus, "Neg again")
		equal(t, rest(t, a[:]), r, "Rest again")
	}
}
