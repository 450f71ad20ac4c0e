package field_test

import (
	"math/big"
	"testing"

	"headwater/api"
	"headwater/field"
)

// checkPow holds a power against that of big numbers.
func checkPow(t *testing.T, a, e api.Num) {
	t.Helper()
	same(t, field.Pow(a, e), new(big.Int).Exp(residue(value(a)), value(e), p), "Pow", a, e)
}

// P3.1: Pow of all edges with the edges among the exponents.
func TestPowersOfEdges(t *testing.T) {
	for _, a := range edges() {
		for _, e := range exponents() {
			checkPow(t, a, e)
		}
	}
}

// P3.1: Pow of other numbers with exponents of 256 bits.
func TestPowersOfOthers(t *testing.T) {
	l := some(400, 6)
	for i, a := range l[1:] {
		checkPow(t, a, l[i])
	}
}

// P3.1: each bit of the exponent counts, in its place.
func TestEachBitOfAnExponent(t *testing.T) {
	for i := range uint(256) {
		checkPow(t, field.Of(3), number(bit(i)))
		checkPow(t, field.Of(3), number(new(big.Int).Sub(most, bit(i))))
	}
}

// P3.1: the power 0 of everything is 1, of 0 too; the exponent is taken as it is, so that p is not 0.
func TestPowersByNought(t *testing.T) {
	for _, a := range edges() {
		if field.Pow(a, api.Num{}) != field.Of(1) {
			t.Fatalf("the power 0 of %x is not 1", value(a))
		}
		same(t, field.Pow(a, number(p)), value(a), "Pow by p", a)
		same(t, field.Pow(a, field.Of(1)), value(a), "Pow by 1", a)
	}
	if field.Pow(number(p), number(p)) != (api.Num{}) {
		t.Error("a power of 0 is not 0")
	}
}

// P3.1, P3.3: Inv is 0 for what represents 0; otherwise its product with the number is 1.
func TestInv(t *testing.T) {
	less2 := number(new(big.Int).Sub(p, big.NewInt(2)))
	for _, a := range all(300, 7) {
		got := field.Inv(a)
		if n := residue(value(a)); n.Sign() == 0 {
			same(t, got, n, "Inv", a)
		} else {
			same(t, got, new(big.Int).ModInverse(n, p), "Inv", a)
			same(t, field.Mul(got, a), one, "Mul of Inv", a)
		}
		if got != field.Pow(a, less2) {
			t.Fatalf("Inv of %x is not its power p - 2", value(a))
		}
	}
}

// checkRoot tells of a root that is not what the chapter says; whether there is one is held against Jacobi's symbol.
func checkRoot(t *testing.T, a api.Num) bool {
	t.Helper()
	n := residue(value(a))
	r, ok := field.Root(a)
	if ok != (big.Jacobi(n, p) >= 0) {
		t.Fatalf("Root of %x: %v", value(a), ok)
	}
	if !ok {
		if r != (api.Num{}) {
			t.Fatalf("Root of %x: none, and %x beside it", value(a), value(r))
		}
		return false
	}
	x := value(r)
	same(t, number(residue(new(big.Int).Mul(x, x))), n, "the square of Root", a)
	if x.Cmp(p) >= 0 || x.Bit(0) == 1 {
		t.Fatalf("Root of %x: %x is Odd, or not canonical", value(a), x)
	}
	return true
}

// P3.2: Root of edges and of others, canonical or not: about one of two has one.
func TestRoot(t *testing.T) {
	var with int
	l := all(400, 8)
	for _, a := range l {
		if checkRoot(t, a) {
			with++
		}
	}
	if with < len(l)/4 || with > len(l)*3/4 {
		t.Errorf("of %d numbers %d have a root", len(l), with)
	}
	for n := range uint64(300) {
		checkRoot(t, field.Of(n))
	}
}

// P3.2: Root of a square is the one of the two numbers that is not Odd; twice a square has none, except 0.
func TestRootOfSquares(t *testing.T) {
	for _, a := range all(200, 9) {
		x := residue(value(a))
		square := new(big.Int).Mul(x, x)
		if x.Bit(0) == 1 {
			x.Sub(p, x)
		}
		r, ok := field.Root(number(residue(square)))
		if !ok {
			t.Fatalf("the square of %x has no root", x)
		}
		same(t, r, x, "Root of a square", a)
		double := number(residue(square.Lsh(square, 1)))
		if r, ok := field.Root(double); ok != (x.Sign() == 0) || r != (api.Num{}) {
			t.Fatalf("twice the square of %x: %x, %v", x, value(r), ok)
		}
	}
}

// P3.2: the examples of the chapter, and the roots of 0, 1 and -1, canonical or not.
func TestExamplesOfRoots(t *testing.T) {
	if r, ok := field.Root(field.Of(4)); !ok || r != field.Of(2) {
		t.Error("Root of 4 is not 2")
	}
	if r, ok := field.Root(field.Of(2)); ok || r != (api.Num{}) {
		t.Error("2 has a root")
	}
	for _, n := range []*big.Int{new(big.Int), p, new(big.Int).Lsh(p, 1)} {
		if r, ok := field.Root(number(n)); !ok || r != (api.Num{}) {
			t.Errorf("Root of %x is not 0", n)
		}
	}
	less := number(new(big.Int).Sub(p, one)) // 1 has the roots 1 and p - 1, which is not Odd
	for _, n := range []*big.Int{one, new(big.Int).Add(p, one)} {
		if r, ok := field.Root(number(n)); !ok || r != less {
			t.Errorf("Root of %x is not p - 1", n)
		}
	}
	if r, ok := field.Root(less); !ok || field.Mul(r, r) != less {
		t.Error("Root of -1")
	}
}
