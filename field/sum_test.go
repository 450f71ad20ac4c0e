package field_test

import (
	"math"
	"math/big"
	"testing"

	"headwater/api"
	"headwater/field"
)

// P3.1: a number is canonical if it is below p, and Rest gives the one that is.
func TestCanonAndRest(t *testing.T) {
	for _, a := range all(500, 1) {
		if got, want := field.Canon(a), value(a).Cmp(p) < 0; got != want {
			t.Fatalf("Canon of %x: %v, not %v", value(a), got, want)
		}
		r := field.Rest(a)
		same(t, r, value(a), "Rest", a)
		if !field.Canon(r) || field.Rest(r) != r {
			t.Fatalf("Rest of %x is not canonical", value(a))
		}
	}
}

// P3.1: the edges that the chapter's terms make, each by itself.
func TestRestAtTheEdges(t *testing.T) {
	for _, c := range []struct {
		n     *big.Int
		rest  int64
		canon bool
	}{
		{big.NewInt(0), 0, true},
		{big.NewInt(1), 1, true},
		{new(big.Int).Sub(p, one), -1, true},
		{p, 0, false},
		{new(big.Int).Add(p, one), 1, false},
		{new(big.Int).Sub(bit(255), one), 18, false},
		{bit(255), 19, false},
		{new(big.Int).Lsh(p, 1), 0, false},
		{most, 37, false},
	} {
		a := number(c.n)
		same(t, field.Rest(a), big.NewInt(c.rest), "Rest", a)
		if field.Canon(a) != c.canon {
			t.Errorf("Canon of %x: not %v", c.n, c.canon)
		}
	}
}

// P3.1: Of gives the eight bytes of n, the lowest first.
func TestOf(t *testing.T) {
	if field.Of(0x0807060504030201) != (api.Num{1, 2, 3, 4, 5, 6, 7, 8}) {
		t.Error("the bytes are not in their places")
	}
	for _, n := range []uint64{0, 1, 19, 255, 256, 1<<51 - 1, 1 << 51, 1<<63 - 1, 1 << 63, math.MaxUint64} {
		same(t, field.Of(n), new(big.Int).SetUint64(n), "Of")
	}
}

// checkPair holds the operations on a and b against those of big numbers.
func checkPair(t *testing.T, a, b api.Num) {
	t.Helper()
	x, y := value(a), value(b)
	same(t, field.Add(a, b), new(big.Int).Add(x, y), "Add", a, b)
	same(t, field.Sub(a, b), new(big.Int).Sub(x, y), "Sub", a, b)
	same(t, field.Mul(a, b), new(big.Int).Mul(x, y), "Mul", a, b)
	if got, want := field.Same(a, b), residue(x).Cmp(residue(y)) == 0; got != want {
		t.Fatalf("Same of %x and %x: %v, not %v", x, y, got, want)
	}
}

// P3.1, P3.2: Add, Sub, Mul and Same of all pairs of edges, canonical or not.
func TestPairsOfEdges(t *testing.T) {
	l := edges()
	for _, a := range l {
		for _, b := range l {
			checkPair(t, a, b)
		}
	}
}

// P3.1, P3.2: Add, Sub, Mul and Same of other numbers, among themselves and with edges.
func TestPairsOfOthers(t *testing.T) {
	l := some(4000, 2)
	for i, a := range l[1:] {
		checkPair(t, a, l[i])
	}
	for _, a := range edges() {
		for _, b := range l[:20] {
			checkPair(t, a, b)
			checkPair(t, b, a)
		}
	}
}

// P3.1: Neg gives 0 for all that represents 0, and otherwise p less the number.
func TestNeg(t *testing.T) {
	for _, a := range all(500, 3) {
		same(t, field.Neg(a), new(big.Int).Neg(value(a)), "Neg", a)
	}
	for _, n := range []*big.Int{new(big.Int), p, new(big.Int).Lsh(p, 1)} {
		if field.Neg(number(n)) != (api.Num{}) {
			t.Errorf("Neg of %x is not 0", n)
		}
	}
}

// P3.1: the examples of the chapter.
func TestExamplesOfSums(t *testing.T) {
	if field.Add(number(new(big.Int).Sub(p, one)), field.Of(2)) != field.Of(1) {
		t.Error("p - 1 and 2 is not 1")
	}
	if field.Mul(field.Of(2), field.Inv(field.Of(2))) != field.Of(1) {
		t.Error("2 times its inverse is not 1")
	}
	if field.Neg(field.Of(0)) != field.Of(0) {
		t.Error("Neg of 0 is not 0")
	}
}

// P3.2: Odd is told of the number below p, not of the one that is handed in.
func TestOdd(t *testing.T) {
	for _, a := range all(500, 4) {
		if got, want := field.Odd(a), residue(value(a)).Bit(0) == 1; got != want {
			t.Fatalf("Odd of %x: %v, not %v", value(a), got, want)
		}
	}
	if field.Odd(number(p)) || !field.Odd(number(new(big.Int).Add(p, one))) {
		t.Error("p is 0, and p + 1 is 1")
	}
}

// P3.2: Same holds what is represented against each other, and tells numbers apart that differ by one bit.
func TestSame(t *testing.T) {
	if !field.Same(number(p), api.Num{}) || !field.Same(number(most), field.Of(37)) {
		t.Error("numbers that represent the same residue")
	}
	for _, a := range some(20, 5) {
		for i := range 256 {
			b := a
			b[i/8] ^= 1 << (i % 8)
			if field.Same(a, b) || !field.Same(b, b) {
				t.Fatalf("bit %d of %x", i, value(a))
			}
		}
	}
}
