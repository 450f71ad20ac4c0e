package scalar_test

import (
	"math/big"
	"testing"

	"headwater/api"
	"headwater/scalar"
)

// checkPair holds the operations on a and b against those of big numbers.
func checkPair(t *testing.T, a, b api.Num) {
	t.Helper()
	x, y := value(a), value(b)
	same(t, scalar.Add(a, b), new(big.Int).Add(x, y), "Add", a, b)
	same(t, scalar.Mul(a, b), new(big.Int).Mul(x, y), "Mul", a, b)
}

// checkThree holds MulAdd against that of big numbers.
func checkThree(t *testing.T, a, b, c api.Num) {
	t.Helper()
	n := new(big.Int).Mul(value(a), value(b))
	same(t, scalar.MulAdd(a, b, c), n.Add(n, value(c)), "MulAdd", a, b, c)
}

// P4.1: Add and Mul of all pairs of edges, canonical or not; MulAdd of them with others.
func TestPairsOfEdges(t *testing.T) {
	l := edges()
	for i, a := range l {
		for j, b := range l {
			checkPair(t, a, b)
			checkThree(t, a, b, l[(3*i+5*j)%len(l)])
		}
	}
}

// P4.1: Add, Mul and MulAdd of other numbers, among themselves and with edges.
func TestPairsOfOthers(t *testing.T) {
	l := some(2000, 5)
	e := edges()
	for i, a := range l[2:] {
		checkPair(t, a, l[i])
		checkThree(t, a, l[i], l[i+1])
		checkThree(t, a, e[i%len(e)], l[i])
		checkThree(t, e[i%len(e)], l[i], a)
		checkThree(t, a, l[i], e[i%len(e)])
	}
}

// P4.1: the greatest numbers of all: the product and the sum of these have 512 bits.
func TestGreatest(t *testing.T) {
	m := number(most)
	checkPair(t, m, m)
	checkThree(t, m, m, m)
	less := number(new(big.Int).Sub(order, one))
	checkThree(t, less, less, less)
	checkThree(t, m, m, api.Num{})
	checkThree(t, m, api.Num{}, m)
	checkThree(t, api.Num{}, m, m)
}

// P4.1: each pair of bits of the factors counts in its place, and so does each bit that is added.
func TestEachBitOfFactors(t *testing.T) {
	for i := range uint(256) {
		for _, j := range []uint{0, 1, 63, 64, 127, 128, 191, 192, 251, 252, 255, i} {
			checkPair(t, number(bit(i)), number(bit(j)))
			checkThree(t, number(most), number(bit(j)), number(bit(i)))
		}
	}
}

// P4.1: Neg gives 0 for all that represents 0, and otherwise L less the residue.
func TestNeg(t *testing.T) {
	for _, a := range all(500, 6) {
		same(t, scalar.Neg(a), new(big.Int).Neg(value(a)), "Neg", a)
	}
	for i := range int64(16) {
		if got := scalar.Neg(number(times(i))); got != (api.Num{}) {
			t.Errorf("Neg of %d times L: %x", i, value(got))
		}
	}
	if scalar.Neg(api.Num{1}) != number(new(big.Int).Sub(order, one)) {
		t.Error("Neg of 1 is not L - 1")
	}
}

// P4.1: the examples of the chapter, and small numbers whose results are plain.
func TestExamples(t *testing.T) {
	less := number(new(big.Int).Sub(order, one))
	if scalar.Add(less, api.Num{2}) != (api.Num{1}) {
		t.Error("L - 1 and 2 is not 1")
	}
	if scalar.Add(less, api.Num{1}) != (api.Num{}) || scalar.Add(number(order), number(order)) != (api.Num{}) {
		t.Error("sums that are multiples of L are not 0")
	}
	if scalar.Mul(less, less) != (api.Num{1}) {
		t.Error("-1 times -1 is not 1")
	}
	if scalar.MulAdd(less, api.Num{3}, api.Num{3}) != (api.Num{}) {
		t.Error("-1 times 3, plus 3, is not 0")
	}
	if scalar.Mul(api.Num{6}, api.Num{7}) != (api.Num{42}) || scalar.MulAdd(api.Num{6}, api.Num{7}, api.Num{8}) != (api.Num{50}) {
		t.Error("small numbers")
	}
}
