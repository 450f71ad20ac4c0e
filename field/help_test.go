package field_test

import (
	"math/big"
	"math/rand"
	"testing"

	"headwater/api"
)

var (
	one  = big.NewInt(1)
	p    = new(big.Int).Sub(bit(255), big.NewInt(19))
	most = new(big.Int).Sub(bit(256), one)
)

// bit returns 2 to the power of i.
func bit(i uint) *big.Int { return new(big.Int).Lsh(big.NewInt(1), i) }

// number returns the bytes of n, the lowest first.
func number(n *big.Int) api.Num {
	var a api.Num
	for i, b := range n.FillBytes(make([]byte, len(a))) {
		a[len(a)-1-i] = b
	}
	return a
}

// value returns the number whose bytes a is.
func value(a api.Num) *big.Int {
	b := make([]byte, len(a))
	for i, x := range a {
		b[len(b)-1-i] = x
	}
	return new(big.Int).SetBytes(b)
}

// residue returns n modulo p, not below 0.
func residue(n *big.Int) *big.Int { return new(big.Int).Mod(n, p) }

// same tells of a result that is not the bytes of want modulo p.
func same(t *testing.T, got api.Num, want *big.Int, call string, args ...api.Num) {
	t.Helper()
	if got == number(residue(want)) {
		return
	}
	for i, a := range args {
		t.Logf("argument %d: %x", i, value(a))
	}
	t.Fatalf("%s: %x, not %x", call, value(got), residue(want))
}

// around returns n - 2 to n + 2.
func around(n *big.Int) []*big.Int {
	var l []*big.Int
	for i := int64(-2); i <= 2; i++ {
		l = append(l, new(big.Int).Add(n, big.NewInt(i)))
	}
	return l
}

// bounds returns numbers on both sides of where something about them changes: 0, p and its half, 2p, the bounds of words of 51 and of 64 bits, and full words beside empty ones.
func bounds() []*big.Int {
	half := new(big.Int).Rsh(p, 1)
	l := append(around(big.NewInt(0)), around(big.NewInt(19))...)
	for _, n := range []*big.Int{half, p, new(big.Int).Lsh(p, 1), bit(255), bit(256)} {
		l = append(l, around(n)...)
	}
	for i := uint(1); i < 5; i++ {
		l = append(l, around(bit(51*i))...)
		l = append(l, around(bit(64*i))...)
	}
	for w := uint(0); w < 5; w++ {
		full := new(big.Int).Lsh(new(big.Int).Sub(bit(51), one), 51*w)
		l = append(l, full, new(big.Int).Sub(most, full), new(big.Int).Sub(p, full))
	}
	return l
}

// edges returns the bounds that are numbers, and, as far as these are numbers too, what represents the same residues without being canonical.
func edges() []api.Num {
	seen := map[api.Num]bool{}
	var l []api.Num
	for _, n := range bounds() {
		if n.Sign() < 0 {
			n = new(big.Int).Add(n, p)
		}
		for ; n.Cmp(most) <= 0; n = new(big.Int).Add(n, p) {
			if a := number(n); !seen[a] {
				seen[a] = true
				l = append(l, a)
			}
		}
	}
	return l
}

// exponents returns the edges among the exponents.
func exponents() []api.Num {
	l := []api.Num{number(big.NewInt(0)), number(big.NewInt(3)), number(most), number(bit(255))}
	for _, n := range []*big.Int{bit(1), p, bit(64), bit(128), bit(192)} {
		for _, m := range around(n) {
			l = append(l, number(m))
		}
	}
	return l
}

// some returns n numbers, the same in each run; half of them are canonical.
func some(n int, seed int64) []api.Num {
	r := rand.New(rand.NewSource(seed))
	l := make([]api.Num, n)
	for i := range l {
		r.Read(l[i][:])
		if i%2 == 0 {
			l[i] = number(residue(value(l[i])))
		}
	}
	return l
}

// all returns the edges and n others.
func all(n int, seed int64) []api.Num { return append(edges(), some(n, seed)...) }
