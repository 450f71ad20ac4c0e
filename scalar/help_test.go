package scalar_test

import (
	"math/big"
	"math/rand"
	"slices"
	"testing"

	"headwater/api"
)

var (
	one   = big.NewInt(1)
	order = written("7237005577332262213973186563042994240857116359379907606001950938285454250989")
	most  = new(big.Int).Sub(bit(256), one)
)

// written returns the number whose decimals are s.
func written(s string) *big.Int {
	n, ok := new(big.Int).SetString(s, 10)
	if !ok {
		panic(s)
	}
	return n
}

// bit returns 2 to the power of i.
func bit(i uint) *big.Int { return new(big.Int).Lsh(one, i) }

// octets returns the bytes of n, the lowest first, and zeros behind them to make size.
func octets(n *big.Int, size int) []byte {
	b := n.FillBytes(make([]byte, size))
	slices.Reverse(b)
	return b
}

// total returns the number whose bytes, the lowest first, are b.
func total(b []byte) *big.Int {
	b = slices.Clone(b)
	slices.Reverse(b)
	return new(big.Int).SetBytes(b)
}

// number returns n in 32 bytes.
func number(n *big.Int) api.Num { return api.Num(octets(n, len(api.Num{}))) }

// value returns the number whose bytes a is.
func value(a api.Num) *big.Int { return total(a[:]) }

// residue returns n modulo L, not below 0.
func residue(n *big.Int) *big.Int { return new(big.Int).Mod(n, order) }

// times returns i times L.
func times(i int64) *big.Int { return new(big.Int).Mul(order, big.NewInt(i)) }

// same tells of a result that is not the bytes of want modulo L.
func same(t *testing.T, got api.Num, want *big.Int, call string, args ...api.Num) {
	t.Helper()
	if got == number(residue(want)) {
		return
	}
	for i, a := range args {
		t.Logf("argument %d: %x", i, value(a))
	}
	t.Fatalf("%s: %x, not %x", call, value(got), residue(want))
}

// bounds returns numbers at which something changes: the multiples of L and their halves, powers of two at and beside the bounds of words, and full words beside empty ones.
func bounds() []*big.Int {
	l := []*big.Int{big.NewInt(0), bit(251), bit(252), bit(253), bit(255), bit(256)}
	for i := range int64(16) {
		l = append(l, times(i), new(big.Int).Rsh(times(i), 1))
	}
	for i := uint(1); i < 4; i++ {
		l = append(l, bit(32*i), bit(64*i))
	}
	for i := range uint(4) {
		full := new(big.Int).Lsh(new(big.Int).Sub(bit(64), one), 64*i)
		l = append(l, full, new(big.Int).Sub(most, full), new(big.Int).Xor(order, full))
	}
	return l
}

// edges returns the bounds and what is beside them, as far as these are numbers, each once.
func edges() []api.Num {
	seen := map[api.Num]bool{}
	var l []api.Num
	for _, n := range bounds() {
		for i := int64(-2); i <= 2; i++ {
			m := new(big.Int).Add(n, big.NewInt(i))
			if m.Sign() < 0 || m.Cmp(most) > 0 || seen[number(m)] {
				continue
			}
			seen[number(m)] = true
			l = append(l, number(m))
		}
	}
	return l
}

// some returns n numbers, the same in each run; half of them are canonical.
func some(n int, seed int64) []api.Num {
	r := rand.New(rand.NewSource(seed))
	l := make([]api.Num, n)
	for i := range l {
		r.Read(l[i][:])
		if i%2 == 0 {
			l[i] = number(residue(value(l[i])))
		}
	}
	return l
}

// all returns the edges and n others.
func all(n int, seed int64) []api.Num { return append(edges(), some(n, seed)...) }
