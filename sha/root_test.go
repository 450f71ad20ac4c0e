package sha_test

import (
	"math/big"
	"math/rand"
	"testing"

	"headwater/sha"
)

// root is one of the two, with its degree.
type root struct {
	name   string
	call   func(n uint64) uint64
	degree int
}

func roots() []root {
	return []root{{"Root", sha.Root, 2}, {"Cube", sha.Cube, 3}}
}

// someRooted returns numbers below 2^32: small ones, those near powers of two, squares and cubes, and others.
func someRooted() []uint64 {
	var l []uint64
	for n := range uint64(600) {
		l = append(l, n, 1<<32-1-n)
	}
	for i := range 32 {
		l = append(l, 1<<i-1, 1<<i, 1<<i+1)
	}
	for _, n := range []uint64{2, 3, 100, 255, 256, 999, 1000, 1290, 1624, 1625} {
		l = append(l, n*n-1, n*n, n*n+1, n*n*n-1, n*n*n, n*n*n+1)
	}
	for _, n := range []uint64{1626, 9999, 46341, 65534, 65535} {
		l = append(l, n*n-1, n*n, n*n+1)
	}
	r := rand.New(rand.NewSource(2))
	for range 600 {
		l = append(l, uint64(r.Uint32()))
	}
	return l
}

// P2.1: examples that are known.
func TestKnownRoots(t *testing.T) {
	for _, x := range []struct{ n, root, cube uint64 }{
		{0, 0, 0},
		{1, 0, 0},
		{2, 0x6a09e667f3bcc908, 0x428a2f98d728ae22},
		{3, 0xbb67ae8584caa73b, 0x7137449123ef65cd},
		{409, 0x39479381ecbce703, 0x6c44198c4a475817},
		{64, 0, 0},
		{1<<32 - 1, 0xffff7fffffffdfff, 0x7fa94d3db9e83b98},
	} {
		if got := sha.Root(x.n); got != x.root {
			t.Errorf("Root %d: %x", x.n, got)
		}
		if got := sha.Cube(x.n); got != x.cube {
			t.Errorf("Cube %d: %x", x.n, got)
		}
	}
}

// P2.1: the first 64 bits of the fractional part.
func TestRoots(t *testing.T) {
	for _, x := range roots() {
		for _, n := range someRooted() {
			if got, want := x.call(n), fraction(n, x.degree); got != want {
				t.Errorf("%s %d: %x, not %x", x.name, n, got, want)
			}
		}
	}
}

// P2.1: squares have no fractional part, nor have cubes; their neighbours have.
func TestWholeRoots(t *testing.T) {
	for _, x := range roots() {
		for n := uint64(0); ; n++ {
			p := n * n
			if x.degree == 3 {
				p *= n
			}
			if p >= 1<<32 {
				break
			}
			if got := x.call(p); got != 0 {
				t.Errorf("%s %d: %x", x.name, p, got)
			}
			if n > 1 && (x.call(p-1) == 0 || x.call(p+1) == 0) {
				t.Errorf("%s of a neighbour of %d is 0", x.name, p)
			}
		}
	}
}

// P2.1: of a greater number the low 32 bits are used.
func TestRootsOfGreatNumbers(t *testing.T) {
	r := rand.New(rand.NewSource(3))
	high := []uint64{1 << 32, 1 << 33, 1 << 63, 1<<64 - 1<<32, 5 << 40}
	for range 50 {
		high = append(high, r.Uint64()>>32<<32)
	}
	for _, x := range roots() {
		for _, n := range []uint64{0, 1, 2, 4, 7, 8, 27, 409, 65535 * 65535, 1<<32 - 2, 1<<32 - 1} {
			want := fraction(n, x.degree)
			for _, h := range high {
				if got := x.call(h + n); got != want {
					t.Errorf("%s %d: %x, not %x", x.name, h+n, got, want)
				}
			}
		}
	}
}

// P2.2: with its whole part, a root is the greatest number whose power is not above the given one.
func TestRootsAreGreatest(t *testing.T) {
	for _, x := range roots() {
		for _, n := range someRooted() {
			given := scaled(n, x.degree)
			whole := rootOf(new(big.Int).SetUint64(n), x.degree)
			r := whole.Lsh(whole, 64)
			r.Add(r, new(big.Int).SetUint64(x.call(n)))
			if raised(r, x.degree).Cmp(given) > 0 {
				t.Errorf("%s %d: its power is above", x.name, n)
			}
			if r.Add(r, big.NewInt(1)); raised(r, x.degree).Cmp(given) <= 0 {
				t.Errorf("%s %d: the power of the next one is not above", x.name, n)
			}
		}
	}
}
