package sign_test

import (
	"bytes"
	"math/big"
	"slices"
	"sync"
	"testing"

	"headwater/api"
	"headwater/sign"
)

// P6.2: what is signed is valid for the key, which is Valid.
func TestSignedIsGood(t *testing.T) {
	for i, seed := range seeds(60) {
		b := some(3*i, int64(i))
		if k := sign.Key(seed); !sign.Valid(k) || !sign.Good(k, b, sign.Sign(seed, b)) {
			t.Errorf("seed %x, %d bytes", seed, len(b))
		}
	}
}

// P6.2: a signature is valid for other bytes only if k is the same modulo the order of the key's point: for a key of order 1, 2, 4 or 8 that often happens, for others it does not.
func TestOtherBytesByChance(t *testing.T) {
	small := smalls()
	above := base.bytes()
	for i, a := range small {
		k := a.bytes()
		size := int64(8)
		for i%2 == 0 && size > 1 {
			i, size = i/2, size/2
		}
		part := func(b []byte) int64 {
			return new(big.Int).Mod(hash(above[:], k[:], b), big.NewInt(size)).Int64()
		}
		chances := map[bool]int{}
		for j := range int64(40) {
			b := some(6, j)
			same := part(b) == 0
			chances[same]++
			if sign.Good(k, b, joined(above, one)) != same {
				t.Errorf("key of order %d, bytes %x: Good is %v", size, b, !same)
			}
		}
		if chances[true] == 0 || size > 1 && chances[false] == 0 {
			t.Errorf("key of order %d: %v", size, chances)
		}
	}
}

// P6.2: signatures are determined by seed and bytes alone: not by what was called before, nor by where the bytes lie or what is behind them.
func TestSeedAndBytesAlone(t *testing.T) {
	for i, seed := range seeds(3) {
		b := some(30+i, 15)
		want := sign.Sign(seed, b)
		sign.Sign([32]byte(some(32, 16)), b)
		sign.Good(sign.Key(seed), b, api.Sig{})
		wide := append(slices.Clone(b), some(200, 17)...)
		for _, c := range [][]byte{b, slices.Clone(b), wide[:len(b)], wide[:len(b):len(b)]} {
			if s := sign.Sign(seed, c); s != want {
				t.Errorf("seed %x: %x, then %x", seed, want, s)
			}
			if !sign.Good(sign.Key(seed), c, want) {
				t.Errorf("seed %x: not Good", seed)
			}
		}
	}
}

// Rule 3: what is signed is not changed, nor is what lies behind it.
func TestBytesStay(t *testing.T) {
	seed := [32]byte(some(32, 18))
	for _, n := range lengths() {
		wide := some(n+300, 19)
		s := sign.Sign(seed, wide[:n])
		sign.Good(sign.Key(seed), wide[:n], s)
		if !bytes.Equal(wide, some(n+300, 19)) {
			t.Errorf("%d bytes are changed", n)
		}
	}
}

// T6: every call returns for all arguments, and the same again, also when several are made at one time.
func TestAgain(t *testing.T) {
	full := [32]byte(bytes.Repeat([]byte{255}, 32))
	l := append(wrong(), full, [32]byte{}, zero.bytes(), base.bytes())
	type answer struct {
		key    api.Key
		secret api.Num
		sig    api.Sig
		good   [3]bool
		valid  bool
	}
	ask := func(i int) (a answer) {
		x, y := l[i], l[(i+1)%len(l)]
		b := some(i, int64(i))
		a.key, a.secret, a.sig, a.valid = sign.Key(x), sign.Secret(x), sign.Sign(x, b), sign.Valid(x)
		a.good = [3]bool{
			sign.Good(a.key, b, a.sig),
			sign.Good(x, b, api.Sig(slices.Concat(y[:], x[:]))),
			sign.Good(x, b, api.Sig(slices.Concat(x[:], full[:]))),
		}
		return a
	}
	first, second := make([]answer, len(l)), make([]answer, len(l))
	var all sync.WaitGroup
	for i := range l {
		first[i] = ask(i)
		all.Go(func() { second[i] = ask(i) })
	}
	all.Wait()
	for i := range l {
		if first[i] != second[i] {
			t.Errorf("%x: %v, then %v", l[i], first[i], second[i])
		}
		if !first[i].good[0] || first[i].good[2] {
			t.Errorf("%x: Good %v", l[i], first[i].good)
		}
	}
}
