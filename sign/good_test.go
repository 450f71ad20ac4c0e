package sign_test

import (
	"math/big"
	"slices"
	"testing"

	"headwater/api"
	"headwater/sign"
)

// refused tells of a signature that is Good though it ought not to be.
func refused(t *testing.T, k api.Key, b []byte, s api.Sig, what string) {
	t.Helper()
	if sign.Good(k, b, s) {
		t.Errorf("%s: key %x, bytes %x, signature %x is Good", what, k, b, s)
	}
}

// strict tells of a signature that is Good though it ought not to be, or that is wrong for another reason than how it is written.
func strict(t *testing.T, k api.Key, b []byte, s api.Sig, what string) {
	t.Helper()
	refused(t, k, b, s, what)
	if good(k, b, s) || !loose(k, b, s) {
		t.Errorf("%s: key %x, bytes %x, signature %x is no example of it", what, k, b, s)
	}
}

// P6.1: a signature of which any bit is changed is not valid, nor is one for a key or of bytes of which any is changed.
func TestAnyBitChanged(t *testing.T) {
	seed, b := [32]byte(some(32, 1)), some(20, 2)
	k, s := sign.Key(seed), sign.Sign(seed, b)
	for i := range 8 * len(s) {
		c := s
		c[i/8] ^= 1 << (i % 8)
		refused(t, k, b, c, "a bit of the signature")
	}
	for i := range 8 * len(k) {
		c := k
		c[i/8] ^= 1 << (i % 8)
		refused(t, c, b, s, "a bit of the key")
	}
	for i := range 8 * len(b) {
		c := slices.Clone(b)
		c[i/8] ^= 1 << (i % 8)
		refused(t, k, c, s, "a bit of the bytes")
	}
	if !sign.Good(k, b, s) {
		t.Error("what is not changed is not Good")
	}
}

// P6.1: a signature is not valid of fewer bytes, of more, or of ones of which one is changed.
func TestOtherBytes(t *testing.T) {
	seed := [32]byte(some(32, 3))
	k := sign.Key(seed)
	for _, n := range lengths() {
		b := some(n, 4)
		s := sign.Sign(seed, b)
		refused(t, k, append(slices.Clone(b), 0), s, "one byte more")
		refused(t, k, append([]byte{0}, b...), s, "one byte more ahead")
		if n == 0 {
			continue
		}
		refused(t, k, append(slices.Clone(b), b...), s, "the bytes twice")
		refused(t, k, b[:n-1], s, "one byte less")
		refused(t, k, b[1:], s, "one byte less ahead")
		refused(t, k, nil, s, "no bytes")
		for _, i := range []int{0, n / 2, n - 1} {
			c := slices.Clone(b)
			c[i]++
			refused(t, k, c, s, "a byte changed")
		}
	}
}

// P6.1: a signature is valid for its key alone; parts of two signatures are none.
func TestOtherKeys(t *testing.T) {
	b := some(40, 5)
	l := seeds(3)
	for i, x := range l {
		s := sign.Sign(x, b)
		for j, y := range l {
			if sign.Good(sign.Key(y), b, s) != (i == j) {
				t.Errorf("the signature by %x for the key of %x: %v", x, y, i != j)
			}
			o := sign.Sign(y, b)
			mixed := api.Sig(slices.Concat(s[:32], o[32:]))
			if sign.Good(sign.Key(x), b, mixed) != (i == j) {
				t.Errorf("R by %x and S by %x: %v", x, y, i != j)
			}
		}
	}
	k, s := sign.Key(l[0]), sign.Sign(l[0], b)
	refused(t, k, b, api.Sig(slices.Concat(s[32:], s[:32])), "S, then R")
	refused(t, k, b, api.Sig{}, "nothing")
	refused(t, api.Key{}, b, s, "no key")
	refused(t, api.Key(s[:32]), b, s, "R as the key")
	refused(t, api.Key(number(value(slices.Concat(k[1:], k[:1])))), b, s, "the key turned by a byte")
}

// P6.1 and P6.2: S plus L, and plus any multiple of it, is rejected, though the base point times it is the same.
func TestSPlusL(t *testing.T) {
	for i, seed := range seeds(4) {
		b := some(i, 6)
		k, s := sign.Key(seed), sign.Sign(seed, b)
		n := value(s[32:])
		for m := int64(1); ; m++ {
			more := plus(n, new(big.Int).Mul(order, big.NewInt(m)))
			if more.BitLen() > 256 {
				break
			}
			if c := joined([32]byte(s[:32]), more); m == 1 || i == 0 {
				strict(t, k, b, c, "S plus L")
			} else {
				refused(t, k, b, c, "S plus more times L")
			}
		}
	}
}

// P6.1: the greatest S that is canonical is L - 1; L itself is no 0. For the key Zero every S is valid whose R is the base point times S.
func TestGreatestS(t *testing.T) {
	k, b := api.Key(zero.bytes()), some(9, 7)
	for _, i := range []int64{-2, -1, 0, 1, 2} {
		n := plus(order, big.NewInt(i))
		s := joined(base.multiple(n).bytes(), n)
		if i < 0 {
			if !good(k, b, s) || !sign.Good(k, b, s) {
				t.Errorf("S is L plus %d: not Good", i)
			}
			continue
		}
		strict(t, k, b, s, "S from L on")
	}
	for _, i := range []int64{0, 1, 2} {
		n := big.NewInt(i)
		if s := joined(base.multiple(n).bytes(), n); !good(k, b, s) || !sign.Good(k, b, s) {
			t.Errorf("S is %d: not Good", i)
		}
	}
	for _, i := range []uint{252, 253, 254, 255} {
		n := plus(bit(i), nought)
		s := joined(base.multiple(n).bytes(), n)
		if sign.Good(k, b, s) != (i == 252) || good(k, b, s) != (i == 252) {
			t.Errorf("S is 2^%d: %v", i, sign.Good(k, b, s))
		}
	}
}
