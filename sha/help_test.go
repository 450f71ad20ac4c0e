package sha_test

import (
	"crypto/sha512"
	"encoding"
	"encoding/binary"
	"math/big"
	"math/rand"
	"testing"
)

// someBytes returns n bytes, the same in each run, none of which tells its place by a short period.
func someBytes(n int) []byte {
	b := make([]byte, n)
	rand.New(rand.NewSource(int64(n) + 1)).Read(b)
	return b
}

// primes returns the first n primes.
func primes(n int) []uint64 {
	var l []uint64
	for c := int64(2); len(l) < n; c++ {
		if big.NewInt(c).ProbablyPrime(0) {
			l = append(l, uint64(c))
		}
	}
	return l
}

// raised returns x to the power of degree.
func raised(x *big.Int, degree int) *big.Int {
	return new(big.Int).Exp(x, big.NewInt(int64(degree)), nil)
}

// scaled returns n times 2^64 to the power of degree.
func scaled(n uint64, degree int) *big.Int {
	x := new(big.Int).SetUint64(n)
	return x.Lsh(x, uint(64*degree))
}

// rootOf returns the greatest number whose power is not above n, found by halving what is left to search.
func rootOf(n *big.Int, degree int) *big.Int {
	low, high := big.NewInt(0), new(big.Int).Add(n, big.NewInt(1))
	for one := big.NewInt(1); new(big.Int).Sub(high, low).Cmp(one) > 0; {
		mid := new(big.Int).Add(low, high)
		mid.Rsh(mid, 1)
		if raised(mid, degree).Cmp(n) <= 0 {
			low = mid
		} else {
			high = mid
		}
	}
	return low
}

// fraction returns the first 64 bits of the fractional part of the root of n.
func fraction(n uint64, degree int) uint64 {
	r := rootOf(scaled(n, degree), degree)
	return r.And(r, new(big.Int).SetUint64(1<<64-1)).Uint64()
}

// wordsAfter has the library's SHA-512 go over a piece from a given state.
func wordsAfter(t *testing.T, state [8]uint64, piece [128]byte) [8]uint64 {
	t.Helper()
	h := sha512.New()
	b, err := h.(encoding.BinaryMarshaler).MarshalBinary()
	if err != nil {
		t.Fatal(err)
	}
	const begin = 4 // the words stand behind four bytes that tell the kind
	for i, x := range state {
		binary.BigEndian.PutUint64(b[begin+8*i:], x)
	}
	if err := h.(encoding.BinaryUnmarshaler).UnmarshalBinary(b); err != nil {
		t.Fatal(err)
	}
	h.Write(piece[:])
	if b, err = h.(encoding.BinaryMarshaler).MarshalBinary(); err != nil {
		t.Fatal(err)
	}
	var out [8]uint64
	for i := range out {
		out[i] = binary.BigEndian.Uint64(b[begin+8*i:])
	}
	return out
}
