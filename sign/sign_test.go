package sign_test

import (
	"crypto/ed25519"
	"slices"
	"testing"

	"headwater/sign"
)

// P6.1: the secret number is made of the first half of the hash: its lowest three bits are 0, the highest one is 0, the next one is 1. The bits that are set and cleared were both 0 and 1 in some hash.
func TestSecret(t *testing.T) {
	for _, seed := range seeds(300) {
		want, _ := secret(seed)
		got := sign.Secret(seed)
		if got != number(want) {
			t.Fatalf("Secret of %x: %x, not %x", seed, got, number(want))
		}
		if got[0]%8 != 0 || got[31] < 64 || got[31] >= 128 {
			t.Fatalf("Secret of %x: %x", seed, got)
		}
	}
}

// P6.1: key and signature are those of the chapter.
func TestSign(t *testing.T) {
	for i, seed := range seeds(10) {
		b := some(7*i, int64(i))
		k, s := signed(seed, b)
		if got := sign.Key(seed); got != k {
			t.Fatalf("Key of %x: %x, not %x", seed, got, k)
		}
		if got := sign.Sign(seed, b); got != s {
			t.Fatalf("Sign of %x, %x: %x, not %x", seed, b, got, s)
		}
		if !good(k, b, s) || !sign.Good(k, b, s) {
			t.Fatalf("%x, %x: %v by the chapter, %v by Good", seed, b, good(k, b, s), sign.Good(k, b, s))
		}
	}
}

// P6.1: key and signature are those of Go's library, for all lengths around the pieces of SHA-512 and for long bytes.
func TestSignOfLengths(t *testing.T) {
	for i, seed := range seeds(3) {
		long := ed25519.NewKeyFromSeed(seed[:])
		k := sign.Key(seed)
		if !slices.Equal(k[:], long[32:]) {
			t.Fatalf("Key of %x: %x, not %x", seed, k, long[32:])
		}
		for _, n := range lengths() {
			b := some(n, int64(n+i))
			s := sign.Sign(seed, b)
			if !slices.Equal(s[:], ed25519.Sign(long, b)) {
				t.Fatalf("Sign of %x and %d bytes: %x", seed, n, s)
			}
			if !sign.Good(k, b, s) {
				t.Fatalf("the signature by %x of %d bytes is not Good", seed, n)
			}
		}
	}
}

// P6.1: what Go's library signs is Good, and keys that it makes are Valid.
func TestGoodOfTheLibrary(t *testing.T) {
	for i := range 30 {
		b := some(11*i, int64(i))
		long := ed25519.NewKeyFromSeed(some(32, int64(1000+i)))
		k, s := [32]byte(long[32:]), [64]byte(ed25519.Sign(long, b))
		if !sign.Good(k, b, s) || !sign.Valid(k) {
			t.Errorf("key %x: Good %v, Valid %v", k, sign.Good(k, b, s), sign.Valid(k))
		}
	}
}
