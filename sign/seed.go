package sign

import (
	"headwater/api"
	"headwater/sha"
)

// follows is what follows from a seed: its secret number, and the bytes that make r differ for all that is signed.
type follows struct {
	secret api.Num
	tail   [32]byte
}

// follow returns what follows from the seed.
func follow(seed [32]byte) (f follows) {
	h := sha.Sum512(seed[:])
	f.secret, f.tail = api.Num(h[:32]), [32]byte(h[32:])
	// A multiple of 8 leaves nothing of the Small part of any point; a highest bit that is always the same tells nothing by its place.
	f.secret[0] &^= 7
	f.secret[31] = f.secret[31]&^128 | 64
	return f
}

// key returns the key that belongs to the secret number.
func (f follows) key() api.Key { return api.Key(times(f.secret)) }
