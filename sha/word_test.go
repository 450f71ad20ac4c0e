package sha_test

import (
	"encoding/binary"
	"testing"

	"headwater/sha"
)

// P2.1: K are the cube words of the first 80 primes, of the program's roots as of others.
func TestK(t *testing.T) {
	k := sha.K()
	for i, p := range primes(len(k)) {
		if want := fraction(p, 3); k[i] != want || sha.Cube(p) != want {
			t.Errorf("K of %d: %x, Cube %x; want %x", i, k[i], sha.Cube(p), want)
		}
	}
}

// P2.1: the start of SHA-512 are the root words of the first 8 primes.
func TestStart(t *testing.T) {
	s := sha.Start()
	for i, p := range primes(len(s)) {
		if want := fraction(p, 2); s[i] != want || sha.Root(p) != want {
			t.Errorf("Start of %d: %x, Root %x; want %x", i, s[i], sha.Root(p), want)
		}
	}
}

// P2.1: the start of SHA-512/256 is the sum of its name, from a start that is xored.
func TestStartShort(t *testing.T) {
	state := sha.Start()
	for i := range state {
		state[i] ^= 0xa5a5a5a5a5a5a5a5
	}
	var piece [128]byte
	copy(piece[:], "SHA-512/256\x80")
	piece[127] = 88
	if want := wordsAfter(t, state, piece); sha.StartShort() != want {
		t.Errorf("StartShort: %x, not %x", sha.StartShort(), want)
	}
	if want := sha.Piece(state, [128]byte(sha.Pad([]byte("SHA-512/256")))); sha.StartShort() != want {
		t.Errorf("StartShort: %x, by Piece %x", sha.StartShort(), want)
	}
}

// P2.1: a piece, from any words.
func TestPiece(t *testing.T) {
	var zero, ones [8]uint64
	for i := range ones {
		ones[i] = 1<<64 - 1
	}
	var none, full [128]byte
	for i := range full {
		full[i] = 255
	}
	states := [][8]uint64{zero, ones, sha.Start(), sha.StartShort()}
	pieces := [][128]byte{none, full}
	for i := range 40 {
		var s [8]uint64
		if _, err := binary.Decode(someBytes(64+i), binary.BigEndian, &s); err != nil {
			t.Fatal(err)
		}
		states = append(states, s)
		pieces = append(pieces, [128]byte(someBytes(128+i)))
	}
	for i := range 8 {
		var s [8]uint64
		s[i] = 1 << 63
		states = append(states, s)
	}
	for i := range 128 {
		var p [128]byte
		p[i] = 1
		pieces = append(pieces, p)
	}
	for _, s := range states {
		for _, p := range pieces {
			if got, want := sha.Piece(s, p), wordsAfter(t, s, p); got != want {
				t.Fatalf("Piece of %x, %x: %x, not %x", s, p, got, want)
			}
		}
	}
}

// P2.1: the sums are the words after all pieces of what is padded, the highest byte first.
func TestSumsAreMadeOfPieces(t *testing.T) {
	for _, n := range []int{0, 1, 111, 112, 127, 128, 129, 239, 240, 256, 1000} {
		b := someBytes(n)
		for _, short := range []bool{false, true} {
			state := sha.Start()
			if short {
				state = sha.StartShort()
			}
			for p := sha.Pad(b); len(p) > 0; p = p[128:] {
				state = sha.Piece(state, [128]byte(p))
			}
			var want []byte
			for _, w := range state {
				want = binary.BigEndian.AppendUint64(want, w)
			}
			full, digest := sha.Sum512(b), sha.Sum(b)
			if got := string(full[:]); !short && got != string(want) {
				t.Errorf("Sum512 of %d bytes: %x, by pieces %x", n, got, want)
			}
			if got := string(digest[:]); short && got != string(want[:32]) {
				t.Errorf("Sum of %d bytes: %x, by pieces %x", n, got, want[:32])
			}
		}
	}
}

// Rule 3: words that were returned may be changed without changing those of the next call.
func TestWordsAreCopies(t *testing.T) {
	k, s, h := sha.K(), sha.Start(), sha.StartShort()
	again, state := k, s
	clear(k[:])
	clear(s[:])
	clear(h[:])
	if sha.K() != again || sha.Start() != state || sha.StartShort() == h {
		t.Error("words are shared")
	}
}
