package sha_test

import (
	"bytes"
	"crypto/sha512"
	"encoding/hex"
	"strings"
	"testing"

	"headwater/api"
	"headwater/sha"
)

// P2.1: sums that others have told.
func TestKnownSums(t *testing.T) {
	long := "abcdefghbcdefghicdefghijdefghijkefghijklfghijklmghijklmnhijklmnoijklmnopjklmnopqklmnopqrlmnopqrsmnopqrstnopqrstu"
	for _, x := range []struct{ text, full, short string }{
		{"",
			"cf83e1357eefb8bdf1542850d66d8007d620e4050b5715dc83f4a921d36ce9ce47d0d13c5d85f2b0ff8318d2877eec2f63b931bd47417a81a538327af927da3e",
			"c672b8d1ef56ed28ab87c3622c5114069bdd3ad7b8f9737498d0c01ecef0967a"},
		{"abc",
			"ddaf35a193617abacc417349ae20413112e6fa4e89a97ea20a9eeee64b55d39a2192992a274fc1a836ba3c23a3feebbd454d4423643ce80e2a9ac94fa54ca49f",
			"53048e2681941ef99b2e29b76b4c7dabe4c2d0c634fc6d46e0e2f13107e7af23"},
		{long,
			"8e959b75dae313da8cf4f72814fc143f8f7779c6eb9f7fa17299aeadb6889018501d289e4900f7e4331b99dec4b5433ac7d329eeb6dd26545e96e55b874be909",
			"3928e184fb8690f840da3988121d31be65cb9d3ef83ee6146feac861e19b563a"},
	} {
		full, short := sha.Sum512([]byte(x.text)), sha.Sum([]byte(x.text))
		if hex.EncodeToString(full[:]) != x.full {
			t.Errorf("Sum512 of %q: %x", x.text, full)
		}
		if hex.EncodeToString(short[:]) != x.short {
			t.Errorf("Sum of %q: %x", x.text, short)
		}
	}
}

// agree checks that both sums of the parts are those of the library of all bytes.
func agree(t *testing.T, all []byte, parts ...[]byte) {
	t.Helper()
	if got, want := sha.Sum512(parts...), sha512.Sum512(all); got != want {
		t.Errorf("Sum512 of %d bytes in %d parts: %x, not %x", len(all), len(parts), got, want)
	}
	if got, want := sha.Sum(parts...), api.Digest(sha512.Sum512_256(all)); got != want {
		t.Errorf("Sum of %d bytes in %d parts: %x, not %x", len(all), len(parts), got, want)
	}
}

// P2.1: sums of each length around the bounds of pieces: 111, 112, 127, 128 and 129 among them.
func TestSumsOfAllLengths(t *testing.T) {
	for n := range 600 {
		agree(t, someBytes(n), someBytes(n))
		agree(t, bytes.Repeat([]byte{0}, n), make([]byte, n))
		agree(t, bytes.Repeat([]byte{255}, n), bytes.Repeat([]byte{255}, n))
	}
	for _, n := range []int{1 << 13, 1<<16 - 1, 1 << 20} {
		agree(t, someBytes(n), someBytes(n))
	}
}

// P2.1: nothing, nil and empty parts are no bytes at all.
func TestSumsOfNothing(t *testing.T) {
	agree(t, nil)
	agree(t, nil, nil)
	agree(t, nil, []byte{})
	agree(t, nil, nil, []byte{}, nil)
	agree(t, nil, nil, make([]byte, 0, 200))
	if sha.Sum512([][]byte(nil)...) != sha512.Sum512(nil) || sha.Sum([][]byte{}...) != api.Digest(sha512.Sum512_256(nil)) {
		t.Error("sums of an empty list of parts")
	}
}

// P2.2: wherever bytes are split into two or three, with empty parts between, the sum is the same.
func TestSumsOfSplits(t *testing.T) {
	for _, n := range []int{1, 111, 112, 113, 127, 128, 129, 255, 256, 257, 300} {
		b := someBytes(n)
		for i := range n + 1 {
			agree(t, b, b[:i], b[i:])
			agree(t, b, nil, b[:i], nil, []byte{}, b[i:], nil)
		}
	}
	b := someBytes(400)
	for _, i := range []int{0, 1, 16, 111, 112, 127, 128, 129, 200} {
		for j := i; j <= len(b); j++ {
			agree(t, b, b[:i], b[i:j], b[j:])
		}
	}
}

// P2.2: many parts of one size.
func TestSumsOfManyParts(t *testing.T) {
	b := someBytes(1500)
	for size := 1; size <= 400; size++ {
		var parts [][]byte
		for rest := b; len(rest) > 0; {
			n := min(size, len(rest))
			parts = append(parts, rest[:n], nil)
			rest = rest[n:]
		}
		agree(t, b, parts...)
	}
}

// P2.1: the parts differ: neither their order nor any of their bytes is left out.
func TestSumsDiffer(t *testing.T) {
	b := someBytes(300)
	full, short := sha.Sum512(b), sha.Sum(b)
	for i := range b {
		c := bytes.Clone(b)
		c[i] ^= 1
		if sha.Sum512(c) == full || sha.Sum(c) == short {
			t.Errorf("byte %d counts for nothing", i)
		}
	}
	if sha.Sum512(b[150:], b[:150]) == full || sha.Sum(b[150:], b[:150]) == short {
		t.Error("the order of parts counts for nothing")
	}
	if sha.Sum512(b, []byte{0}) == full || sha.Sum(b, []byte{0}) == short {
		t.Error("a zero byte at the end counts for nothing")
	}
}

// P2.1: the number of bits of many bytes is more than a word of 32 bits.
func TestSumOfManyBits(t *testing.T) {
	part := someBytes(1 << 20)
	parts := make([][]byte, 1<<9)
	h := sha512.New()
	for i := range parts {
		parts[i] = part
		h.Write(part)
	}
	if got := sha.Sum512(parts...); !bytes.Equal(got[:], h.Sum(nil)) {
		t.Errorf("Sum512 of 2^29 bytes: %x", got)
	}
}

// Rule 3: what is passed is not changed, nor what is behind it.
func TestSumsChangeNothing(t *testing.T) {
	text := strings.Repeat("x", 400)
	b := []byte(text)
	parts := [][]byte{b[:100:300], nil, b[100:130], b[130:131:400]}
	sha.Sum512(parts...)
	sha.Sum(parts...)
	sha.Pad(b[:100:300])
	if string(b) != text {
		t.Errorf("changed: %q", b)
	}
	if len(parts) != 4 || &parts[0][0] != &b[0] || len(parts[0]) != 100 || parts[1] != nil || &parts[3][0] != &b[130] {
		t.Error("the list of parts is changed")
	}
}
