package sha_test

import (
	"bytes"
	"encoding/binary"
	"testing"

	"headwater/sha"
)

// padded puts the padding together byte by byte, as the chapter describes it.
func padded(b []byte) []byte {
	out := append(bytes.Clone(b), 128)
	for len(out)%128 != 112 {
		out = append(out, 0)
	}
	out = append(out, 0, 0, 0, 0, 0, 0, 0, 0)
	return binary.BigEndian.AppendUint64(out, 8*uint64(len(b)))
}

// P2.1: Pad, on both sides of each bound of a piece.
func TestPad(t *testing.T) {
	for n := range 700 {
		b := someBytes(n)
		if got, want := sha.Pad(b), padded(b); !bytes.Equal(got, want) {
			t.Errorf("Pad of %d bytes: %x, not %x", n, got, want)
		}
	}
	for _, n := range []int{1 << 13, 1<<16 - 17, 1<<21 + 5} {
		if b := someBytes(n); !bytes.Equal(sha.Pad(b), padded(b)) {
			t.Errorf("Pad of %d bytes", n)
		}
	}
}

// P2.1: how many bytes there are when all is padded: 111 bytes are the most that one piece has room for.
func TestPadLengths(t *testing.T) {
	for _, x := range []struct{ n, want int }{{0, 128}, {1, 128}, {111, 128}, {112, 256}, {127, 256}, {128, 256}, {129, 256}, {239, 256}, {240, 384}} {
		if got := len(sha.Pad(make([]byte, x.n))); got != x.want {
			t.Errorf("Pad of %d bytes has %d, not %d", x.n, got, x.want)
		}
	}
}

// P2.1: nil is no bytes at all.
func TestPadOfNothing(t *testing.T) {
	want := append([]byte{128}, make([]byte, 127)...)
	for _, b := range [][]byte{nil, {}, make([]byte, 0, 300)} {
		if got := sha.Pad(b); !bytes.Equal(got, want) {
			t.Errorf("Pad of nothing: %x", got)
		}
	}
}

// Rule 3: what is returned is new memory, though the argument has room.
func TestPadIsNew(t *testing.T) {
	for _, n := range []int{0, 3, 112, 128} {
		b := make([]byte, n, 600)
		p := sha.Pad(b)
		for i := range p[:cap(p)] {
			p[:cap(p)][i] = 7
		}
		if !bytes.Equal(b[:cap(b)], make([]byte, 600)) {
			t.Errorf("Pad of %d bytes shares memory with its argument", n)
		}
		if q := sha.Pad(b); !bytes.Equal(q, padded(b)) {
			t.Errorf("Pad of %d bytes a second time: %x", n, q)
		}
	}
}
