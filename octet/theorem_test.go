package octet_test

import (
	"bytes"
	"testing"

	"headwater/api"
	"headwater/octet"
)

// P1.3: numbers are read back, and the bytes of the smaller one come first.
func TestNumbersAreReadBackInOrder(t *testing.T) {
	var last []byte
	for i, n := range someNumbers() {
		b := octet.Number(nil, n)
		r := octet.Read(b)
		if got := r.Number(); got != n || r.End() != api.OK {
			t.Errorf("%x is read as %d, not as %d; End %d", b, got, n, r.End())
		}
		if i > 0 && bytes.Compare(last, b) >= 0 {
			t.Errorf("%x of a smaller number does not come ahead of %x", last, b)
		}
		last = b
	}
}

// P1.3: all numbers of one or two bytes, and the first of three, are in order.
func TestSmallNumbersAreInOrder(t *testing.T) {
	last := octet.Number(nil, 0)
	for n := uint64(1); n < 1<<15; n++ {
		b := octet.Number(nil, n)
		if bytes.Compare(last, b) >= 0 {
			t.Fatalf("the bytes of %d do not come behind those of the number ahead", n)
		}
		last = b
	}
}

// P1.3: of all bytes up to three no other ones than those of a number are read as it.
func TestNoOtherBytesAreNumbers(t *testing.T) {
	for size := 1; size <= 3; size++ {
		for i := range 1 << (8 * size) {
			b := []byte{byte(i >> 16), byte(i >> 8), byte(i)}[3-size:]
			r := octet.Read(b)
			n := r.Number()
			if r.Err() == api.OK && !bytes.Equal(octet.Number(nil, n), b[:size-r.Left()]) {
				t.Fatalf("%x is read as %d", b, n)
			}
		}
	}
}

// P1.3: of the bytes of each size no others than those of the number are read as it.
func TestNoOtherSizeIsRead(t *testing.T) {
	for _, n := range someNumbers() {
		own := octet.Number(nil, n)
		for size := len(own) + 1; size <= 9; size++ {
			r := octet.Read(encoded(n, size))
			if got := r.Number(); got != 0 || r.Err() != api.ErrBad {
				t.Errorf("%d of %d bytes: %d, Err %d", n, size, got, r.Err())
			}
		}
	}
}

// P1.3: words are read back, the low bytes of them.
func TestWordsAreReadBack(t *testing.T) {
	for _, n := range someNumbers() {
		for size := 1; size <= 8; size++ {
			want := n << (64 - 8*size) >> (64 - 8*size)
			r := octet.Read(octet.Word(nil, n, size))
			if got := r.Word(size); got != want || r.End() != api.OK {
				t.Errorf("word of %d bytes of %x: %x, End %d", size, n, got, r.End())
			}
		}
	}
}

// P1.3: blocks are read back; of all bytes up to three no other ones are read as a block.
func TestBlocksAreReadBack(t *testing.T) {
	for _, n := range []int{0, 1, 127, 128, 1000, 1<<14 - 1, 1 << 14, 1 << 21} {
		p := bytes.Repeat([]byte{0x80, 0xff, 1}, n/3+1)[:n]
		r := octet.Read(octet.Block(nil, p))
		if got := r.Block(); !bytes.Equal(got, p) || r.End() != api.OK {
			t.Errorf("a block of %d bytes: %d bytes, End %d", n, len(got), r.End())
		}
	}
	for i := range 1 << 24 {
		b := []byte{byte(i >> 16), byte(i >> 8), byte(i)}
		r := octet.Read(b)
		p := r.Block()
		if r.Err() == api.OK && !bytes.Equal(octet.Block(nil, p), b[:3-r.Left()]) {
			t.Fatalf("%x is read as the block %x", b, p)
		}
	}
}

// P1.3: what was written one behind the other is read back one behind the other.
func TestMixedAreReadBack(t *testing.T) {
	d := api.Digest(bytes.Repeat([]byte{9, 8}, 16))
	var b []byte
	for _, n := range someNumbers() {
		b = octet.Number(b, n)
		b = octet.Word(b, n, 8)
		b = octet.Block(b, octet.Number(nil, n))
		b = append(b, d[:]...)
	}
	r := octet.Read(b)
	for _, n := range someNumbers() {
		if r.Number() != n || r.Word(8) != n || !bytes.Equal(r.Block(), octet.Number(nil, n)) || r.Digest() != d {
			t.Fatalf("what was written with %d is not read back", n)
		}
	}
	if r.End() != api.OK {
		t.Errorf("End: %d", r.End())
	}
}
