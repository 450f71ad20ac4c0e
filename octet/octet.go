// Package octet encodes numbers, blocks of bytes and words, and reads them back.
package octet

import (
	"math/bits"
	"slices"

	"headwater/api"
)

// longest is how many bytes the greatest numbers have, widest how many bytes the greatest words have.
const (
	longest = 9
	widest  = 8
)

// Number returns b followed by the bytes of n: the fewest that have room for it.
func Number(b []byte, n uint64) []byte {
	return putNumber(withRoom(b, numberSize(n)), n)
}

// Block returns b followed by the number of bytes of p, and by these bytes.
func Block(b, p []byte) []byte {
	n := uint64(len(p))
	return append(putNumber(withRoom(b, numberSize(n)+len(p)), n), p...)
}

// Word returns b followed by the low bytes of n, the lowest first: size of them, but at least 1 and at most 8.
func Word(b []byte, n uint64, size int) []byte {
	size = wordSize(size)
	b = withRoom(b, size)
	for i := range size {
		b = append(b, byte(n>>(8*i)))
	}
	return b
}

// withRoom returns a copy of b, as what is appended must never get into the spare capacity of an argument.
func withRoom(b []byte, more int) []byte {
	return append(make([]byte, 0, len(b)+more), b...)
}

func putNumber(b []byte, n uint64) []byte {
	size := numberSize(n)
	b = append(b, mark(size)|highest(n, size))
	for i := size - 2; i >= 0; i-- {
		b = append(b, byte(n>>(8*i)))
	}
	return b
}

// numberSize returns how many bytes n has. Each has room for 7 bits; nine have room for 64, not for 63, as the mark of nine has no zero bit.
func numberSize(n uint64) int {
	return min(max(bits.Len64(n)+6, 7)/7, longest)
}

// mark returns the bits with which the first byte of a number of that many bytes begins: size - 1 one bits.
func mark(size int) byte {
	return ^byte(0) << (longest - size)
}

// highest returns the bits of n that are in its first byte: none of nine bytes, as a shift by 64 leaves nothing.
func highest(n uint64, size int) byte {
	return byte(n >> (8 * (size - 1)))
}

func wordSize(size int) int {
	return min(max(size, 1), widest)
}

// Reader reads bytes from the first one on, till the first error. Only Read makes one.
type Reader struct {
	made  bool
	bytes []byte
	at    int
	err   api.Errno
}

// Read returns a reader of b, of which it keeps a copy.
func Read(b []byte) *Reader {
	return &Reader{made: true, bytes: slices.Clone(b)}
}

// take moves over n bytes and returns them, still as memory of the reader; if there are fewer, that is its error.
func (r *Reader) take(n uint64) ([]byte, bool) {
	if r.Err() != api.OK {
		return nil, false
	}
	if n > uint64(r.Left()) {
		r.err = api.ErrMore
		return nil, false
	}
	b := r.bytes[r.at:][:n]
	r.at += int(n)
	return b, true
}

// ahead returns how many bytes the number has that comes next: one if nothing is left, so that taking it is an error.
func (r *Reader) ahead() uint64 {
	if r.Left() == 0 {
		return 1
	}
	return uint64(bits.LeadingZeros8(^r.bytes[r.at]) + 1)
}

// Number reads a number: ErrMore if it breaks off, ErrBad if it is longer than it needs to be.
func (r *Reader) Number() uint64 {
	b, ok := r.take(r.ahead())
	if !ok {
		return 0
	}
	n := uint64(b[0] &^ mark(len(b)))
	for _, c := range b[1:] {
		n = n<<8 | uint64(c)
	}
	if numberSize(n) < len(b) {
		r.at -= len(b)
		r.err = api.ErrBad
		return 0
	}
	return n
}

// Block reads a block: the error of its number, or ErrMore if there are fewer bytes than that says.
func (r *Reader) Block() []byte {
	if r.Err() != api.OK {
		return nil
	}
	start := r.at
	b, ok := r.take(r.Number())
	if !ok {
		r.at = start
		return nil
	}
	return slices.Clone(b)
}

// Word reads a word of size bytes, but at least 1 and at most 8: ErrMore if there are fewer.
func (r *Reader) Word(size int) uint64 {
	var n uint64
	b, _ := r.take(uint64(wordSize(size)))
	for i, c := range b {
		n |= uint64(c) << (8 * i)
	}
	return n
}

// Take reads n bytes (none if n is negative): ErrMore if there are fewer.
func (r *Reader) Take(n int) []byte {
	b, _ := r.take(uint64(max(n, 0)))
	return slices.Clone(b)
}

// Digest reads a digest: ErrMore if there are too few bytes.
func (r *Reader) Digest() api.Digest {
	b, ok := r.take(uint64(len(api.Digest{})))
	if !ok {
		return api.Digest{}
	}
	return api.Digest(b)
}

// End returns the error of Err, or ErrBad if something is left; that is not kept, as it is no error of the reader.
func (r *Reader) End() api.Errno {
	if e := r.Err(); e != api.OK {
		return e
	}
	if r.Left() > 0 {
		return api.ErrBad
	}
	return api.OK
}

// Err returns the first error; ErrNil if there is no reader.
func (r *Reader) Err() api.Errno {
	if r == nil || !r.made {
		return api.ErrNil
	}
	return r.err
}

// Left returns how many bytes are left.
func (r *Reader) Left() int {
	if r == nil {
		return 0
	}
	return len(r.bytes) - r.at
}
