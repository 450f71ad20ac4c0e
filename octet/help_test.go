package octet_test

import (
	"fmt"
	"strconv"
	"strings"
	"testing"

	"headwater/api"
	"headwater/octet"
)

// encoded writes the bits of a number as the chapter describes them, as text, and only then as bytes: another way than the package's.
func encoded(n uint64, size int) []byte {
	room := 7 * size
	start := strings.Repeat("1", size-1) + "0"
	if size == 9 {
		room, start = 64, "11111111"
	}
	text := start + fmt.Sprintf("%0*b", room, n)
	var out []byte
	for ; text != ""; text = text[8:] {
		v, err := strconv.ParseUint(text[:8], 2, 8)
		if err != nil {
			panic(err)
		}
		out = append(out, byte(v))
	}
	return out
}

// smallest and greatest return the bounds of the numbers that have size bytes.
func smallest(size int) uint64 {
	if size == 1 {
		return 0
	}
	return 1 << (7 * (size - 1))
}

func greatest(size int) uint64 {
	if size == 9 {
		return 1<<64 - 1
	}
	return 1<<(7*size) - 1
}

// someNumbers returns, increasing, the bounds of each size and numbers near powers of two.
func someNumbers() []uint64 {
	l := []uint64{0}
	for i := range 64 {
		for _, n := range []uint64{1<<i - 1, 1 << i, 1<<i + 1, 1<<i + 1<<(i/2)} {
			if n > l[len(l)-1] {
				l = append(l, n)
			}
		}
	}
	return append(l, 1<<64-2, 1<<64-1)
}

// read is a call of each kind that reads.
type read struct {
	name string
	call func(r *octet.Reader) any
	zero any
}

func reads() []read {
	return []read{
		{"Number", func(r *octet.Reader) any { return r.Number() }, uint64(0)},
		{"Block", func(r *octet.Reader) any { return string(r.Block()) }, ""},
		{"Word(0)", func(r *octet.Reader) any { return r.Word(0) }, uint64(0)},
		{"Word(8)", func(r *octet.Reader) any { return r.Word(8) }, uint64(0)},
		{"Take(-1)", func(r *octet.Reader) any { return string(r.Take(-1)) }, ""},
		{"Take(0)", func(r *octet.Reader) any { return string(r.Take(0)) }, ""},
		{"Take(1)", func(r *octet.Reader) any { return string(r.Take(1)) }, ""},
		{"Digest", func(r *octet.Reader) any { return r.Digest() }, api.Digest{}},
	}
}

// stuck checks that a reader has an error, and that nothing that is done changes it, or its position, or is read.
func stuck(t *testing.T, r *octet.Reader, e api.Errno, left int) {
	t.Helper()
	state := func(when string) {
		t.Helper()
		if r.Err() != e || r.End() != e || r.Left() != left {
			t.Errorf("%s: Err %d, End %d, Left %d; want %d, %d, %d", when, r.Err(), r.End(), r.Left(), e, e, left)
		}
	}
	state("at first")
	for _, x := range reads() {
		if got := x.call(r); got != x.zero {
			t.Errorf("%s after error %d: %v", x.name, e, got)
		}
		state(x.name)
	}
}
