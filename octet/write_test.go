package octet_test

import (
	"bytes"
	"encoding/binary"
	"slices"
	"testing"

	"headwater/octet"
)

// P1.1: each size of a number, its smallest and greatest number, as the chapter describes the bits.
func TestNumberOfEachSize(t *testing.T) {
	for size := 1; size <= 9; size++ {
		low, high := smallest(size), greatest(size)
		for _, n := range []uint64{low, low + 1, low + (high-low)/3, high - 1, high} {
			got := octet.Number(nil, n)
			if len(got) != size || !bytes.Equal(got, encoded(n, size)) {
				t.Errorf("Number %d: %x, want %x", n, got, encoded(n, size))
			}
		}
	}
}

// P1.1: the numbers of the examples, and the bounds, as bytes that are written out.
func TestNumberBytes(t *testing.T) {
	for _, x := range []struct {
		n    uint64
		want string
	}{
		{0, "\x00"},
		{1, "\x01"},
		{127, "\x7f"},
		{128, "\x80\x80"},
		{300, "\x81\x2c"},
		{1<<14 - 1, "\xbf\xff"},
		{1 << 14, "\xc0\x40\x00"},
		{0x123456, "\xd2\x34\x56"},
		{1<<21 - 1, "\xdf\xff\xff"},
		{1 << 21, "\xe0\x20\x00\x00"},
		{1 << 28, "\xf0\x10\x00\x00\x00"},
		{1 << 35, "\xf8\x08\x00\x00\x00\x00"},
		{1 << 42, "\xfc\x04\x00\x00\x00\x00\x00"},
		{1 << 49, "\xfe\x02\x00\x00\x00\x00\x00\x00"},
		{1<<56 - 1, "\xfe\xff\xff\xff\xff\xff\xff\xff"},
		{1 << 56, "\xff\x01\x00\x00\x00\x00\x00\x00\x00"},
		{0x0123456789abcdef, "\xff\x01\x23\x45\x67\x89\xab\xcd\xef"},
		{1<<63 - 1, "\xff\x7f\xff\xff\xff\xff\xff\xff\xff"},
		{1<<64 - 1, "\xff\xff\xff\xff\xff\xff\xff\xff\xff"},
	} {
		if got := string(octet.Number([]byte("ab"), x.n)); got != "ab"+x.want {
			t.Errorf("Number %d behind ab: %x", x.n, got)
		}
	}
}

// P1.1: a block is the number of its bytes, and the bytes, behind those that are given.
func TestBlockBytes(t *testing.T) {
	for _, n := range []int{0, 1, 2, 126, 127, 128, 129, 300, 1<<14 - 1, 1 << 14, 1 << 21} {
		p := bytes.Repeat([]byte{'p', 0, 'q'}, n/3+1)[:n]
		for _, b := range []string{"", "b", "\x00\x80"} {
			want := b + string(octet.Number(nil, uint64(n))) + string(p)
			if got := string(octet.Block([]byte(b), p)); got != want {
				t.Errorf("Block of %d bytes behind %q: %d bytes, want %d", n, b, len(got), len(want))
			}
		}
	}
	if got := octet.Block(nil, nil); string(got) != "\x00" {
		t.Errorf("Block of nothing: %x", got)
	}
	if got := octet.Block(nil, []byte("ab")); string(got) != "\x02ab" {
		t.Errorf("Block of ab: %x", got)
	}
}

// P1.1: words of each size, and sizes below 1 and above 8.
func TestWordBytes(t *testing.T) {
	for _, n := range []uint64{0, 1, 0x80, 0xff, 0x100, 0x0123456789abcdef, 1<<64 - 1} {
		all := binary.LittleEndian.AppendUint64(nil, n)
		for _, x := range []struct{ size, want int }{
			{-1 << 63, 1}, {-1, 1}, {0, 1}, {1, 1}, {2, 2}, {3, 3}, {4, 4}, {5, 5}, {6, 6}, {7, 7}, {8, 8}, {9, 8}, {64, 8}, {1<<63 - 1, 8},
		} {
			want := "b" + string(all[:x.want])
			if got := string(octet.Word([]byte("b"), n, x.size)); got != want {
				t.Errorf("Word of %x of %d bytes: %x, want %x", n, x.size, got, want)
			}
		}
	}
}

// P1.1 and rule 3: neither what is given nor its spare capacity is changed, kept or returned.
func TestWritesAreNewMemory(t *testing.T) {
	p := []byte("pq")
	for _, x := range []struct {
		name string
		call func(b []byte) []byte
	}{
		{"Number", func(b []byte) []byte { return octet.Number(b, 1<<64-1) }},
		{"short Number", func(b []byte) []byte { return octet.Number(b, 1) }},
		{"Block", func(b []byte) []byte { return octet.Block(b, p) }},
		{"empty Block", func(b []byte) []byte { return octet.Block(b, nil) }},
		{"Word", func(b []byte) []byte { return octet.Word(b, 1<<64-1, 8) }},
		{"short Word", func(b []byte) []byte { return octet.Word(b, 1, 1) }},
	} {
		memory := bytes.Repeat([]byte{'s'}, 64)
		one, two := x.call(memory[:3]), x.call(memory[:3])
		want := slices.Clone(two)
		one = one[:cap(one)]
		for i := range one {
			one[i] = 'x'
		}
		if !bytes.Equal(memory, bytes.Repeat([]byte{'s'}, 64)) || string(p) != "pq" {
			t.Errorf("%s: what was given is changed: %q, %q", x.name, memory, p)
		}
		if !bytes.Equal(two, want) {
			t.Errorf("%s: two results share memory", x.name)
		}
	}
}

// P1.1: a block may be one of the bytes that it follows.
func TestBlockOfItsOwnPrefix(t *testing.T) {
	memory := []byte("abcdef")
	if got := octet.Block(memory[:2], memory[1:4]); string(got) != "ab\x03bcd" {
		t.Errorf("Block of a part of what is given: %q", got)
	}
	if string(memory) != "abcdef" {
		t.Errorf("what was given is changed: %q", memory)
	}
}
