package octet_test

import (
	"bytes"
	"testing"

	"headwater/api"
	"headwater/octet"
)

// P1.2: a reader advances from byte to byte, and tells how many are left.
func TestReaderAdvances(t *testing.T) {
	d := bytes.Repeat([]byte{0xd0}, 31)
	r := octet.Read(append([]byte("\x81\x2c\x02pq\x00\x34\x12\x05xyz\xd1"), d...))
	left := func(want int) {
		t.Helper()
		if r.Left() != want || r.Err() != api.OK {
			t.Errorf("Left %d, Err %d; want %d, OK", r.Left(), r.Err(), want)
		}
		end := api.ErrBad
		if want == 0 {
			end = api.OK
		}
		if r.End() != end {
			t.Errorf("End with %d left: %d", want, r.End())
		}
	}
	left(44)
	if n := r.Number(); n != 300 {
		t.Errorf("Number: %d", n)
	}
	left(42)
	if b := r.Block(); string(b) != "pq" {
		t.Errorf("Block: %q", b)
	}
	left(39)
	if b := r.Block(); len(b) != 0 {
		t.Errorf("empty Block: %q", b)
	}
	left(38)
	if n := r.Word(2); n != 0x1234 {
		t.Errorf("Word: %x", n)
	}
	left(36)
	if n := r.Number(); n != 5 {
		t.Errorf("Number: %d", n)
	}
	left(35)
	for _, n := range []int{0, -1, -1 << 63} {
		if b := r.Take(n); len(b) != 0 {
			t.Errorf("Take %d: %q", n, b)
		}
		left(35)
	}
	if b := r.Take(3); string(b) != "xyz" {
		t.Errorf("Take: %q", b)
	}
	left(32)
	if got := r.Digest(); got != api.Digest(append([]byte{0xd1}, d...)) {
		t.Errorf("Digest: %x", got)
	}
	left(0)
	if b := r.Take(0); len(b) != 0 {
		t.Errorf("Take 0 at the end: %q", b)
	}
	left(0)
}

// P1.2: a number that breaks off is ErrMore, wherever it does; the position stays.
func TestNumberBreaksOff(t *testing.T) {
	for size := 1; size <= 9; size++ {
		for _, n := range []uint64{smallest(size), greatest(size)} {
			whole := octet.Number(nil, n)
			for i := range whole {
				r := octet.Read(whole[:i])
				if got := r.Number(); got != 0 {
					t.Errorf("Number of %x: %d", whole[:i], got)
				}
				stuck(t, r, api.ErrMore, i)
			}
		}
	}
	r := octet.Read([]byte{0xc0})
	if r.Number() != 0 {
		t.Error("Number of c0")
	}
	stuck(t, r, api.ErrMore, 1)
}

// P1.2: a number for which fewer bytes would have had room is ErrBad, of each size; the position stays.
func TestNumberLongerThanItNeedsToBe(t *testing.T) {
	for size := 2; size <= 9; size++ {
		for _, n := range []uint64{0, 1, greatest(size-1) / 2, greatest(size - 1)} {
			b := append(encoded(n, size), "more"...)
			r := octet.Read(b)
			if got := r.Number(); got != 0 {
				t.Errorf("Number of %x: %d", b, got)
			}
			stuck(t, r, api.ErrBad, len(b))
		}
		b := encoded(smallest(size), size)
		r := octet.Read(b)
		if got := r.Number(); got != smallest(size) || r.End() != api.OK {
			t.Errorf("Number of %x: %d, End %d", b, got, r.End())
		}
	}
}

// P1.2: a number is ErrMore rather than ErrBad if both its size is too great and it breaks off.
func TestNumberMoreAheadOfBad(t *testing.T) {
	r := octet.Read([]byte{0xc0, 0x00})
	if r.Number() != 0 {
		t.Error("Number of c0 00")
	}
	stuck(t, r, api.ErrMore, 2)
}

// P1.2: a block with an error leaves the position where it begins.
func TestBlockErrors(t *testing.T) {
	for _, x := range []struct {
		name, b string
		want    api.Errno
	}{
		{"nothing", "", api.ErrMore},
		{"one byte short", "\x02a", api.ErrMore},
		{"no bytes", "\x01", api.ErrMore},
		{"a long one", "\x80\x80" + string(make([]byte, 127)), api.ErrMore},
		{"its number breaks off", "\x80", api.ErrMore},
		{"2^31", "\xf0\x80\x00\x00\x00abc", api.ErrMore},
		{"2^32", "\xf1\x00\x00\x00\x00abc", api.ErrMore},
		{"2^32 + 3", "\xf1\x00\x00\x00\x03abc", api.ErrMore},
		{"2^63 - 1", "\xff\x7f\xff\xff\xff\xff\xff\xff\xffabc", api.ErrMore},
		{"2^63", "\xff\x80\x00\x00\x00\x00\x00\x00\x00abc", api.ErrMore},
		{"2^64 - 1", "\xff\xff\xff\xff\xff\xff\xff\xff\xffabc", api.ErrMore},
		{"its number is longer than it needs to be", "\x80\x03abc", api.ErrBad},
		{"its number is longer than it needs to be, and bytes are missing", "\x80\x7f", api.ErrBad},
	} {
		t.Run(x.name, func(t *testing.T) {
			for _, ahead := range []string{"", "ahead"} {
				r := octet.Read([]byte(ahead + x.b))
				r.Take(len(ahead))
				if got := r.Block(); len(got) != 0 {
					t.Errorf("Block: %q", got)
				}
				stuck(t, r, x.want, len(x.b))
			}
		})
	}
}

// P1.2: words of each size, sizes below 1 and above 8, and too few bytes.
func TestWordSizes(t *testing.T) {
	b := []byte{0xf1, 0xe2, 0xd3, 0xc4, 0xb5, 0xa6, 0x97, 0x88, 0x79}
	for _, x := range []struct {
		size, bytes int
		want        uint64
	}{
		{-1 << 63, 1, 0xf1}, {-1, 1, 0xf1}, {0, 1, 0xf1}, {1, 1, 0xf1},
		{2, 2, 0xe2f1}, {3, 3, 0xd3e2f1}, {4, 4, 0xc4d3e2f1}, {5, 5, 0xb5c4d3e2f1},
		{6, 6, 0xa6b5c4d3e2f1}, {7, 7, 0x97a6b5c4d3e2f1}, {8, 8, 0x8897a6b5c4d3e2f1},
		{9, 8, 0x8897a6b5c4d3e2f1}, {1<<63 - 1, 8, 0x8897a6b5c4d3e2f1},
	} {
		r := octet.Read(b)
		if got := r.Word(x.size); got != x.want || r.Left() != len(b)-x.bytes || r.Err() != api.OK {
			t.Errorf("Word of %d bytes: %x, Left %d, Err %d", x.size, got, r.Left(), r.Err())
		}
		s := octet.Read(b[:x.bytes-1])
		if got := s.Word(x.size); got != 0 {
			t.Errorf("Word of %d bytes, one missing: %x", x.size, got)
		}
		stuck(t, s, api.ErrMore, x.bytes-1)
	}
}

// P1.2: Take and Digest of all that is left, and of one byte more than that.
func TestTooFewBytes(t *testing.T) {
	r := octet.Read([]byte("abc"))
	if got := r.Take(3); string(got) != "abc" || r.End() != api.OK {
		t.Errorf("Take of all: %q, End %d", got, r.End())
	}
	for _, n := range []int{4, 5, 1 << 32, 1<<32 + 3, 1<<63 - 1} {
		r := octet.Read([]byte("abc"))
		if got := r.Take(n); len(got) != 0 {
			t.Errorf("Take %d of 3 bytes: %q", n, got)
		}
		stuck(t, r, api.ErrMore, 3)
	}
	b := bytes.Repeat([]byte{7}, 33)
	for n := range b {
		r := octet.Read(b[:n])
		got := r.Digest()
		if n == 32 {
			if got != api.Digest(b[:32]) || r.End() != api.OK {
				t.Errorf("Digest of 32 bytes: %x, End %d", got, r.End())
			}
			continue
		}
		if got != (api.Digest{}) {
			t.Errorf("Digest of %d bytes: %x", n, got)
		}
		stuck(t, r, api.ErrMore, n)
	}
	s := octet.Read(b)
	if s.Digest() != api.Digest(b[:32]) || s.Left() != 1 || s.End() != api.ErrBad {
		t.Errorf("Digest of 33 bytes: Left %d, End %d", s.Left(), s.End())
	}
}

// P1.2: after each kind of first error, the first one stays, though another one would follow.
func TestFirstErrorStays(t *testing.T) {
	for _, x := range []struct {
		name, b string
		call    func(r *octet.Reader)
		want    api.Errno
	}{
		{"Number bad", "\x80\x7f", func(r *octet.Reader) { r.Number() }, api.ErrBad},
		{"Number more", "\x80", func(r *octet.Reader) { r.Number() }, api.ErrMore},
		{"Block bad", "\x80\x00", func(r *octet.Reader) { r.Block() }, api.ErrBad},
		{"Block more", "\x05abc", func(r *octet.Reader) { r.Block() }, api.ErrMore},
		{"Word", "abc", func(r *octet.Reader) { r.Word(4) }, api.ErrMore},
		{"Take", "abc", func(r *octet.Reader) { r.Take(4) }, api.ErrMore},
		{"Digest", "abc", func(r *octet.Reader) { r.Digest() }, api.ErrMore},
	} {
		t.Run(x.name, func(t *testing.T) {
			r := octet.Read([]byte("\x01" + x.b))
			if r.Number() != 1 {
				t.Error("the number ahead")
			}
			x.call(r)
			stuck(t, r, x.want, len(x.b))
		})
	}
}

// P1.2: what is left at the end is no error of the reader, which reads on.
func TestEndIsNoErrorOfTheReader(t *testing.T) {
	r := octet.Read([]byte{5, 6})
	if r.End() != api.ErrBad || r.Err() != api.OK || r.Left() != 2 {
		t.Errorf("at first: End %d, Err %d, Left %d", r.End(), r.Err(), r.Left())
	}
	if r.Number() != 5 || r.End() != api.ErrBad || r.Err() != api.OK {
		t.Error("in the middle")
	}
	if r.Number() != 6 || r.End() != api.OK || r.Err() != api.OK || r.Left() != 0 {
		t.Error("at the end")
	}
	for _, b := range [][]byte{nil, {}} {
		if r := octet.Read(b); r == nil || r.End() != api.OK || r.Err() != api.OK || r.Left() != 0 {
			t.Error("a reader of nothing")
		}
	}
}

// P1.2: a reader that nobody made.
func TestNoReader(t *testing.T) {
	for _, r := range []*octet.Reader{nil, new(octet.Reader), {}} {
		stuck(t, r, api.ErrNil, 0)
	}
}

// P1.2 and rule 3: a reader keeps a copy, and what it returns is new memory.
func TestReadsAreNewMemory(t *testing.T) {
	b := []byte("\x02abcdefgh")
	r := octet.Read(b[:7])
	for i := range b {
		b[i] = 'x'
	}
	s := octet.Read(octet.Block(nil, []byte("ab")))
	one := r.Block()
	two := r.Take(2)
	for _, l := range [][]byte{one, two, s.Block()} {
		l = l[:cap(l)]
		for i := range l {
			l[i] = 'y'
		}
	}
	if string(two) != "yy" || string(r.Take(2)) != "ef" || r.End() != api.OK {
		t.Error("what was returned shares memory with the reader")
	}
	if string(one) != "yy" || string(b) != "xxxxxxxxx" {
		t.Error("what was read shares memory with what was given")
	}
}

// T6: two readers of the same bytes do not touch each other.
func TestReadersAreApart(t *testing.T) {
	b := []byte{1, 2, 3}
	r, s := octet.Read(b), octet.Read(b)
	r.Take(4)
	if s.Number() != 1 || r.Err() != api.ErrMore || s.Err() != api.OK || r.Left() != 3 || s.Left() != 2 {
		t.Error("a reader is changed by another one")
	}
}
