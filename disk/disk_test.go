package disk_test

import (
	"bytes"
	"slices"
	"testing"

	"headwater/api"
	"headwater/disk"
)

// P7.2: an invalid disk returns ErrNil, ahead of what is wrong with the place or the bytes; where there is no error it returns nothing.
func TestInvalid(t *testing.T) {
	for i, d := range nobodys() {
		for _, at := range append(outside(1), 0, 1) {
			if b, e := d.Read(at); b != nil || e != api.ErrNil {
				t.Errorf("%d: Read(%d): %x, error %d", i, at, b, e)
			}
			for _, n := range append(lengths(), size) {
				if e := d.Write(at, make([]byte, n)); e != api.ErrNil {
					t.Errorf("%d: Write(%d) of %d bytes: error %d", i, at, n, e)
				}
			}
		}
		if e := d.Flush(); e != api.ErrNil {
			t.Errorf("%d: Flush: error %d", i, e)
		}
		for _, k := range [][]bool{nil, {}, {true}, {false, true}} {
			if e := d.Crash(k); e != api.ErrNil {
				t.Errorf("%d: Crash: error %d", i, e)
			}
		}
		if d.Cached() != nil || d.Size() != 0 || d.Image() != nil || d.Clone() != nil {
			t.Errorf("%d: it has %v, %d, %x, %v", i, d.Cached(), d.Size(), d.Image(), d.Clone())
		}
	}
}

// P7.2: Read and Write return ErrArg if there is no such sector; nothing is changed.
func TestOutside(t *testing.T) {
	for _, n := range []int{1, 2, 5} {
		d, m := made(t, n), blank(n)
		put(t, d, n-1, full(7))
		m.write(n-1, full(7))
		for _, at := range outside(n) {
			if b, e := d.Read(at); b != nil || e != api.ErrArg {
				t.Errorf("%d sectors: Read(%d): %x, error %d", n, at, b, e)
			}
			for _, k := range append(lengths(), size) {
				if e := d.Write(at, make([]byte, k)); e != api.ErrArg {
					t.Errorf("%d sectors: Write(%d) of %d bytes: error %d", n, at, k, e)
				}
			}
			same(t, d, m, "after a place outside")
		}
	}
}

// P7.2: Write returns ErrArg if the bytes are not a whole sector; nothing is changed, and nothing is cached.
func TestOtherLengths(t *testing.T) {
	d, m := made(t, 3), blank(3)
	put(t, d, 1, full(9))
	m.write(1, full(9))
	for _, n := range lengths() {
		for at := range 3 {
			if e := d.Write(at, bytes.Repeat([]byte{5}, n)); e != api.ErrArg {
				t.Errorf("Write(%d) of %d bytes: error %d", at, n, e)
			}
		}
		same(t, d, m, "after bytes that are no sector")
	}
	if e := d.Write(0, nil); e != api.ErrArg {
		t.Errorf("Write of nil: error %d", e)
	}
}

// P7.2: what is written is read back at once, at each place of the largest disk too, but it is not on the disk itself.
func TestWriteIsCached(t *testing.T) {
	const n = api.MaxSectors
	d := made(t, n)
	for _, at := range []int{n - 1, 0, n / 2, 1} {
		b := some(size, int64(at))
		put(t, d, at, b)
		if got, e := d.Read(at); e != api.OK || !bytes.Equal(got, b) {
			t.Errorf("sector %d is read as %x, error %d, want %x", at, got, e, b)
		}
	}
	if l := d.Cached(); !slices.Equal(l, []int{0, 1, n / 2, n - 1}) {
		t.Errorf("Cached: %v", l)
	}
	if !bytes.Equal(d.Image(), make([]byte, n*size)) {
		t.Error("the image has what is only cached")
	}
	fine(t, d.Flush(), "Flush")
	if !bytes.Equal(part(d.Image(), n-1), some(size, n-1)) || len(d.Cached()) != 0 {
		t.Error("what was flushed is not on the disk, or still cached")
	}
}

// P7.2: a sector is cached by being written, be it twice, or with the bytes that it has; reading caches nothing.
func TestCached(t *testing.T) {
	d, m := made(t, 4), blank(4)
	for _, at := range []int{3, 3, 1, 3} {
		put(t, d, at, full(0))
		m.write(at, full(0))
		same(t, d, m, "zeros written")
	}
	fine(t, d.Flush(), "Flush")
	m.flush()
	same(t, d, m, "flushed")
	put(t, d, 2, full(1))
	m.write(2, full(1))
	put(t, d, 2, full(0))
	m.write(2, full(0))
	same(t, d, m, "written back")
}

// P7.2: all sectors are cached in ascending order, in whatever order they were written.
func TestCachedAscends(t *testing.T) {
	const n = 300
	for _, step := range []int{1, 7, 101, 299} {
		d, m := made(t, n), blank(n)
		for i := range n {
			at := i * step % n
			put(t, d, at, some(size, int64(i)))
			m.write(at, some(size, int64(i)))
		}
		same(t, d, m, "all written")
		if l := d.Cached(); len(l) != n || !slices.IsSorted(l) {
			t.Errorf("step %d: Cached: %v", step, l)
		}
		keep := make([]bool, n)
		for i := range keep {
			keep[i] = i%3 == 1
		}
		fine(t, d.Crash(keep), "Crash")
		m.crash(keep)
		same(t, d, m, "crashed")
	}
}

// P7.2: the examples of the chapter.
func TestExamples(t *testing.T) {
	for _, x := range []struct {
		keep []bool
		want [2]byte
	}{
		{[]bool{false, true}, [2]byte{0, 2}},
		{nil, [2]byte{0, 0}},
		{[]bool{}, [2]byte{0, 0}},
		{[]bool{true}, [2]byte{1, 0}},
		{[]bool{true, true}, [2]byte{1, 2}},
	} {
		d := made(t, 2)
		put(t, d, 0, full(1))
		put(t, d, 1, full(2))
		fine(t, d.Crash(x.keep), "Crash")
		if want := append(full(x.want[0]), full(x.want[1])...); !bytes.Equal(d.Image(), want) {
			t.Errorf("keep %v: the image is %x", x.keep, d.Image())
		}
		if len(d.Cached()) != 0 {
			t.Errorf("keep %v: %v are cached", x.keep, d.Cached())
		}
	}
}

// P7.2: keep is about the cached sectors, not about all; what it has beyond their number is ignored, and where it ends they are lost.
func TestKeepOfAnyLength(t *testing.T) {
	places := []int{4, 1, 6}
	for n := range 6 {
		for _, keep := range keeps(n) {
			d, m := made(t, 8), blank(8)
			for i, at := range places {
				put(t, d, at, full(byte(i+1)))
				m.write(at, full(byte(i+1)))
			}
			fine(t, d.Crash(keep), "Crash")
			m.crash(keep)
			same(t, d, m, "crashed")
		}
	}
	d := made(t, 2)
	put(t, d, 1, full(3))
	fine(t, d.Crash(append([]bool{true}, make([]bool, 1<<16)...)), "Crash with a long keep")
	if !bytes.Equal(d.Image(), append(full(0), full(3)...)) {
		t.Error("a long keep")
	}
}

// P7.2: with nothing cached a flush and a crash change nothing, and are no errors.
func TestNothingCached(t *testing.T) {
	image := some(2*size, 5)
	d, e := disk.Of(image)
	fine(t, e, "Of")
	for range 2 {
		fine(t, d.Flush(), "Flush")
		same(t, d, imaged(image), "flushed")
		for _, keep := range keeps(2) {
			fine(t, d.Crash(keep), "Crash")
			same(t, d, imaged(image), "crashed")
		}
	}
}

// P7.2: a clone has all of the disk, also what is cached; from then on each goes its own way.
func TestClone(t *testing.T) {
	for i := range 4 {
		image := some(3*size, 6)
		d, e := disk.Of(image)
		fine(t, e, "Of")
		m := imaged(image)
		for at := range i {
			put(t, d, at, full(byte(at)))
			m.write(at, full(byte(at)))
		}
		c, k := d.Clone(), m.clone()
		same(t, c, k, "the clone")
		same(t, d, m, "what was cloned")
		put(t, c, 0, full(10))
		k.write(0, full(10))
		put(t, d, 2, full(11))
		m.write(2, full(11))
		same(t, c, k, "the clone, written")
		same(t, d, m, "what was cloned, written")
		fine(t, c.Flush(), "Flush")
		k.flush()
		same(t, c, k, "the clone, flushed")
		same(t, d, m, "what was cloned, after a flush of the clone")
		fine(t, d.Crash([]bool{true}), "Crash")
		m.crash([]bool{true})
		same(t, c, k, "the clone, after a crash of what was cloned")
		same(t, d, m, "what was cloned, crashed")
	}
}

// P7.2: a clone of a clone is a disk too.
func TestCloneOfClone(t *testing.T) {
	d := made(t, 1)
	put(t, d, 0, full(1))
	c := d.Clone().Clone()
	m := blank(1)
	m.write(0, full(1))
	same(t, c, m, "the clone of a clone")
	fine(t, c.Crash(nil), "Crash")
	same(t, c, blank(1), "the clone of a clone, crashed")
	same(t, d, m, "the first one")
}
