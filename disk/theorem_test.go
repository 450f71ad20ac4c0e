package disk_test

import (
	"bytes"
	"math/rand"
	"slices"
	"testing"

	"headwater/api"
	"headwater/disk"
)

// step is something that is done to a disk: a write, a flush, or a crash.
type step struct {
	at    int
	b     []byte
	flush bool
	keep  []bool
}

// do does a step to a disk and to its model.
func (s step) do(t *testing.T, d *disk.Disk, m *model) {
	t.Helper()
	switch {
	case s.b != nil:
		put(t, d, s.at, s.b)
		m.write(s.at, s.b)
	case s.flush:
		fine(t, d.Flush(), "Flush")
		m.flush()
	default:
		fine(t, d.Crash(s.keep), "Crash")
		m.crash(s.keep)
	}
}

// P7.2 and P7.3: after every sequence of few steps, two sectors are as in the model.
func TestAllShortRuns(t *testing.T) {
	steps := []step{{at: 0, b: full(1)}, {at: 0, b: full(2)}, {at: 1, b: full(3)}, {at: 1, b: full(0)},
		{flush: true}, {}, {keep: []bool{true}}, {keep: []bool{false, true}}, {keep: []bool{true, true}}}
	var run func(d *disk.Disk, m *model, left int)
	run = func(d *disk.Disk, m *model, left int) {
		same(t, d, m, "a short run")
		if left == 0 || t.Failed() {
			return
		}
		for _, s := range steps {
			c, k := d.Clone(), m.clone()
			s.do(t, c, k)
			run(c, k, left-1)
		}
	}
	run(made(t, 2), blank(2), 4)
}

// anyStep returns a step of a disk of n sectors.
func anyStep(r *rand.Rand, n int) step {
	switch r.Intn(12) {
	case 0:
		return step{flush: true}
	case 1:
		keep := make([]bool, r.Intn(n+3))
		for i := range keep {
			keep[i] = r.Intn(2) == 0
		}
		return step{keep: keep}
	}
	b := make([]byte, size)
	r.Read(b)
	return step{at: r.Intn(n), b: b}
}

// P7.2 and P7.3: after every step of long runs all is as in the model.
func TestLongRuns(t *testing.T) {
	for seed := range int64(20) {
		r := rand.New(rand.NewSource(seed))
		n := 1 + r.Intn(12)
		d, m := made(t, n), blank(n)
		for range 200 {
			anyStep(r, n).do(t, d, m)
			same(t, d, m, "a long run")
		}
		if t.Failed() {
			return
		}
	}
}

// P7.3: what was written last is read, until a crash.
func TestLastIsRead(t *testing.T) {
	d := made(t, 3)
	last := [3][]byte{full(0), full(0), full(0)}
	r := rand.New(rand.NewSource(1))
	for i := range 300 {
		at := r.Intn(3)
		last[at] = some(size, int64(i))
		put(t, d, at, last[at])
		if i%7 == 0 {
			fine(t, d.Flush(), "Flush")
		}
		for at, want := range last {
			if b, e := d.Read(at); e != api.OK || !bytes.Equal(b, want) {
				t.Fatalf("step %d: sector %d is read as %x, error %d", i, at, b, e)
			}
		}
	}
}

// P7.3: after a flush a crash changes nothing, whatever it keeps.
func TestFlushThenCrash(t *testing.T) {
	for _, keep := range append(keeps(3), keeps(0)...) {
		d, m := made(t, 3), blank(3)
		for at := range 3 {
			put(t, d, at, some(size, int64(at)))
			m.write(at, some(size, int64(at)))
		}
		fine(t, d.Flush(), "Flush")
		m.flush()
		same(t, d, m, "flushed")
		fine(t, d.Crash(keep), "Crash")
		same(t, d, m, "flushed and crashed")
	}
}

// P7.3: after a crash each sector is what was written there last, or what it was at the last flush; which one is for keep alone to say.
func TestCrashTakesOneOfTwo(t *testing.T) {
	for _, keep := range keeps(4) {
		d := made(t, 4)
		for at := range 4 {
			put(t, d, at, full(byte(10+at)))
		}
		fine(t, d.Flush(), "Flush")
		for _, v := range []byte{20, 30} {
			for at := range 4 {
				put(t, d, at, full(v+byte(at)))
			}
		}
		fine(t, d.Crash(keep), "Crash")
		for at, k := range keep {
			want := byte(10 + at)
			if k {
				want = byte(30 + at)
			}
			b, e := d.Read(at)
			if e != api.OK || !bytes.Equal(b, full(want)) || !bytes.Equal(part(d.Image(), at), full(want)) {
				t.Errorf("keep %v: sector %d is %x, error %d, want %d", keep, at, b, e, want)
			}
		}
	}
}

// P7.3: a crash loses what it does not keep for good: neither a flush nor another crash brings it back.
func TestLostForGood(t *testing.T) {
	d := made(t, 2)
	put(t, d, 0, full(1))
	put(t, d, 1, full(2))
	fine(t, d.Crash(nil), "Crash")
	same(t, d, blank(2), "crashed")
	fine(t, d.Crash([]bool{true, true}), "Crash")
	same(t, d, blank(2), "crashed again")
	fine(t, d.Flush(), "Flush")
	same(t, d, blank(2), "flushed")
}

// Rule 3: what is passed is not changed, its spare capacity neither read nor written, and nothing of it is kept.
func TestArguments(t *testing.T) {
	image := some(2*size+size, 7)
	whole := slices.Clone(image)
	d, e := disk.Of(image[:2*size])
	fine(t, e, "Of")
	m := imaged(image[:2*size])
	if !bytes.Equal(image, whole) {
		t.Error("Of changes the image, or what is behind it")
	}
	clear(image)
	same(t, d, m, "after a change of the image")
	b := some(2*size, 8)
	whole = slices.Clone(b)
	put(t, d, 1, b[:size])
	m.write(1, b[:size])
	if !bytes.Equal(b, whole) {
		t.Error("Write changes the bytes, or what is behind them")
	}
	clear(b)
	same(t, d, m, "after a change of what was written")
	keep := []bool{true, true, false}
	fine(t, d.Crash(keep[:0]), "Crash")
	m.crash(nil)
	same(t, d, m, "keep has more behind its end")
	put(t, d, 0, full(1))
	fine(t, d.Crash(keep[:2]), "Crash")
	if !slices.Equal(keep, []bool{true, true, false}) {
		t.Error("Crash changes keep")
	}
}

// Rule 3: results are new memory, with their spare capacity: to change one changes neither the disk nor another one.
func TestResults(t *testing.T) {
	d, m := made(t, 3), blank(3)
	for at := range 2 {
		put(t, d, at, full(byte(at+1)))
		m.write(at, full(byte(at+1)))
	}
	fine(t, d.Crash([]bool{true, false}), "Crash")
	m.crash([]bool{true, false})
	put(t, d, 2, full(3))
	put(t, d, 1, full(4))
	m.write(2, full(3))
	m.write(1, full(4))
	for at := range 3 {
		for range 2 {
			b, e := d.Read(at)
			fine(t, e, "Read")
			spoil(b)
			same(t, d, m, "after a change of what was read")
		}
	}
	for range 2 {
		spoil(d.Image())
		l := d.Cached()
		l = l[:cap(l)]
		for i := range l {
			l[i] = -1
		}
		same(t, d, m, "after a change of an image and of what is cached")
	}
}

// spoil changes all bytes of a slice, and of its spare capacity.
func spoil(b []byte) {
	b = b[:cap(b)]
	for i := range b {
		b[i] ^= 0xff
	}
}

// T6: the same calls return the same, in whatever order the cache is gone through.
func TestAgain(t *testing.T) {
	run := func() ([]byte, []int) {
		d := made(t, 40)
		r := rand.New(rand.NewSource(9))
		for range 500 {
			anyStep(r, 40).do(t, d, blank(40))
		}
		return d.Image(), d.Cached()
	}
	image, cached := run()
	for range 20 {
		if i, c := run(); !bytes.Equal(i, image) || !slices.Equal(c, cached) {
			t.Fatal("the same calls return something else")
		}
	}
}

// Rule 7: an error changes nothing.
func TestErrorsChangeNothing(t *testing.T) {
	d, m := made(t, 2), blank(2)
	put(t, d, 0, full(1))
	m.write(0, full(1))
	for range 3 {
		d.Write(2, full(5))
		d.Write(-1, full(5))
		d.Write(1, full(5)[:size-1])
		d.Write(0, append(full(5), 5))
		d.Read(2)
		d.Read(-1)
		same(t, d, m, "after errors")
	}
}
