package disk_test

import (
	"bytes"
	"math"
	"testing"

	"headwater/api"
	"headwater/disk"
)

// P7.1: New makes a disk of 1 to MaxSectors sectors, zero initially, with nothing cached.
func TestNew(t *testing.T) {
	for _, n := range []int{1, 2, 3, 10, 255, 256, 257} {
		same(t, made(t, n), blank(n), "a new one")
	}
	for _, n := range []int{api.MaxSectors - 1, api.MaxSectors} {
		d := made(t, n)
		if d.Size() != n || len(d.Cached()) != 0 || !bytes.Equal(d.Image(), make([]byte, n*size)) {
			t.Errorf("New(%d): Size %d, %d are cached", n, d.Size(), len(d.Cached()))
		}
		for _, at := range []int{0, n / 2, n - 1} {
			if b, e := d.Read(at); e != api.OK || !bytes.Equal(b, full(0)) {
				t.Errorf("New(%d): sector %d is read as %x, error %d", n, at, b, e)
			}
		}
	}
}

// P7.1: New returns ErrArg for any other number.
func TestNewOutOfRange(t *testing.T) {
	for _, n := range []int{0, -1, -2, -api.MaxSectors, api.MaxSectors + 1, api.MaxSectors + 2, 2 * api.MaxSectors,
		1 << 20, 1 << 32, 1<<32 + 1, 1 << 56, 1<<56 + 1, math.MaxInt, math.MinInt, math.MinInt + 1} {
		if d, e := disk.New(n); d != nil || e != api.ErrArg {
			t.Errorf("New(%d): %v, error %d", n, d, e)
		}
	}
}

// P7.1: Of makes a disk that has the sectors of the image, with nothing cached.
func TestOf(t *testing.T) {
	for _, n := range []int{1, 2, 3, 7, 64} {
		image := some(n*size, int64(n))
		d, e := disk.Of(image)
		fine(t, e, "Of")
		same(t, d, imaged(image), "of an image")
	}
	for _, n := range []int{api.MaxSectors - 1, api.MaxSectors} {
		image := some(n*size, 3)
		d, e := disk.Of(image)
		if e != api.OK || d.Size() != n || len(d.Cached()) != 0 || !bytes.Equal(d.Image(), image) {
			t.Fatalf("Of %d sectors: error %d, Size %d", n, e, d.Size())
		}
		for _, at := range []int{0, 1, n / 2, n - 1} {
			if b, e := d.Read(at); e != api.OK || !bytes.Equal(b, part(image, at)) {
				t.Errorf("Of %d sectors: sector %d is read as %x, error %d", n, at, b, e)
			}
		}
	}
}

// P7.1: Of returns ErrArg for no sectors, too many, and parts of one.
func TestOfOtherLengths(t *testing.T) {
	most := api.MaxSectors * size
	for _, n := range []int{0, 1, 2, size - 1, size + 1, 2*size - 1, 2*size + 1, 2*size + size/2,
		most - 1, most + 1, most + size - 1, most + size, most + size + 1, 2 * most} {
		if d, e := disk.Of(make([]byte, n)); d != nil || e != api.ErrArg {
			t.Errorf("Of %d bytes: %v, error %d", n, d, e)
		}
	}
	if d, e := disk.Of(nil); d != nil || e != api.ErrArg {
		t.Errorf("Of nil: %v, error %d", d, e)
	}
}

// P7.1: a disk of an image is written, flushed and crashes like any other one.
func TestOfGoesOn(t *testing.T) {
	image := some(3*size, 4)
	d, e := disk.Of(image)
	fine(t, e, "Of")
	m := imaged(image)
	for _, at := range []int{2, 0} {
		put(t, d, at, full(byte(at)))
		m.write(at, full(byte(at)))
		same(t, d, m, "written")
	}
	fine(t, d.Crash([]bool{true}), "Crash")
	m.crash([]bool{true})
	same(t, d, m, "crashed")
	again, e := disk.Of(d.Image())
	fine(t, e, "Of")
	same(t, again, m, "of its image")
}
