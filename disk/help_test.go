package disk_test

import (
	"bytes"
	"math"
	"math/rand"
	"slices"
	"testing"

	"headwater/api"
	"headwater/disk"
)

const size = api.SectorSize

// model is a disk by other means: what is on it, what is read from it, and which sectors were written since the last flush or crash.
type model struct {
	on, now []byte
	written []bool
}

// blank returns a model of n sectors of zeros.
func blank(n int) *model { return imaged(make([]byte, n*size)) }

// imaged returns a model that has the sectors of an image.
func imaged(image []byte) *model {
	return &model{slices.Clone(image), slices.Clone(image), make([]bool, len(image)/size)}
}

// part returns the sector of an image at a place.
func part(image []byte, at int) []byte { return image[at*size : (at+1)*size] }

func (m *model) write(at int, b []byte) {
	copy(part(m.now, at), b)
	m.written[at] = true
}

func (m *model) flush() {
	m.on = slices.Clone(m.now)
	m.written = make([]bool, len(m.written))
}

func (m *model) crash(keep []bool) {
	rank := 0
	for at, w := range m.written {
		if !w {
			continue
		}
		if rank < len(keep) && keep[rank] {
			copy(part(m.on, at), part(m.now, at))
		}
		rank++
	}
	m.now = slices.Clone(m.on)
	m.written = make([]bool, len(m.written))
}

func (m *model) cached() []int {
	var l []int
	for at, w := range m.written {
		if w {
			l = append(l, at)
		}
	}
	return l
}

func (m *model) clone() *model {
	return &model{slices.Clone(m.on), slices.Clone(m.now), slices.Clone(m.written)}
}

// same tells where a disk is not as its model.
func same(t *testing.T, d *disk.Disk, m *model, when string) {
	t.Helper()
	if n := d.Size(); n != len(m.written) {
		t.Errorf("%s: Size %d, want %d", when, n, len(m.written))
	}
	if l := d.Cached(); !slices.Equal(l, m.cached()) {
		t.Errorf("%s: Cached %v, want %v", when, l, m.cached())
	}
	if !bytes.Equal(d.Image(), m.on) {
		t.Errorf("%s: the image is not what is on the disk", when)
	}
	for at := range m.written {
		if b, e := d.Read(at); e != api.OK || !bytes.Equal(b, part(m.now, at)) {
			t.Errorf("%s: sector %d is read as %x, error %d, want %x", when, at, b, e, part(m.now, at))
		}
	}
}

// made returns a disk of n sectors.
func made(t *testing.T, n int) *disk.Disk {
	t.Helper()
	d, e := disk.New(n)
	if d == nil || e != api.OK {
		t.Fatalf("New(%d): %v, error %d", n, d, e)
	}
	return d
}

// put writes a sector, which there has to be.
func put(t *testing.T, d *disk.Disk, at int, b []byte) {
	t.Helper()
	if e := d.Write(at, b); e != api.OK {
		t.Fatalf("Write(%d): error %d", at, e)
	}
}

// fine tells of an error where there ought to be none.
func fine(t *testing.T, e api.Errno, what string) {
	t.Helper()
	if e != api.OK {
		t.Errorf("%s: error %d", what, e)
	}
}

// full returns a sector of which all bytes are v.
func full(v byte) []byte { return bytes.Repeat([]byte{v}, size) }

// some returns n bytes, the same for the same seed.
func some(n int, seed int64) []byte {
	b := make([]byte, n)
	rand.New(rand.NewSource(seed)).Read(b)
	return b
}

// keeps returns every list of n bools.
func keeps(n int) [][]bool {
	if n == 0 {
		return [][]bool{nil}
	}
	var l [][]bool
	for _, k := range keeps(n - 1) {
		l = append(l, append(slices.Clone(k), false), append(slices.Clone(k), true))
	}
	return l
}

// outside returns places that a disk of n sectors does not have.
func outside(n int) []int {
	return []int{-1, -2, n, n + 1, -n, -n - 1, 2 * n, n * size, api.MaxSectors, api.MaxSectors + 1,
		math.MaxInt, math.MinInt, math.MinInt + 1, 1 << 32, -1 << 32, 1 << 56, 1<<56 + 1}
}

// lengths returns lengths that no sector has.
func lengths() []int {
	return []int{0, 1, 2, size / 2, size - 2, size - 1, size + 1, size + 2, 2 * size, 3 * size, 1 << 16}
}

// nobodys returns disks that were not made by the functions that make them.
func nobodys() []*disk.Disk { return []*disk.Disk{nil, {}, new(disk.Disk)} }
