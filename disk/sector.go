package disk

import (
	"slices"

	"headwater/api"
)

// sector is an array, so that it is copied whole wherever it is assigned.
type sector [api.SectorSize]byte

// made gives a disk its sectors, and a cache without which it would not be valid.
func made(sectors []sector) *Disk {
	return &Disk{sectors: sectors, cache: map[int]sector{}}
}

// valid tells disks that were made from those that nobody made.
func (d *Disk) valid() bool { return d != nil && d.cache != nil }

// wrong tells what is wrong with a disk, or with a place on it.
func (d *Disk) wrong(at int) api.Errno {
	if !d.valid() {
		return api.ErrNil
	}
	if at < 0 || at >= len(d.sectors) {
		return api.ErrArg
	}
	return api.OK
}

// settle writes the cached sectors whose ranks are kept to the disk, and empties the cache.
func (d *Disk) settle(kept func(rank int) bool) {
	for i, at := range d.Cached() {
		if kept(i) {
			d.sectors[at] = d.cache[at]
		}
	}
	clear(d.cache)
}

// split cuts an image into its n sectors.
func split(image []byte, n int) []sector {
	sectors := make([]sector, 0, n)
	for part := range slices.Chunk(image, api.SectorSize) {
		sectors = append(sectors, sector(part))
	}
	return sectors
}

// joined puts the bytes of sectors behind each other.
func joined(sectors []sector) []byte {
	image := make([]byte, 0, len(sectors)*api.SectorSize)
	for _, s := range sectors {
		image = append(image, s[:]...)
	}
	return image
}
