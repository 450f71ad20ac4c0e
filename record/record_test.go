package record_test

import (
	"bytes"
	"crypto/sha512"
	"encoding/binary"
	"slices"
	"testing"

	"headwater/api"
	"headwater/record"
)

// P8.1: the chains and the bytes of some records, told by others.
func TestKnown(t *testing.T) {
	for _, x := range []struct {
		epoch uint64
		first string
	}{
		{0, "45ac134ffa7a54f7c40eeface107be5788b603621774295cd06e0b327a2baf95"},
		{1, "1b99a121254596b309fbb99a7040a31d2db942f5bb9e5f950b5a4f2e5d30e366"},
		{300, "9b7b0bcfdf3ddbf86f32befc1bce808735f9190e99b91c5b37235e5f4bbbb287"},
		{1<<64 - 1, "418ca6be2d23bd68ef66fd44406b05359a482536971bf7bf4a5437761115f825"},
	} {
		if got := record.First(x.epoch); got != digest(x.first) {
			t.Errorf("First(%d): %x", x.epoch, got)
		}
	}
	chain := record.First(1)
	for _, x := range []struct {
		r     api.Record
		ahead []byte
		after string
	}{
		{api.Record{Kind: 1, Data: []byte("abc")}, []byte{1, 3}, "294aaec849a2f3fad39299fadf03d46930a427345f9203910d5612c5eb4dcc2f"},
		{api.Record{Kind: 255}, []byte{255, 0}, "a6498b185e5c2471ee9d06fdf860e106216a55f3b44357203d6da2a2612a5030"},
		{api.Record{Kind: 7, Data: make([]byte, 300)}, []byte{7, 0x81, 0x2c}, "818affe898e6ed625c8cf418460537a15a9e91f2e666fd494d9d6171a87b714c"},
	} {
		b, after, e := record.Bytes(chain, x.r)
		want := digest(x.after)
		if e != api.OK || after != want || record.Next(chain, x.r) != want {
			t.Errorf("after Kind %d: %x, error %d", x.r.Kind, after, e)
		}
		if !bytes.Equal(b, slices.Concat(x.ahead, x.r.Data, want[:8])) {
			t.Errorf("bytes of Kind %d: %x", x.r.Kind, b)
		}
		chain = after
	}
}

// P8.1: the first chain of an epoch is the sum of its word of 8 bytes, the lowest first; no two are the same.
func TestFirst(t *testing.T) {
	seen := map[api.Digest]uint64{}
	epochs := []uint64{1<<64 - 1}
	for i := range 64 {
		epochs = append(epochs, 1<<i-1, 1<<i, 1<<i+1+1<<(i/2))
	}
	slices.Sort(epochs)
	for _, n := range slices.Compact(epochs) {
		got := record.First(n)
		if got != api.Digest(sha512.Sum512_256(binary.LittleEndian.AppendUint64(nil, n))) {
			t.Errorf("First(%d): %x", n, got)
		}
		if other, there := seen[got]; there {
			t.Errorf("First of %d and of %d are the same", n, other)
		}
		seen[got] = n
	}
}

// P8.1: Next returns the chain after any record, be it valid or not.
func TestNext(t *testing.T) {
	for _, c := range chains() {
		for _, r := range append(good(), bad()...) {
			if got, want := record.Next(c, r), next(c, r); got != want {
				t.Errorf("Next of Kind %d, %d bytes: %x, not %x", r.Kind, len(r.Data), got, want)
			}
		}
	}
	if got := record.Next(api.Digest{}, api.Record{}); got != digest("e28ba588f2214c4011a549ef3c9b2f8b6db0bc6157015ad860f4ba7d8f634c2e") {
		t.Errorf("Next of no Kind: %x", got)
	}
}

// P8.1: Check returns ErrArg for a Kind 0, and for too many bytes.
func TestCheck(t *testing.T) {
	for _, r := range good() {
		if e := record.Check(r); e != api.OK {
			t.Errorf("Check of Kind %d, %d bytes: %d", r.Kind, len(r.Data), e)
		}
	}
	for _, r := range bad() {
		if e := record.Check(r); e != api.ErrArg {
			t.Errorf("Check of Kind %d, %d bytes: %d", r.Kind, len(r.Data), e)
		}
	}
	for k := range 256 {
		want := api.OK
		if k == 0 {
			want = api.ErrArg
		}
		if e := record.Check(api.Record{Kind: byte(k)}); e != want {
			t.Errorf("Check of Kind %d: %d", k, e)
		}
	}
}

// P8.1: Size returns the number of bytes: one or two more for the number of data, 8 for the chain; 0 if there are none.
func TestSize(t *testing.T) {
	for _, x := range []struct{ n, want int }{{0, 10}, {1, 11}, {3, 13}, {126, 136}, {127, 137}, {128, 139}, {129, 140},
		{255, 266}, {api.MaxData - 1, api.MaxData + 10}, {api.MaxData, api.MaxData + 11}, {api.MaxData + 1, 0}, {1 << 20, 0}} {
		for _, k := range []byte{1, 200, 255} {
			if got := record.Size(api.Record{Kind: k, Data: make([]byte, x.n)}); got != x.want {
				t.Errorf("Size of Kind %d, %d bytes: %d, not %d", k, x.n, got, x.want)
			}
		}
	}
	for _, r := range good() {
		if got, want := record.Size(r), len(written(api.Digest{}, r)); got != want {
			t.Errorf("Size of Kind %d, %d bytes: %d, not %d", r.Kind, len(r.Data), got, want)
		}
	}
	for _, r := range bad() {
		if got := record.Size(r); got != 0 {
			t.Errorf("Size of Kind %d, %d bytes: %d", r.Kind, len(r.Data), got)
		}
	}
}

// P8.1: Bytes returns the bytes of a record, and the chain after it.
func TestBytes(t *testing.T) {
	for _, c := range chains() {
		for _, r := range good() {
			b, after, e := record.Bytes(c, r)
			if e != api.OK || !bytes.Equal(b, written(c, r)) || after != next(c, r) {
				t.Errorf("Bytes of Kind %d, %d bytes: %x, chain %x, error %d", r.Kind, len(r.Data), b, after, e)
			}
		}
	}
}

// P8.1: Bytes returns the error of Check, and nothing beside it.
func TestBytesOfBad(t *testing.T) {
	for _, c := range chains() {
		for _, r := range bad() {
			b, after, e := record.Bytes(c, r)
			if b != nil || after != (api.Digest{}) || e != api.ErrArg {
				t.Errorf("Bytes of Kind %d, %d bytes: %d of them, chain %x, error %d", r.Kind, len(r.Data), len(b), after, e)
			}
		}
	}
}

// P8.1: two records are equal if their Kinds and all their bytes are; none and nil are the same, valid or not.
func TestSame(t *testing.T) {
	l := []api.Record{{}, {Kind: 1}, {Kind: 2}, {Kind: 255}}
	for _, k := range []byte{0, 1, 2, 255} {
		for _, d := range []string{"\x00", "\x00\x00", "a", "b", "ab", "ba", "aa", "abc"} {
			l = append(l, api.Record{Kind: k, Data: []byte(d)})
		}
	}
	long := some(api.MaxData+1, 8)
	for _, n := range []int{0, api.MaxData / 2, api.MaxData} {
		other := slices.Clone(long)
		other[n] ^= 1
		l = append(l, api.Record{Kind: 1, Data: other})
	}
	l = append(l, api.Record{Kind: 1, Data: long}, api.Record{Kind: 1, Data: long[:api.MaxData]})
	for i, a := range l {
		for j, b := range l {
			if got := record.Same(a, api.Record{Kind: b.Kind, Data: append(make([]byte, 0, 9000), b.Data...)}); got != (i == j) {
				t.Errorf("Same of %d and %d: %t", i, j, got)
			}
		}
	}
	if !record.Same(api.Record{Kind: 3, Data: []byte{}}, api.Record{Kind: 3}) || !record.Same(api.Record{}, api.Record{Data: []byte{}}) {
		t.Error("none and nil are not the same")
	}
}

// Rule 3: what a record is given by, its spare capacity too, is left as it is, and nothing of it is in the bytes.
func TestDataIsLeft(t *testing.T) {
	for _, n := range []int{0, 1, 127, 128, api.MaxData} {
		room := some(n+64, 9)
		was := slices.Clone(room)
		r := api.Record{Kind: 9, Data: room[:n]}
		b, _, e := record.Bytes(record.First(3), r)
		want := slices.Clone(b)
		if e != api.OK || record.Check(r) != api.OK || record.Size(r) != len(b) || !record.Same(r, r) {
			t.Errorf("%d bytes: error %d, %d of them", n, e, len(b))
		}
		record.Next(record.First(3), r)
		if !bytes.Equal(room, was) {
			t.Errorf("%d bytes are changed", n)
		}
		clear(room)
		if !bytes.Equal(b, want) {
			t.Errorf("%d bytes: what is done to the data later changes the result", n)
		}
		clear(b[:cap(b)])
		again, _, _ := record.Bytes(record.First(3), api.Record{Kind: 9, Data: was[:n]})
		if !bytes.Equal(again, want) {
			t.Errorf("%d bytes: what is done to a result changes the next one", n)
		}
	}
}
