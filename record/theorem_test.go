package record_test

import (
	"bytes"
	"crypto/sha512"
	"math/rand"
	"slices"
	"testing"

	"headwater/api"
	"headwater/record"
)

// sum returns the sum of a chain and of bytes, be they those of a record or not.
func sum(chain api.Digest, b []byte) api.Digest {
	return sha512.Sum512_256(slices.Concat(chain[:], b))
}

// lists returns all lists of at most n of some records.
func lists(of []api.Record, n int) [][]api.Record {
	out := [][]api.Record{nil}
	for begin := 0; n > 0; n-- {
		end := len(out)
		for _, l := range out[begin:end] {
			for _, r := range of {
				out = append(out, append(slices.Clone(l), r))
			}
		}
		begin = end
	}
	return out
}

// put returns the bytes of records as the package makes them, and the chain after them.
func put(t *testing.T, chain api.Digest, l []api.Record) ([]byte, api.Digest) {
	t.Helper()
	var b []byte
	for _, r := range l {
		p, after, e := record.Bytes(chain, r)
		if e != api.OK {
			t.Fatalf("Bytes: error %d", e)
		}
		b, chain = append(b, p...), after
	}
	return b, chain
}

// apart returns few short records, of which one looks like a part of another.
func apart() []api.Record {
	return []api.Record{{Kind: 1}, {Kind: 1, Data: []byte{1, 0}}, {Kind: 2}}
}

// P8.3: all of the bytes of records, one after the other, are these records.
func TestAllIsWhatWasWritten(t *testing.T) {
	for epoch := range uint64(2) {
		c := record.First(epoch)
		for _, l := range lists(apart(), 4) {
			b, last := put(t, c, l)
			got, n, after := record.All(c, b)
			same(t, got, l, "short ones")
			if n != len(b) || after != last {
				t.Errorf("%d of %d bytes, chain %x, not %x", n, len(b), after, last)
			}
		}
	}
	r := rand.New(rand.NewSource(13))
	for range 60 {
		c := record.First(r.Uint64())
		var l []api.Record
		for range r.Intn(12) {
			l = append(l, api.Record{Kind: byte(1 + r.Intn(255)), Data: some(r.Intn(r.Intn(api.MaxData)+2), r.Int63())})
		}
		b, last := put(t, c, l)
		got, n, after := record.All(c, b)
		same(t, got, l, "any ones")
		if n != len(b) || after != last {
			t.Errorf("%d of %d bytes, chain %x, not %x", n, len(b), after, last)
		}
	}
}

// P8.3: a record is read only behind exactly those that it was written behind: not where one of them is another, or missing, or there twice, or of another epoch.
func TestRecordIsBoundToThoseBefore(t *testing.T) {
	all := lists(apart(), 3)
	for e := range uint64(2) {
		for _, l := range all {
			c := record.First(e)
			ahead, chain := put(t, c, l)
			for _, m := range all {
				other, after := put(t, record.First(0), m)
				for _, r := range apart() {
					tail, _, _ := record.Bytes(after, r)
					want := e == 0 && slices.EqualFunc(l, m, record.Same)
					got := read(chain, tail)
					if (got.e == api.OK) != want {
						t.Errorf("a record behind %v, put behind %v of epoch %d: error %d", m, l, e, got.e)
					}
					if want {
						same(t, []api.Record{got.r}, []api.Record{r}, "where it was written")
						continue
					}
					if _, size, _ := record.All(c, slices.Concat(ahead, tail)); size != len(ahead) {
						t.Errorf("a record behind %v, put behind %v of epoch %d: All has %d bytes, not %d", m, l, e, size, len(ahead))
					}
				}
				if _, size, _ := record.All(c, other); e == 1 && size != 0 {
					t.Errorf("%v of epoch 0 are read in epoch 1", m)
				}
			}
		}
	}
}

// P8.3: of two logs, the one written over the other, no more is read than the one that is whole: not what is left of the older one behind it.
func TestWhatIsLeftBehindIsNotRead(t *testing.T) {
	for _, older := range lists(apart(), 4) {
		old, _ := put(t, record.First(1), older)
		for _, l := range lists(apart(), 2) {
			c := record.First(2)
			b, last := put(t, c, l)
			over := slices.Clone(old)
			over = append(b, over[min(len(b), len(over)):]...)
			got, n, after := record.All(c, over)
			same(t, got, l, "over an older log")
			if n != len(b) || after != last {
				t.Errorf("%d of %d bytes over an older log", n, len(b))
			}
		}
	}
}

// P8.3: no two records have the same bytes, and none is the beginning of another one, whatever the chain.
func TestNoTwoAreTheSame(t *testing.T) {
	var l [][]byte
	for _, c := range []api.Digest{record.First(0), record.First(1)} {
		for _, r := range good() {
			if b, _, _ := record.Bytes(c, r); r.Data == nil || len(r.Data) > 0 {
				l = append(l, b)
			}
		}
	}
	for i, a := range l {
		for j, b := range l {
			if i != j && bytes.HasPrefix(a, b) {
				t.Errorf("record %d begins with record %d", i, j)
			}
		}
	}
}
