package record_test

import (
	"crypto/sha512"
	"encoding/binary"
	"encoding/hex"
	"math/rand"
	"slices"
	"testing"

	"headwater/api"
	"headwater/record"
)

// digest returns the digest that s tells in hexadecimal.
func digest(s string) api.Digest {
	b, err := hex.DecodeString(s)
	if err != nil {
		panic(err)
	}
	return api.Digest(b)
}

// sized returns n as a number of size bytes, be they the fewest or not.
func sized(n uint64, size int) []byte {
	b := binary.BigEndian.AppendUint64([]byte{0xff}, n)
	if size == 9 {
		return b
	}
	b = b[9-size:]
	b[0] |= byte(uint16(0xff00) >> (size - 1))
	return b
}

// fewest returns how many bytes a number has.
func fewest(n uint64) int {
	size := 1
	for size < 9 && n>>(7*size) > 0 {
		size++
	}
	return size
}

// whole returns the Kind and the data as a block.
func whole(r api.Record) []byte {
	n := uint64(len(r.Data))
	return slices.Concat([]byte{r.Kind}, sized(n, fewest(n)), r.Data)
}

// next returns the chain after a record by the words of the chapter, with the sums of the library.
func next(chain api.Digest, r api.Record) api.Digest {
	return sha512.Sum512_256(slices.Concat(chain[:], whole(r)))
}

// written returns the bytes of a record by the words of the chapter.
func written(chain api.Digest, r api.Record) []byte {
	after := next(chain, r)
	return append(whole(r), after[:8]...)
}

// joined returns the bytes of records, one after the other, and the chains: before the first one, and after each of them.
func joined(chain api.Digest, l []api.Record) ([]byte, []api.Digest) {
	var b []byte
	chains := []api.Digest{chain}
	for _, r := range l {
		b = append(b, written(chain, r)...)
		chain = next(chain, r)
		chains = append(chains, chain)
	}
	return b, chains
}

// lasting is what Read returns.
type lasting struct {
	r     api.Record
	n     int
	after api.Digest
	e     api.Errno
}

// read returns what Read returns.
func read(chain api.Digest, b []byte) lasting {
	r, n, after, e := record.Read(chain, b)
	return lasting{r, n, after, e}
}

// wanted returns what Read has to return: a record if its bytes, written anew, are those that b begins with.
func wanted(chain api.Digest, b []byte) lasting {
	if len(b) == 0 {
		return lasting{e: api.ErrMore}
	}
	if b[0] == 0 {
		return lasting{e: api.ErrBad}
	}
	if len(b) == 1 {
		return lasting{e: api.ErrMore}
	}
	size := 1
	for i := 7; i >= 0 && b[1]>>i&1 == 1; i-- {
		size++
	}
	if len(b) < 1+size {
		return lasting{e: api.ErrMore}
	}
	for n := range uint64(api.MaxData + 1) {
		if fewest(n) != size || !slices.Equal(sized(n, size), b[1:1+size]) {
			continue
		}
		end := 1 + size + int(n)
		if len(b) < end+8 {
			return lasting{e: api.ErrMore}
		}
		r := api.Record{Kind: b[0], Data: b[1+size : end]}
		if !slices.Equal(written(chain, r), b[:end+8]) {
			break
		}
		return lasting{r, end + 8, next(chain, r), api.OK}
	}
	return lasting{e: api.ErrBad}
}

// is tells where l is not what is wanted.
func (l lasting) is(t *testing.T, want lasting, what string) {
	t.Helper()
	if !record.Same(l.r, want.r) || l.n != want.n || l.after != want.after || l.e != want.e {
		t.Errorf("%s: %d, %d bytes, size %d, chain %x, error %d; want %d, %d bytes, size %d, chain %x, error %d", what,
			l.r.Kind, len(l.r.Data), l.n, l.after, l.e, want.r.Kind, len(want.r.Data), want.n, want.after, want.e)
	}
}

// fails checks that Read returns an error, and nothing beside it.
func fails(t *testing.T, chain api.Digest, b []byte, e api.Errno, what string) {
	t.Helper()
	got := read(chain, b)
	got.is(t, lasting{e: e}, what)
	if got.r.Data != nil {
		t.Errorf("%s: data beside error %d: %x", what, e, got.r.Data)
	}
}

// same tells where two lists of records differ.
func same(t *testing.T, got, want []api.Record, what string) {
	t.Helper()
	if len(got) != len(want) {
		t.Errorf("%s: %d records, want %d", what, len(got), len(want))
		return
	}
	for i := range got {
		if got[i].Kind != want[i].Kind || !slices.Equal(got[i].Data, want[i].Data) {
			t.Errorf("%s: record %d is %d with %x, want %d with %x", what, i, got[i].Kind, got[i].Data, want[i].Kind, want[i].Data)
		}
	}
}

// some returns n bytes, the same for the same seed.
func some(n int, seed int64) []byte {
	b := make([]byte, n)
	rand.New(rand.NewSource(seed)).Read(b)
	return b
}

// good returns records that are valid: of all sorts of Kinds, and with as many bytes as are near a bound.
func good() []api.Record {
	var l []api.Record
	for _, k := range []byte{1, 2, 127, 128, 254, 255} {
		l = append(l, api.Record{Kind: k}, api.Record{Kind: k, Data: []byte{}})
		for _, n := range []int{1, 2, 3, 8, 126, 127, 128, 129, 255, 256, 1000, api.MaxData - 1, api.MaxData} {
			l = append(l, api.Record{Kind: k, Data: some(n, int64(k))})
		}
		l = append(l, api.Record{Kind: k, Data: make([]byte, 200)}, api.Record{Kind: k, Data: slices.Repeat([]byte{255}, 130)})
	}
	return l
}

// bad returns records that are not valid.
func bad() []api.Record {
	var l []api.Record
	for _, n := range []int{0, 1, 127, 128, api.MaxData, api.MaxData + 1, 1 << 14} {
		l = append(l, api.Record{Data: some(n, 5)})
	}
	for _, n := range []int{api.MaxData + 1, api.MaxData + 2, 2*api.MaxData - 1, 2 * api.MaxData, 2*api.MaxData + 1, 1 << 16, 1 << 20, 1<<21 + 1} {
		l = append(l, api.Record{Kind: 1, Data: some(n, 6)}, api.Record{Kind: 255, Data: make([]byte, n)})
	}
	return l
}

// chains returns chains of epochs, and others.
func chains() []api.Digest {
	return []api.Digest{record.First(0), record.First(1), {}, {31: 1}, api.Digest(some(32, 7)), api.Digest(slices.Repeat([]byte{255}, 32))}
}
