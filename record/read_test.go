package record_test

import (
	"bytes"
	"math/rand"
	"runtime"
	"slices"
	"testing"

	"headwater/api"
	"headwater/record"
)

// P8.2: Read reads the first record of b, whatever is behind it.
func TestRead(t *testing.T) {
	for _, c := range chains() {
		for _, r := range good() {
			b := written(c, r)
			want := lasting{r, len(b), next(c, r), api.OK}
			for _, more := range [][]byte{nil, {0}, {1}, {255, 255}, make([]byte, 20), written(want.after, r), some(300, 1)} {
				read(c, slices.Concat(b, more)).is(t, want, "a record, and more")
			}
		}
	}
}

// P8.2: where b ends is ErrMore, wherever it does: so of no bytes at all.
func TestReadBreaksOff(t *testing.T) {
	for _, c := range chains()[:2] {
		for _, r := range good()[:17] {
			b := written(c, r)
			for n := range b {
				fails(t, c, b[:n], api.ErrMore, "a part")
				fails(t, c, b[:n:n], api.ErrMore, "a part without room")
			}
		}
		fails(t, c, nil, api.ErrMore, "nil")
		fails(t, c, []byte{}, api.ErrMore, "nothing")
	}
}

// P8.2: a Kind 0 is ErrBad at once, whatever is behind it, or missing.
func TestReadNoKind(t *testing.T) {
	c := record.First(2)
	for _, more := range [][]byte{nil, {0}, {3}, {0x80}, {0xff}, {0x80, 0}, make([]byte, 100), written(c, api.Record{Kind: 1})} {
		fails(t, c, append([]byte{0}, more...), api.ErrBad, "Kind 0")
	}
	for _, r := range bad()[:7] {
		fails(t, c, written(c, r), api.ErrBad, "Kind 0, and all the rest")
	}
}

// P8.2: a number that is not valid, or above MaxData, is ErrBad as soon as it is complete; up to there it is ErrMore.
func TestReadNumbers(t *testing.T) {
	c := record.First(4)
	check := func(number []byte, e api.Errno) {
		t.Helper()
		b := append([]byte{5}, number...)
		for n := range b {
			fails(t, c, b[:n], api.ErrMore, "a part of a number")
		}
		fails(t, c, b, e, "a number")
		for _, n := range []int{1, 8, 20} {
			if e == api.ErrBad {
				fails(t, c, append(slices.Clone(b), some(n, 3)...), e, "a number, and more")
			}
		}
	}
	for _, n := range []uint64{0, 1, 127, 128, 300, api.MaxData - 1, api.MaxData} {
		check(sized(n, fewest(n)), api.ErrMore)
	}
	for _, n := range []uint64{api.MaxData + 1, api.MaxData + 2, 1<<14 - 1, 1 << 14, 1<<16 + 3, 1 << 21, 1<<31 - 1, 1 << 31, 1 << 32, 1<<32 + 3,
		1 << 35, 1 << 42, 1 << 49, 1<<56 - 1, 1 << 56, 1<<63 - 1, 1 << 63, 1<<63 + 3, 1<<64 - 1, 1<<64 - 9} {
		check(sized(n, fewest(n)), api.ErrBad)
	}
	for size := 2; size <= 9; size++ {
		for _, n := range []uint64{0, 1, 3, 100, 127, 1<<(7*(size-1)) - 1} {
			check(sized(n, size), api.ErrBad)
		}
	}
}

// P8.2: bytes that would be a record, were its number as short as it can be, and its chain made of the longer one, or of the shorter one.
func TestReadLongerNumber(t *testing.T) {
	c := record.First(4)
	for size := 2; size <= 9; size++ {
		body := slices.Concat([]byte{5}, sized(3, size), []byte("abc"))
		after := next(c, api.Record{Kind: 5, Data: []byte("abc")})
		fails(t, c, slices.Concat(body, after[:]), api.ErrBad, "a longer number")
		own := sum(c, body)
		fails(t, c, slices.Concat(body, own[:]), api.ErrBad, "a longer number in the chain, too")
	}
}

// P8.2: a record of MaxData bytes is read, one of a byte more is not, though its chain be right.
func TestReadTooMany(t *testing.T) {
	c := record.First(5)
	for _, n := range []int{api.MaxData + 1, api.MaxData + 2, 1 << 14, 1 << 16} {
		fails(t, c, written(c, api.Record{Kind: 1, Data: make([]byte, n)}), api.ErrBad, "too many bytes")
	}
}

// P8.2: a record whose chain is another one is ErrBad; but ErrMore, as long as not all its bytes are there.
func TestReadOtherChain(t *testing.T) {
	for _, r := range []api.Record{{Kind: 1}, {Kind: 2, Data: []byte("abc")}, {Kind: 255, Data: some(128, 2)}, {Kind: 3, Data: some(api.MaxData, 2)}} {
		for i, c := range chains() {
			b := written(c, r)
			for j, other := range chains() {
				if i == j {
					continue
				}
				fails(t, other, b, api.ErrBad, "another chain")
				fails(t, other, append(slices.Clone(b), 0, 0), api.ErrBad, "another chain, and more")
				for n := range 8 {
					fails(t, other, b[:len(b)-1-n], api.ErrMore, "a part of another chain")
				}
			}
		}
	}
}

// P8.2: with any one bit changed, in the record or in the chain before it, it is not read.
func TestReadOtherBit(t *testing.T) {
	c := record.First(6)
	for _, r := range []api.Record{{Kind: 1}, {Kind: 130, Data: []byte("abc")}, {Kind: 64, Data: some(130, 2)}} {
		b := slices.Concat(written(c, r), some(9000, 3))
		for i := range record.Size(r) * 8 {
			b[i/8] ^= 1 << (i % 8)
			if got := read(c, b); got.e == api.OK {
				t.Errorf("bit %d of a record of %d bytes: it is read as Kind %d, %d bytes", i, len(r.Data), got.r.Kind, len(got.r.Data))
			}
			read(c, b).is(t, wanted(c, b), "a bit")
			b[i/8] ^= 1 << (i % 8)
		}
		for i := range 256 {
			other := c
			other[i/8] ^= 1 << (i % 8)
			fails(t, other, b, api.ErrBad, "a bit of the chain")
		}
		read(c, b).is(t, wanted(c, b), "as it was")
	}
}

// P8.2: all short bytes, and any others, are read as in the model.
func TestReadAnything(t *testing.T) {
	c := record.First(7)
	for i := range 1 << 16 {
		b := []byte{byte(i >> 8), byte(i)}
		read(c, b).is(t, wanted(c, b), "two bytes")
		b = []byte{3, b[0], b[1]}
		read(c, b).is(t, wanted(c, b), "three bytes")
	}
	for i := range 256 {
		b := []byte{byte(i)}
		read(c, b).is(t, wanted(c, b), "a byte")
	}
	r := rand.New(rand.NewSource(8))
	for range 3000 {
		b := make([]byte, r.Intn(400))
		r.Read(b)
		if len(b) > 2 && r.Intn(2) == 0 {
			b[0], b[1] = 1+b[0]%255, b[1]%128
		}
		read(c, b).is(t, wanted(c, b), "any bytes")
	}
}

// P8.2: All returns the records that can be read one after the other, how many bytes they have, and the chain after the last one.
func TestAll(t *testing.T) {
	for _, c := range chains() {
		l := good()
		b, cs := joined(c, l)
		for _, more := range [][]byte{nil, {0}, {1}, {1, 3, 4}, {1, 0x80, 1}, make([]byte, 500), some(500, 4), b[:100], written(c, l[0])} {
			got, n, after := record.All(c, slices.Concat(b, more))
			same(t, got, l, "all of them")
			if n != len(b) || after != cs[len(l)] {
				t.Errorf("All: %d bytes, chain %x; want %d, %x", n, after, len(b), cs[len(l)])
			}
		}
	}
}

// P8.2: where nothing can be read, All returns no records, no bytes, and the chain that it is given.
func TestAllOfNone(t *testing.T) {
	for i, c := range chains() {
		other := written(chains()[(i+1)%len(chains())], api.Record{Kind: 1})
		for _, b := range [][]byte{nil, {}, {0}, {1}, {1, 0}, {1, 0xff}, make([]byte, 300), other, append([]byte{0}, written(c, api.Record{Kind: 1})...)} {
			if l, n, after := record.All(c, b); len(l) != 0 || n != 0 || after != c {
				t.Errorf("All of %x: %d records, %d bytes, chain %x", b, len(l), n, after)
			}
		}
	}
}

// few returns records of one to three hundred bytes.
func few() []api.Record {
	return []api.Record{{Kind: 1, Data: []byte("abc")}, {Kind: 1, Data: []byte("abc")}, {Kind: 255}, {Kind: 2, Data: some(127, 1)}, {Kind: 2, Data: some(290, 1)}, {Kind: 3, Data: []byte{0}}}
}

// ends returns where records end, and 0 ahead of that.
func ends(l []api.Record) []int {
	out := []int{0}
	for i, r := range l {
		out = append(out, out[i]+len(written(api.Digest{}, r)))
	}
	return out
}

// P8.2: wherever b ends, All returns the records that are whole.
func TestAllBreaksOff(t *testing.T) {
	l, c := few(), record.First(9)
	b, cs := joined(c, l)
	at := ends(l)
	for n := range len(b) + 1 {
		count := 0
		for count < len(l) && at[count+1] <= n {
			count++
		}
		got, size, after := record.All(c, b[:n])
		same(t, got, l[:count], "a part")
		if size != at[count] || after != cs[count] {
			t.Errorf("All of %d bytes: %d of them, chain %x; want %d, %x", n, size, after, at[count], cs[count])
		}
	}
}

// P8.2: All stops at the first bad record, wherever it is bad, and though those behind it be good.
func TestAllStops(t *testing.T) {
	l, c := few(), record.First(10)
	b, cs := joined(c, l)
	at := ends(l)
	for i := range b {
		for _, x := range []byte{1, 128, 255, b[i]} {
			if x == 0 {
				continue
			}
			other := slices.Clone(b)
			other[i] ^= x
			count := 0
			for at[count+1] <= i {
				count++
			}
			got, size, after := record.All(c, other)
			same(t, got, l[:count], "a bad byte")
			if size != at[count] || after != cs[count] {
				t.Errorf("All with byte %d bad: %d bytes, chain %x; want %d, %x", i, size, after, at[count], cs[count])
			}
		}
	}
}

// allocated returns how many bytes of memory a call takes, together.
func allocated(call func()) uint64 {
	var before, after runtime.MemStats
	runtime.ReadMemStats(&before)
	call()
	runtime.ReadMemStats(&after)
	return after.TotalAlloc - before.TotalAlloc
}

// T6: All of many records ends soon, as does Read of each of them: neither copies what is behind a record.
func TestAllOfMany(t *testing.T) {
	c := record.First(11)
	l := slices.Repeat([]api.Record{{Kind: 1}, {Kind: 2, Data: []byte{7}}}, 1<<12)
	b, cs := joined(c, l)
	took := allocated(func() {
		got, n, after := record.All(c, b)
		same(t, got, l, "many")
		if n != len(b) || after != cs[len(l)] {
			t.Errorf("All: %d bytes, chain %x; want %d, %x", n, after, len(b), cs[len(l)])
		}
	})
	if most := uint64(len(l)) << 11; took > most {
		t.Errorf("All takes %d bytes of memory, not at most %d", took, most)
	}
	at := 0
	for i := range l {
		got := read(cs[i], b[at:])
		got.is(t, lasting{l[i], record.Size(l[i]), cs[i+1], api.OK}, "one of many")
		at += got.n
	}
}

// Rule 3: what is read, its spare capacity too, is left as it is, and what is returned shares nothing with it, nor with each other.
func TestReadIsNew(t *testing.T) {
	c := record.First(12)
	want, _ := joined(c, few())
	room := append(slices.Clone(want), some(100, 5)...)
	b := room[:len(want)]
	was := slices.Clone(room)
	l, _, _ := record.All(c, b)
	one := read(c, b)
	for _, r := range append(slices.Clone(l), one.r) {
		clear(r.Data[:cap(r.Data)])
	}
	if !bytes.Equal(room, was) {
		t.Error("what is done to the records changes what they were read from")
	}
	l, _, _ = record.All(c, b)
	one = read(c, b)
	for _, r := range l[:len(l)-1] {
		_ = append(r.Data, slices.Repeat([]byte{9}, 50)...)
	}
	_ = append(l[:len(l)-1], api.Record{Kind: 77})
	clear(room)
	same(t, []api.Record{one.r}, few()[:1], "when what it was read from is gone")
	same(t, l[:len(l)-1], few()[:len(l)-1], "when what they were read from is gone")
	again, _, _ := record.All(c, want)
	same(t, again, few(), "read anew")
}
