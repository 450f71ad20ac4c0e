package record

import (
	"bytes"
	"iter"

	"headwater/api"
	"headwater/octet"
)

// longestHead is how many bytes there are ahead of the data at most: the Kind, and the longest number, be it valid or not.
const longestHead = 1 + 9

// Read reads the first record of b, given the chain before it: the record, how many bytes it has, and the chain after it.
func Read(chain api.Digest, b []byte) (api.Record, int, api.Digest, api.Errno) {
	r, e := unbound(b)
	if e != api.OK {
		return api.Record{}, 0, api.Digest{}, e
	}
	n, after := Size(r), Next(chain, r)
	if !bytes.Equal(b[n-bound:n], after[:bound]) {
		return api.Record{}, 0, api.Digest{}, api.ErrBad
	}
	return r, n, after, api.OK
}

// unbound reads the first record of b, all of whose bytes have to be there, whatever they say of the chain.
func unbound(b []byte) (api.Record, api.Errno) {
	kind, size, at, e := readHead(b)
	if e != api.OK {
		return api.Record{}, e
	}
	if len(b)-at < size+bound {
		return api.Record{}, api.ErrMore
	}
	return api.Record{Kind: kind, Data: bytes.Clone(b[at : at+size])}, api.OK
}

// readHead reads what is ahead of the data of the first record of b: its Kind, how many bytes of data it has, and where they begin.
func readHead(b []byte) (kind byte, size, at int, e api.Errno) {
	// The reader keeps a copy: one of all of b, made anew for each of its records, would take far too long.
	b = b[:min(len(b), longestHead)]
	r := octet.Read(b)
	kind = byte(r.Word(1))
	if r.Err() == api.OK && kind == 0 {
		return 0, 0, 0, api.ErrBad
	}
	n := r.Number()
	if e = r.Err(); e != api.OK {
		return 0, 0, 0, e
	}
	if n > api.MaxData {
		return 0, 0, 0, api.ErrBad
	}
	return kind, int(n), len(b) - r.Left(), api.OK
}

// each yields the records of b that can be read one after the other, each with the chain after it, and stops at the first bad one.
func each(chain api.Digest, b []byte) iter.Seq2[api.Record, api.Digest] {
	return func(yield func(api.Record, api.Digest) bool) {
		at, rest := chain, b
		for {
			r, n, after, e := Read(at, rest)
			if e != api.OK || !yield(r, after) {
				return
			}
			at, rest = after, rest[n:]
		}
	}
}

// All reads the records of b one after the other, given the chain before them: the records, how many bytes they have, and the chain after the last one.
func All(chain api.Digest, b []byte) ([]api.Record, int, api.Digest) {
	var l []api.Record
	size, last := 0, chain
	for r, after := range each(chain, b) {
		l, size, last = append(l, r), size+Size(r), after
	}
	return l, size, last
}
