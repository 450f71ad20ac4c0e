package record

import (
	"testing"

	"headwater/api"
)

// Ways: the iterator stops when it is told to, stops at the first bad record, and begins anew each time.
func TestEach(t *testing.T) {
	chain := First(0)
	var b []byte
	last := chain
	for i := range byte(5) {
		p, after, _ := Bytes(last, api.Record{Kind: i + 1})
		b, last = append(b, p...), after
	}
	b = append(b, 0)
	all := each(chain, b)
	for stop := byte(1); stop <= 6; stop++ {
		var n byte
		at := chain
		for r, after := range all {
			n++
			if at = Next(at, r); r.Kind != n || after != at {
				t.Errorf("record %d: Kind %d, chain %x, want %x", n, r.Kind, after, at)
			}
			if n == stop {
				break
			}
		}
		if n != min(stop, 5) {
			t.Errorf("%d records, stopped at %d", n, stop)
		}
	}
}
