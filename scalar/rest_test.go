package scalar_test

import (
	"bytes"
	"math"
	"math/big"
	"math/rand"
	"testing"

	"headwater/api"
	"headwater/scalar"
)

// checkRest holds Rest of the bytes against what big numbers leave.
func checkRest(t *testing.T, b []byte) {
	t.Helper()
	got, e := scalar.Rest(b)
	if e != api.OK {
		t.Fatalf("Rest of %d bytes: error %d", len(b), e)
	}
	if want := number(residue(total(b))); got != want {
		t.Fatalf("Rest of %x: %x, not %x", total(b), value(got), value(want))
	}
	if !scalar.Canon(got) {
		t.Fatalf("Rest of %x is not canonical", total(b))
	}
}

// P4.1: L is 2^252 and the number that the chapter writes out.
func TestL(t *testing.T) {
	low := written("27742317777372353535851937790883648493")
	if got, want := value(scalar.L()), low.Add(low, bit(252)); got.Cmp(want) != 0 {
		t.Errorf("L: %x, not %x", got, want)
	}
	l := scalar.L()
	l[0] = 0
	if value(scalar.L()).Cmp(order) != 0 {
		t.Error("L is changed by writing into a result")
	}
}

// P4.1: a number is canonical if it is below L.
func TestCanon(t *testing.T) {
	for _, a := range all(500, 1) {
		if got, want := scalar.Canon(a), value(a).Cmp(order) < 0; got != want {
			t.Fatalf("Canon of %x: %v, not %v", value(a), got, want)
		}
	}
}

// P4.1: Canon where the answer changes, each by itself, and where a single word tells.
func TestCanonAtTheEdges(t *testing.T) {
	for _, c := range []struct {
		n    *big.Int
		want bool
	}{
		{new(big.Int), true},
		{one, true},
		{new(big.Int).Sub(order, one), true},
		{order, false},
		{new(big.Int).Add(order, one), false},
		{new(big.Int).Sub(order, bit(64)), true},
		{new(big.Int).Add(order, bit(64)), false},
		{new(big.Int).Sub(bit(252), one), true},
		{bit(252), true},
		{new(big.Int).Add(bit(252), bit(125)), false},
		{new(big.Int).Add(bit(252), bit(128)), false},
		{bit(253), false},
		{bit(255), false},
		{most, false},
	} {
		if scalar.Canon(number(c.n)) != c.want {
			t.Errorf("Canon of %x: not %v", c.n, c.want)
		}
	}
}

// P4.1: Rest of numbers of 32 bytes; of what is below L it is the number itself.
func TestRestOfNumbers(t *testing.T) {
	for _, a := range all(500, 2) {
		checkRest(t, a[:])
		if r, _ := scalar.Rest(a[:]); (r == a) != scalar.Canon(a) {
			t.Fatalf("Rest of %x is %x", value(a), value(r))
		}
	}
}

// P4.1: the examples of the chapter, and multiples of L with what is beside them.
func TestRestOfMultiples(t *testing.T) {
	for i := range int64(16) {
		for j := range int64(3) {
			n := new(big.Int).Add(times(i), big.NewInt(j))
			if r, e := scalar.Rest(octets(n, 32)); e != api.OK || r != (api.Num{byte(j)}) {
				t.Errorf("Rest of %d times L, plus %d: %x, error %d", i, j, value(r), e)
			}
		}
	}
	less := number(new(big.Int).Sub(order, one))
	if r, e := scalar.Rest(octets(new(big.Int).Sub(times(2), one), 32)); e != api.OK || r != less {
		t.Errorf("Rest of twice L, less 1: %x, error %d", value(r), e)
	}
}

// P4.1: Rest of no bytes, and of 1 to 64 of them: full ones, a highest bit alone, and others.
func TestRestOfEachLength(t *testing.T) {
	for _, b := range [][]byte{nil, {}, make([]byte, 0, 100)} {
		if r, e := scalar.Rest(b); e != api.OK || r != (api.Num{}) {
			t.Errorf("Rest of no bytes: %x, error %d", value(r), e)
		}
	}
	r := rand.New(rand.NewSource(3))
	for n := 1; n <= 64; n++ {
		checkRest(t, bytes.Repeat([]byte{255}, n))
		checkRest(t, octets(bit(uint(8*n-1)), n))
		checkRest(t, make([]byte, n))
		for range 20 {
			b := make([]byte, n)
			r.Read(b)
			checkRest(t, b)
		}
	}
}

// P4.1: each of the 512 bits counts, in its place, and so does what is beside a multiple of L.
func TestRestOfWideNumbers(t *testing.T) {
	for i := range uint(512) {
		checkRest(t, octets(bit(i), 64))
	}
	top := new(big.Int).Sub(bit(512), one)
	last := new(big.Int).Div(top, order)
	for i := range int64(20) {
		n := new(big.Int).Mul(order, new(big.Int).Sub(last, big.NewInt(i*i)))
		checkRest(t, octets(n, 64))
		checkRest(t, octets(n.Sub(n, one), 64))
	}
	square := new(big.Int).Mul(order, order)
	for i := int64(-2); i <= 2; i++ {
		checkRest(t, octets(new(big.Int).Add(square, big.NewInt(i)), 64))
	}
}

// P4.1: more than 64 bytes are too long, even if those beyond are zero, and nothing is told of them.
func TestRestOfTooMuch(t *testing.T) {
	for _, n := range []int{65, 66, 96, 128, 1000} {
		for _, fill := range []byte{0, 1, 255} {
			if r, e := scalar.Rest(bytes.Repeat([]byte{fill}, n)); e != api.ErrLong || r != (api.Num{}) {
				t.Errorf("Rest of %d bytes: %x, error %d", n, value(r), e)
			}
		}
	}
}

// Rule 3: Rest changes nothing of its argument, and does not look at its spare capacity.
func TestRestLeavesItsArgument(t *testing.T) {
	b := bytes.Repeat([]byte{255}, 64)
	for n := range 65 {
		want, _ := scalar.Rest(bytes.Repeat([]byte{255}, n))
		if got, e := scalar.Rest(b[:n]); e != api.OK || got != want {
			t.Errorf("Rest of %d bytes with room behind them: %x, error %d", n, value(got), e)
		}
	}
	if !bytes.Equal(b, bytes.Repeat([]byte{255}, 64)) {
		t.Error("Rest changed its argument")
	}
}

// P4.1: Bit tells of the number as it is, also if it is not canonical.
func TestBit(t *testing.T) {
	for _, a := range append(all(50, 4), number(most)) {
		n := value(a)
		for i := range 256 {
			if got, want := scalar.Bit(a, i), n.Bit(i) == 1; got != want {
				t.Fatalf("bit %d of %x: %v", i, n, got)
			}
		}
	}
}

// P4.1: each bit is told apart from its neighbours, and there is none below 0 or above 255.
func TestBitAtTheEdges(t *testing.T) {
	for i := range 256 {
		a := number(bit(uint(i)))
		for j := -300; j < 600; j++ {
			if scalar.Bit(a, j) != (i == j) {
				t.Fatalf("bit %d of 2^%d: %v", j, i, i != j)
			}
		}
	}
	for _, i := range []int{-1, -8, -255, -256, 256, 257, 511, 512, math.MaxInt, math.MinInt, math.MinInt + 255, 1 << 32, -1 << 32} {
		if scalar.Bit(number(most), i) {
			t.Errorf("there is a bit %d", i)
		}
	}
}
