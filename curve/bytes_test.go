package curve_test

import (
	"bytes"
	"math/big"
	"math/rand"
	"testing"

	"headwater/api"
	"headwater/curve"
)

// P5.2: the bytes are those of Y, and the highest bit tells whether X is Odd.
func TestBytes(t *testing.T) {
	for _, a := range points(100, 15) {
		for _, a := range []affine{a, a.minus()} {
			b, e := curve.Bytes(a.point())
			if e != api.OK || b != a.bytes() {
				t.Fatalf("Bytes of (%x, %x): %x, error %d, not %x", a.x, a.y, b, e, a.bytes())
			}
			if uint(b[31]>>7) != a.x.Bit(0) {
				t.Fatalf("the highest bit of (%x, %x)", a.x, a.y)
			}
		}
	}
}

// P5.2: the examples of the chapter, and the bytes of the points with X 0 and Y 0.
func TestExamples(t *testing.T) {
	want := [32]byte(append([]byte{0x58}, bytes.Repeat([]byte{0x66}, 31)...))
	if b, e := curve.Bytes(curve.Base()); e != api.OK || b != want {
		t.Errorf("Bytes of Base: %x, error %d", b, e)
	}
	if q, e := curve.Read(want); e != api.OK || q != curve.Base() {
		t.Errorf("Read of the bytes of Base: %x, error %d", q, e)
	}
	if q, e := curve.Read([32]byte{0: 1, 31: 128}); e != api.ErrBad || q != (api.Point{}) {
		t.Errorf("Read of 1, 30 zeros, 128: %x, error %d", q, e)
	}
	if q, e := curve.Read([32]byte{1}); e != api.OK || q != curve.Zero() {
		t.Errorf("Read of 1: %x, error %d", q, e)
	}
	if b, e := curve.Bytes(curve.Zero()); e != api.OK || b != [32]byte{1} {
		t.Errorf("Bytes of Zero: %x, error %d", b, e)
	}
}

// The first sentence of the promises: Bytes returns ErrArg, and nothing beside it, for what is not a point; Small returns false.
func TestBytesOfWrongPoints(t *testing.T) {
	for _, q := range wrong() {
		if b, e := curve.Bytes(q); e != api.ErrArg || b != [32]byte{} {
			t.Errorf("Bytes of %x: %x, error %d", q, b, e)
		}
		if curve.Small(q) {
			t.Errorf("%x is Small", q)
		}
	}
}

// checkRead holds Read against the model, and reports whether b are the bytes of a point.
func checkRead(t *testing.T, b [32]byte) bool {
	t.Helper()
	y, odd := value(b), uint(b[31]>>7)
	y.SetBit(y, 255, 0)
	var x *big.Int
	if y.Cmp(p) < 0 {
		x = across(y, odd)
	}
	q, e := curve.Read(b)
	if x == nil {
		if e != api.ErrBad || q != (api.Point{}) {
			t.Fatalf("Read of %x: %x, error %d", b, q, e)
		}
		return false
	}
	if e != api.OK {
		t.Fatalf("Read of %x: error %d", b, e)
	}
	same(t, q, affine{x, y}, "Read", b)
	return true
}

// signed returns the bytes of n, with and without the highest bit.
func signed(n *big.Int) [2][32]byte {
	b := number(n)
	b[31] &= 127
	c := b
	c[31] |= 128
	return [2][32]byte{b, c}
}

// P5.2: Read of the least and the greatest Y, and of others, with both signs: about half of them have an X.
func TestRead(t *testing.T) {
	r := rand.New(rand.NewSource(16))
	var l []*big.Int
	for i := range int64(150) {
		l = append(l, big.NewInt(i), new(big.Int).Sub(p, big.NewInt(i+1)), new(big.Int).Rand(r, p))
	}
	var with int
	for _, y := range l {
		for _, b := range signed(y) {
			if checkRead(t, b) {
				with++
			}
		}
	}
	if with < len(l)/2 || with > len(l)*3/2 {
		t.Errorf("of %d bytes %d are those of points", 2*len(l), with)
	}
}

// P5.2: Read of a Y that is not canonical is ErrBad, though it represents one that has an X.
func TestReadOfAYThatIsNotCanonical(t *testing.T) {
	var represent int
	for y := new(big.Int).Set(p); y.BitLen() <= 255; y = plus(y, one) {
		if across(residue(y), 0) != nil {
			represent++
		}
		for _, b := range signed(y) {
			if q, e := curve.Read(b); e != api.ErrBad || q != (api.Point{}) {
				t.Errorf("Read of %x: %x, error %d", b, q, e)
			}
		}
	}
	if represent == 0 {
		t.Error("none of them represents a Y that has an X")
	}
}

// P5.2: Read of a Y that has no X is ErrBad; 2 is one of them.
func TestReadOfAYWithoutX(t *testing.T) {
	if across(big.NewInt(2), 0) != nil {
		t.Fatal("2 has an X")
	}
	for _, b := range signed(big.NewInt(2)) {
		if q, e := curve.Read(b); e != api.ErrBad || q != (api.Point{}) {
			t.Errorf("Read of %x: %x, error %d", b, q, e)
		}
	}
}

// P5.2: for the X 0, which both 1 and -1 have, the highest bit must not be set.
func TestReadOfXNought(t *testing.T) {
	for _, y := range []*big.Int{one, new(big.Int).Sub(p, one)} {
		b := signed(y)
		q, e := curve.Read(b[0])
		if e != api.OK {
			t.Errorf("Read of %x: error %d", b[0], e)
		}
		same(t, q, affine{nought, y}, "Read", b[0])
		if q, e := curve.Read(b[1]); e != api.ErrBad || q != (api.Point{}) {
			t.Errorf("Read of %x: %x, error %d", b[1], q, e)
		}
	}
}

// P5.2: Small tells the eight points of which 8 times each is Zero from all others.
func TestSmall(t *testing.T) {
	l := smalls()
	seen := map[api.Point]bool{}
	for _, a := range l {
		seen[a.point()] = true
		if !curve.Small(a.point()) {
			t.Errorf("(%x, %x) is not Small", a.x, a.y)
		}
	}
	if len(seen) != 8 {
		t.Errorf("%d points of small order", len(seen))
	}
	for _, a := range points(50, 17)[len(l):] {
		want := seen[a.point()]
		if curve.Small(a.point()) != want || want != (a.multiple(big.NewInt(8)).point() == curve.Zero()) {
			t.Errorf("(%x, %x): Small is not %v", a.x, a.y, want)
		}
	}
}
