package curve_test

import (
	"crypto/ed25519"
	"crypto/sha512"
	"math/big"
	"math/rand"
	"testing"

	"headwater/api"
	"headwater/curve"
	"headwater/scalar"
)

// P5.1: Mul of points by the edges among the numbers, against the model: 0, 1, L - 1, L, L + 1, 2^255, 2^256 - 1 and others.
func TestMul(t *testing.T) {
	t.Parallel()
	l := append(smalls(), base, base.sum(twist()))
	for _, a := range append(l, some(2, 6)...) {
		for _, k := range numbers(2, 7) {
			same(t, curve.Mul(number(k), a.point()), a.multiple(k), "Mul", k, a.x, a.y)
		}
	}
}

// P5.1: multiples whose result is plain, of all points.
func TestPlainMultiples(t *testing.T) {
	less, more := number(new(big.Int).Sub(order, one)), number(plus(order, one))
	eight := number(new(big.Int).Lsh(order, 3))
	for _, a := range points(10, 8) {
		q := a.point()
		if curve.Mul(api.Num{}, q) != curve.Zero() || curve.Mul(api.Num{1}, q) != q {
			t.Errorf("0 or 1 times (%x, %x)", a.x, a.y)
		}
		if curve.Mul(api.Num{2}, q) != curve.Add(q, q) || curve.Mul(api.Num{3}, q) != curve.Add(q, curve.Add(q, q)) {
			t.Errorf("2 or 3 times (%x, %x)", a.x, a.y)
		}
		if curve.Mul(eight, q) != curve.Zero() {
			t.Errorf("8 L times (%x, %x) is not Zero", a.x, a.y)
		}
		half := curve.Mul(number(bit(255)), q)
		if curve.Add(curve.Add(half, half), curve.Neg(q)) != curve.Mul(number(most), q) {
			t.Errorf("2^256 - 1 times (%x, %x)", a.x, a.y)
		}
	}
	b := curve.Base()
	if curve.Mul(less, b) != curve.Neg(b) || curve.Mul(scalar.L(), b) != curve.Zero() || curve.Mul(more, b) != b {
		t.Error("L - 1, L or L + 1 times the base point")
	}
}

// P5.1: each of the 256 bits of k counts, in its place: the multiple by one of them is the point doubled so often.
func TestEachBitOfMultiples(t *testing.T) {
	for _, a := range []affine{base, base.sum(twist()), some(1, 9)[0]} {
		power := a.point()
		for i := range uint(256) {
			if got := curve.Mul(number(bit(i)), a.point()); got != power {
				t.Fatalf("2^%d times (%x, %x): %x, not %x", i, a.x, a.y, got, power)
			}
			power = curve.Add(power, power)
		}
	}
}

// P5.1: k is taken as it is: of a point that is no multiple of the base point, L times it is not Zero.
func TestMultiplesAreNotOfResidues(t *testing.T) {
	for i, a := range smalls() {
		want := a.multiple(big.NewInt(5)) // L is 5 modulo 8
		same(t, curve.Mul(scalar.L(), a.point()), want, "L times", a.x, a.y)
		if got := curve.Mul(scalar.L(), a.point()) == curve.Zero(); got != (i == 0) {
			t.Errorf("L times (%x, %x) is Zero: %v", a.x, a.y, got)
		}
	}
}

// P5.1, P5.2: multiples of the base point are the keys of the library's Ed25519.
func TestKeysOfTheLibrary(t *testing.T) {
	r := rand.New(rand.NewSource(10))
	for range 50 {
		seed := make([]byte, ed25519.SeedSize)
		r.Read(seed)
		h := sha512.Sum512(seed)
		k := api.Num(h[:32])
		k[0] &= 248
		k[31] = k[31]&63 | 64
		b, e := curve.Bytes(curve.Mul(k, curve.Base()))
		want := ed25519.NewKeyFromSeed(seed).Public().(ed25519.PublicKey)
		if e != api.OK || b != [32]byte(want) {
			t.Fatalf("the key of %x: %x, error %d, not %x", seed, b, e, want)
		}
	}
}

// checkTwo holds Mul2 against the sum of the multiples of the model.
func checkTwo(t *testing.T, k *big.Int, a affine, m *big.Int, b affine) {
	t.Helper()
	got := curve.Mul2(number(k), a.point(), number(m), b.point())
	same(t, got, a.multiple(k).sum(b.multiple(m)), "Mul2", k, a.x, a.y, m, b.x, b.y)
}

// P5.1: Mul2 of small numbers, all pairs, where points are alike, unlike, a point and its negative, of small order, and Zero.
func TestTwoSmallMultiples(t *testing.T) {
	s := smalls()
	for _, l := range [][2]affine{{base, base}, {base, base.minus()}, {base, s[1]}, {s[1], s[3]}, {zero, base}, {base, zero}, {zero, zero}, {s[4], s[4]}} {
		for k := range int64(10) {
			for m := range int64(10) {
				checkTwo(t, big.NewInt(k), l[0], big.NewInt(m), l[1])
			}
		}
	}
}

// P5.1: Mul2 of the edges among the numbers, both alike and unlike, with points alike and unlike.
func TestTwoMultiples(t *testing.T) {
	t.Parallel()
	l := append(some(2, 11), base, twist())
	ks := numbers(3, 12)
	for i, k := range ks {
		a, b := l[i%len(l)], l[(i/2+1)%len(l)]
		checkTwo(t, k, a, k, b)
		checkTwo(t, k, a, k, a)
		checkTwo(t, k, a, ks[(5*i+3)%len(ks)], b)
		checkTwo(t, k, a, ks[(7*i+1)%len(ks)], a.minus())
	}
}

// P5.1: Mul2 is the sum of the Muls, also where one number is 0, or much shorter than the other.
func TestTwoMultiplesAreASum(t *testing.T) {
	l, ks := points(5, 13), numbers(5, 14)
	for i, a := range l {
		q, r := a.point(), l[(3*i+2)%len(l)].point()
		for j, k := range ks {
			m := number(ks[(i+11*j)%len(ks)])
			k := number(k)
			if curve.Mul2(k, q, m, r) != curve.Add(curve.Mul(k, q), curve.Mul(m, r)) {
				t.Fatalf("Mul2 of %x, %x, %x, %x", value(k), q, value(m), r)
			}
		}
		k := number(ks[i%len(ks)])
		if curve.Mul2(k, q, api.Num{}, r) != curve.Mul(k, q) || curve.Mul2(api.Num{}, r, k, q) != curve.Mul(k, q) {
			t.Fatalf("Mul2 of %x and 0", value(k))
		}
	}
}

// The first sentence of the promises: Mul and Mul2 return Zero if a point is not valid, on either side, even if it is multiplied by 0.
func TestMultiplesOfWrongPoints(t *testing.T) {
	b := curve.Base()
	for _, q := range wrong() {
		for _, k := range []api.Num{{}, {1}, {2}, {8}, scalar.L(), number(most)} {
			if curve.Mul(k, q) != curve.Zero() {
				t.Errorf("%x times %x is not Zero", value(k), q)
			}
			if curve.Mul2(k, q, api.Num{1}, b) != curve.Zero() || curve.Mul2(api.Num{1}, b, k, q) != curve.Zero() {
				t.Errorf("Mul2 with %x times %x is not Zero", value(k), q)
			}
			if curve.Mul2(k, q, k, q) != curve.Zero() {
				t.Errorf("Mul2 with %x twice is not Zero", q)
			}
		}
	}
}
