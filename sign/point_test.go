package sign_test

import (
	"math/big"
	"testing"

	"headwater/api"
	"headwater/sign"
)

// crafted is what can be signed without a seed: the key is the base point times a plus a point of small order, and so is R, of the base point times r.
type crafted struct {
	a, r       *big.Int
	key, above [8]affine // by how many times the point of order 8 they have
}

// craft returns all keys and all R of these numbers.
func craft(a, r *big.Int) *crafted {
	c := &crafted{a: a, r: r}
	key, above := base.multiple(a), base.multiple(r)
	for i, s := range smalls() {
		c.key[i], c.above[i] = key.sum(s), above.sum(s)
	}
	return c
}

// sign returns a key and a signature of b, and whether it is valid: whether the small parts of the key and R are together Zero.
func (c *crafted) sign(i, j int, b []byte) (api.Key, api.Sig, bool) {
	k, above := c.key[i].bytes(), c.above[j].bytes()
	n := hash(above[:], k[:], b)
	s := plus(c.r, new(big.Int).Mul(n, c.a))
	rest := new(big.Int).Mod(n, big.NewInt(8)).Int64()
	return k, joined(above, s.Mod(s, order)), (int64(j)+rest*int64(i))%8 == 0
}

// checkCrafted holds Good against what c is, for all points of small order in key and R.
func checkCrafted(t *testing.T, a, r *big.Int) {
	t.Helper()
	c, b := craft(a, r), some(5, 8)
	var valid int
	for i := range 64 {
		k, s, ok := c.sign(i/8, i%8, b)
		if i%21 == 0 && good(k, b, s) != ok {
			t.Fatalf("key %x, signature %x: by the chapter %v", k, s, !ok)
		}
		if sign.Good(k, b, s) != ok {
			t.Fatalf("a %x, r %x, small parts %d and %d: Good is %v", a, r, i/8, i%8, !ok)
		}
		if ok {
			valid++
		}
	}
	if valid == 0 || valid > 20 {
		t.Errorf("a %x, r %x: %d of 64 are valid", a, r, valid)
	}
}

// P6.1: the equation is that of points: a key that is Small may have valid signatures, but those only that fulfil it, not those that fulfil 8 times it.
func TestSmallKeys(t *testing.T) {
	for _, r := range []*big.Int{nought, one, value(some(31, 9)), value(some(31, 10)), new(big.Int).Sub(order, one)} {
		checkCrafted(t, nought, r)
	}
}

// P6.1: so it is for keys that are not Small, but have a Small part.
func TestKeysWithASmallPart(t *testing.T) {
	for _, a := range []*big.Int{one, value(some(31, 11)), new(big.Int).Sub(order, one)} {
		for _, r := range []*big.Int{nought, value(some(31, 12))} {
			checkCrafted(t, a, r)
		}
	}
}

// unusual returns bytes that are those of no point, though they represent one of small order: Y p and p + 1, and X 0 with the highest bit set.
func unusual() [][32]byte {
	var l [][32]byte
	for _, y := range []*big.Int{p, plus(p, one)} {
		l = append(l, number(y), number(plus(y, bit(255))))
	}
	for _, y := range []*big.Int{one, new(big.Int).Sub(p, one)} {
		l = append(l, number(plus(y, bit(255))))
	}
	return l
}

// fitting returns bytes of which the signature with S 0 and this R would be valid for the key, if it did not matter how points are written; false if there are none.
func fitting(k, above [32]byte) ([]byte, api.Sig, bool) {
	s := joined(above, nought)
	for i := range 64 {
		b := some(3, int64(i))
		key, _ := lax(k)
		r, _ := lax(above)
		n := new(big.Int).Mod(hash(above[:], k[:], b), big.NewInt(8)) // 8 times the key is Zero
		if r.sum(key.multiple(n)).bytes() == zero.bytes() {
			return b, s, true
		}
	}
	return nil, s, false
}

// P6.1: a key that is not the bytes of a point has no valid signature, though it represents one for which the equation holds.
func TestUnusualKeys(t *testing.T) {
	var found int
	for _, k := range unusual() {
		for _, a := range smalls() {
			if b, s, ok := fitting(k, a.bytes()); ok {
				strict(t, k, b, s, "the key is not the bytes of a point")
				found++
			}
		}
	}
	if found < len(unusual()) {
		t.Errorf("%d examples", found)
	}
}

// P6.1: an R that is not the bytes of a point belongs to no valid signature, though it represents one for which the equation holds.
func TestUnusualR(t *testing.T) {
	var found int
	for _, above := range unusual() {
		for _, a := range smalls() {
			if b, s, ok := fitting(a.bytes(), above); ok {
				strict(t, a.bytes(), b, s, "R is not the bytes of a point")
				found++
			}
		}
	}
	if found < len(unusual()) {
		t.Errorf("%d examples", found)
	}
}

// wrong returns bytes that are those of no point: a Y that is not canonical, one without an X, and X 0 with the highest bit set.
func wrong() [][32]byte {
	var l [][32]byte
	for y := p; y.BitLen() <= 255; y = plus(y, one) {
		l = append(l, number(y), number(plus(y, bit(255))))
	}
	for y := big.NewInt(2); len(l) < 60; y = plus(y, one) {
		if across(y) == nil {
			l = append(l, number(y), number(plus(y, bit(255))))
		}
	}
	return append(l, unusual()...)
}

// P6.1: nothing is signed for a key, or by an R, that is not the bytes of a point; such a key is not Valid.
func TestWrongKeysAndR(t *testing.T) {
	seed, b := [32]byte(some(32, 13)), some(12, 14)
	key, s := sign.Key(seed), sign.Sign(seed, b)
	for _, k := range wrong() {
		if sign.Valid(k) {
			t.Errorf("%x is Valid", k)
		}
		refused(t, k, b, s, "a wrong key")
		refused(t, k, b, joined(k, nought), "a wrong key, and R")
		refused(t, key, b, joined(k, value(s[32:])), "a wrong R")
		refused(t, api.Key(zero.bytes()), b, joined(k, nought), "a wrong R for the key Zero")
	}
}

// P6.1: Valid tells the bytes of points from all others, and the eight points that are Small from those that are not.
func TestValid(t *testing.T) {
	var l [][32]byte
	for i := range int64(40) {
		for _, y := range []*big.Int{big.NewInt(i), new(big.Int).Sub(p, big.NewInt(i+1)), value(some(31, i))} {
			l = append(l, number(y), number(plus(y, bit(255))))
		}
	}
	small := smalls()
	for _, a := range small {
		l = append(l, a.bytes(), base.sum(a).bytes())
	}
	count := map[bool]int{}
	for _, k := range append(l, wrong()...) {
		a, ok := read(k)
		want := ok && a.multiple(big.NewInt(8)).bytes() != zero.bytes()
		if sign.Valid(k) != want {
			t.Errorf("Valid of %x is %v", k, !want)
		}
		count[want]++
	}
	if count[true] < 60 || count[false] < 60 {
		t.Errorf("%d are Valid, %d are not", count[true], count[false])
	}
	for i, a := range small {
		if sign.Valid(a.bytes()) || !sign.Valid(base.sum(a).bytes()) {
			t.Errorf("%d times the point of order 8, alone or with the base point", i)
		}
	}
}
