/- A number's 32 bytes. No statement is proved here. -/
import Derived.Test.YtgdimnbdnepbgaaFN
namespace Go.Proofs.Ytgdimnbdnepbgaa
open Go.RowKit
set_option linter.unusedVariables false
set_option maxRecDepth 40000

def bytes8 (n : Nat) : List UInt8 := [UInt8.ofNat n, UInt8.ofNat (n / 256), UInt8.ofNat (n / 65536), UInt8.ofNat (n / 16777216), UInt8.ofNat (n / 4294967296), UInt8.ofNat (n / 1099511627776), UInt8.ofNat (n / 281474976710656), UInt8.ofNat (n / 72057594037927936)]
def encQ (n0 n1 n2 n3 : Nat) : List UInt8 := bytes8 n0 ++ (bytes8 n1 ++ (bytes8 n2 ++ bytes8 n3))
/-- The 32 bytes of a number. -/
def enc (v : Nat) : List UInt8 := encQ (v % 18446744073709551616) (v / 18446744073709551616 % 18446744073709551616) (v / 340282366920938463463374607431768211456 % 18446744073709551616) (v / 6277101735386680763835789423207666416102355444464034512896 % 18446744073709551616)
theorem enc_len (v : Nat) : (enc v).length = 32 := rfl
theorem put_zero (n0 n1 n2 n3 : Nat) : put8 (put8 (put8 (put8 (List.replicate 32 0) 0 n0) 8 n1) 16 n2) 24 n3 = encQ n0 n1 n2 n3 := by kernel_rfl
theorem num8_of (n : Nat) (h : n < 18446744073709551616) :
    num8 (n % 256) (n / 256 % 256) (n / 65536 % 256) (n / 16777216 % 256) (n / 4294967296 % 256) (n / 1099511627776 % 256) (n / 281474976710656 % 256) (n / 72057594037927936 % 256) = n := by
  have e2 : n / 65536 = n / 256 / 256 := by rw [Nat.div_div_eq_div_mul]
  have e3 : n / 16777216 = n / 256 / 256 / 256 := by rw [Nat.div_div_eq_div_mul, Nat.div_div_eq_div_mul]
  have e4 : n / 4294967296 = n / 256 / 256 / 256 / 256 := by rw [Nat.div_div_eq_div_mul, Nat.div_div_eq_div_mul, Nat.div_div_eq_div_mul]
  have e5 : n / 1099511627776 = n / 256 / 256 / 256 / 256 / 256 := by rw [Nat.div_div_eq_div_mul, Nat.div_div_eq_div_mul, Nat.div_div_eq_div_mul, Nat.div_div_eq_div_mul]
  have e6 : n / 281474976710656 = n / 256 / 256 / 256 / 256 / 256 / 256 := by rw [Nat.div_div_eq_div_mul, Nat.div_div_eq_div_mul, Nat.div_div_eq_div_mul, Nat.div_div_eq_div_mul, Nat.div_div_eq_div_mul]
  have e7 : n / 72057594037927936 = n / 256 / 256 / 256 / 256 / 256 / 256 / 256 := by rw [Nat.div_div_eq_div_mul, Nat.div_div_eq_div_mul, Nat.div_div_eq_div_mul, Nat.div_div_eq_div_mul, Nat.div_div_eq_div_mul, Nat.div_div_eq_div_mul]
  rw [e2, e3, e4, e5, e6, e7]
  unfold num8
  have d0 := Nat.div_add_mod n 256
  generalize n % 256 = r0 at *
  generalize n / 256 = x1 at *
  have d1 := Nat.div_add_mod x1 256
  generalize x1 % 256 = r1 at *
  generalize x1 / 256 = x2 at *
  have d2 := Nat.div_add_mod x2 256
  generalize x2 % 256 = r2 at *
  generalize x2 / 256 = x3 at *
  have d3 := Nat.div_add_mod x3 256
  generalize x3 % 256 = r3 at *
  generalize x3 / 256 = x4 at *
  have d4 := Nat.div_add_mod x4 256
  generalize x4 % 256 = r4 at *
  generalize x4 / 256 = x5 at *
  have d5 := Nat.div_add_mod x5 256
  generalize x5 % 256 = r5 at *
  generalize x5 / 256 = x6 at *
  have d6 := Nat.div_add_mod x6 256
  generalize x6 % 256 = r6 at *
  generalize x6 / 256 = x7 at *
  clear e2 e3 e4 e5 e6 e7
  have hx7 : x7 < 256 := by omega
  rw [Nat.mod_eq_of_lt hx7]
  omega
theorem of_byte (n : Nat) : (UInt8.ofNat n).toNat = n % 256 := by rw [UInt8.toNat_ofNat']
theorem num8_bytes (n : Nat) (h : n < 18446744073709551616) : num8 (UInt8.ofNat n).toNat (UInt8.ofNat (n / 256)).toNat (UInt8.ofNat (n / 65536)).toNat (UInt8.ofNat (n / 16777216)).toNat (UInt8.ofNat (n / 4294967296)).toNat (UInt8.ofNat (n / 1099511627776)).toNat (UInt8.ofNat (n / 281474976710656)).toNat (UInt8.ofNat (n / 72057594037927936)).toNat = n := by
  simp only [of_byte]
  exact num8_of n h
theorem q8_0 (n0 n1 n2 n3 : Nat) (h : n0 < 18446744073709551616) : q8 (encQ n0 n1 n2 n3) 0 = n0 := num8_bytes n0 h
theorem q8_8 (n0 n1 n2 n3 : Nat) (h : n1 < 18446744073709551616) : q8 (encQ n0 n1 n2 n3) 8 = n1 := num8_bytes n1 h
theorem q8_16 (n0 n1 n2 n3 : Nat) (h : n2 < 18446744073709551616) : q8 (encQ n0 n1 n2 n3) 16 = n2 := num8_bytes n2 h
theorem q8_24 (n0 n1 n2 n3 : Nat) (h : n3 < 18446744073709551616) : q8 (encQ n0 n1 n2 n3) 24 = n3 := num8_bytes n3 h
theorem nv_enc (v : Nat) (h : v < 115792089237316195423570985008687907853269984665640564039457584007913129639936) : nv (enc v) = v := by
  unfold nv enc
  rw [q8_0 _ _ _ _ (mod64 _), q8_8 _ _ _ _ (mod64 _), q8_16 _ _ _ _ (mod64 _), q8_24 _ _ _ _ (mod64 _)]
  omega
theorem nv_lt (l : List UInt8) : nv l < 115792089237316195423570985008687907853269984665640564039457584007913129639936 := by
  have h0 := q8_lt l 0
  have h1 := q8_lt l 8
  have h2 := q8_lt l 16
  have h3 := q8_lt l 24
  unfold nv
  omega
theorem enc_inj {v x : Nat} (hv : v < 115792089237316195423570985008687907853269984665640564039457584007913129639936) (hx : x < 115792089237316195423570985008687907853269984665640564039457584007913129639936) (h : enc v = enc x) : v = x := by
  rw [← nv_enc v hv, h, nv_enc x hx]
theorem byte_back (b : UInt8) (n : Nat) (h : n % 256 = b.toNat) : UInt8.ofNat n = b := by
  apply UInt8.toNat_inj.1
  rw [of_byte, h]
theorem bytes8_num (b0 b1 b2 b3 b4 b5 b6 b7 : UInt8) : bytes8 (num8 b0.toNat b1.toNat b2.toNat b3.toNat b4.toNat b5.toNat b6.toNat b7.toNat) = [b0, b1, b2, b3, b4, b5, b6, b7] := by
  have h0 := b0.toNat_lt
  have h1 := b1.toNat_lt
  have h2 := b2.toNat_lt
  have h3 := b3.toNat_lt
  have h4 := b4.toNat_lt
  have h5 := b5.toNat_lt
  have h6 := b6.toNat_lt
  have h7 := b7.toNat_lt
  unfold bytes8 num8
  rw [byte_back b0 _ (by omega), byte_back b1 _ (by omega), byte_back b2 _ (by omega), byte_back b3 _ (by omega), byte_back b4 _ (by omega), byte_back b5 _ (by omega), byte_back b6 _ (by omega), byte_back b7 _ (by omega)]
theorem enc_nv (l : List UInt8) (h : l.length = 32) : enc (nv l) = l := by
  have h0 := q8_lt l 0
  have h1 := q8_lt l 8
  have h2 := q8_lt l 16
  have h3 := q8_lt l 24
  have e0 : nv l % 18446744073709551616 = q8 l 0 := by unfold nv; omega
  have e1 : nv l / 18446744073709551616 % 18446744073709551616 = q8 l 8 := by unfold nv; omega
  have e2 : nv l / 340282366920938463463374607431768211456 % 18446744073709551616 = q8 l 16 := by unfold nv; omega
  have e3 : nv l / 6277101735386680763835789423207666416102355444464034512896 % 18446744073709551616 = q8 l 24 := by unfold nv; omega
  unfold enc encQ
  rw [e0, e1, e2, e3]
  match l, h with
  | [b0, b1, b2, b3, b4, b5, b6, b7, b8, b9, b10, b11, b12, b13, b14, b15, b16, b17, b18, b19, b20, b21, b22, b23, b24, b25, b26, b27, b28, b29, b30, b31], _ =>
    show bytes8 (num8 b0.toNat b1.toNat b2.toNat b3.toNat b4.toNat b5.toNat b6.toNat b7.toNat) ++ (bytes8 (num8 b8.toNat b9.toNat b10.toNat b11.toNat b12.toNat b13.toNat b14.toNat b15.toNat) ++ (bytes8 (num8 b16.toNat b17.toNat b18.toNat b19.toNat b20.toNat b21.toNat b22.toNat b23.toNat) ++ bytes8 (num8 b24.toNat b25.toNat b26.toNat b27.toNat b28.toNat b29.toNat b30.toNat b31.toNat))) = _
    rw [bytes8_num, bytes8_num, bytes8_num, bytes8_num]
    rfl
/-- Four words out of five, as number makes them. -/
theorem cross_or (a b D E k : Nat) (hE : E = 2 ^ k) (D' : Nat) (hD : 0 < D) (hDE : D' * E = 18446744073709551616) (ha : a < 2251799813685248) (haE : a / D < E) :
    bits .or .u64 ((a : Int) / (D : Int)) (IntKind.u64.wrap ((b : Int) * (E : Int))) = ((a / D + b % D' * E : Nat) : Int) := by
  have hD' : 0 < D' := Nat.pos_of_ne_zero fun h => by rw [h, Nat.zero_mul] at hDE; omega
  have h2 : b * E % 18446744073709551616 = b % D' * E := by rw [← hDE, Nat.mul_mod_mul_right]
  have h3 : b % D' * E < 18446744073709551616 := by rw [← h2]; exact mod64 _
  have h4 : a / D < 18446744073709551616 := Nat.lt_of_le_of_lt (Nat.div_le_self _ _) (by omega)
  have e1 : IntKind.u64.wrap ((b : Int) * (E : Int)) = ((b % D' * E : Nat) : Int) := by
    rw [show (b : Int) * (E : Int) = ((b * E : Nat) : Int) from by simp, wrap_nat, h2]
  have e2 : (a : Int) / (D : Int) = ((a / D : Nat) : Int) := by simp
  have e3 : (a / D) ||| (b % D' * E) = a / D + b % D' * E := by
    have := or_add (b % D') (a / D) k (by omega)
    rw [← hE] at this
    rw [Nat.or_comm, this, Nat.add_comm]
  rw [e1, e2, u64_or_nat _ _ h4 h3, e3]
theorem four_val (a b c d e : Nat) (ha : a < 2251799813685248) (hb : b < 2251799813685248) (hc : c < 2251799813685248) (hd : d < 2251799813685248) (he : e < 2251799813685248) :
    encQ (a + b % 8192 * 2251799813685248) (b / 8192 + c % 67108864 * 274877906944) (c / 67108864 + d % 549755813888 * 33554432) (d / 549755813888 + e % 4503599627370496 * 4096) = enc (val5 [a, b, c, d, e]) := by
  have d1 := Nat.div_add_mod b 8192
  have d2 := Nat.div_add_mod c 67108864
  have d3 := Nat.div_add_mod d 549755813888
  rw [Nat.mod_eq_of_lt (show e < 4503599627370496 by omega)]
  unfold enc
  have e0 : val5 [a, b, c, d, e] = (a + b % 8192 * 2251799813685248) + (b / 8192 + c % 67108864 * 274877906944) * 18446744073709551616 + (c / 67108864 + d % 549755813888 * 33554432) * 340282366920938463463374607431768211456 + (d / 549755813888 + e * 4096) * 6277101735386680763835789423207666416102355444464034512896 := by
    simp only [val5]
    generalize b / 8192 = b1 at *
    generalize b % 8192 = b2 at *
    generalize c / 67108864 = c1 at *
    generalize c % 67108864 = c2 at *
    generalize d / 549755813888 = d1 at *
    generalize d % 549755813888 = d2 at *
    omega
  have k0 : a + b % 8192 * 2251799813685248 < 18446744073709551616 := by omega
  have k1 : b / 8192 + c % 67108864 * 274877906944 < 18446744073709551616 := by omega
  have k2 : c / 67108864 + d % 549755813888 * 33554432 < 18446744073709551616 := by omega
  have k3 : d / 549755813888 + e * 4096 < 18446744073709551616 := by omega
  rw [e0]
  generalize a + b % 8192 * 2251799813685248 = n0 at *
  generalize b / 8192 + c % 67108864 * 274877906944 = n1 at *
  generalize c / 67108864 + d % 549755813888 * 33554432 = n2 at *
  generalize d / 549755813888 + e * 4096 = n3 at *
  clear d1 d2 d3 e0
  congr 1 <;> omega
end Go.Proofs.Ytgdimnbdnepbgaa
