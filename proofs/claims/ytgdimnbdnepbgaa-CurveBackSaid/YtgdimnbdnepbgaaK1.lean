/- Several texts in one. No statement is proved here. -/
import Derived.Test.YtgdimnbdnepbgaaBs
import Derived.Test.YtgdimnbdnepbgaaShelf
/- The field's plain functions: bits beyond 51, sums of products. No statement is proved here. -/
namespace Go.Proofs.Ytgdimnbdnepbgaa
open Go.RowKit
set_option linter.unusedVariables false
set_option linter.unusedSimpArgs false
set_option maxRecDepth 40000

theorem mod64 (x : Nat) : x % 18446744073709551616 < 18446744073709551616 := Nat.mod_lt _ (by omega)
theorem or_add (a b k : Nat) (h : b < 2 ^ k) : (a * 2 ^ k) ||| b = a * 2 ^ k + b := by
  rw [Nat.mul_comm a, Nat.two_pow_add_eq_or_of_lt h]

theorem shl_nat' (x m : Nat) : IntKind.u64.wrap ((x : Int) * (m : Int)) = ((x * m % 18446744073709551616 : Nat) : Int) := by
  rw [IntKind.wrap_u64]; omega
theorem beyond_num (H L : Nat) (hH : H < 2251799813685248) (hL : L < 18446744073709551616) :
    bits .or .u64 (IntKind.u64.wrap ((H : Int) * 8192)) ((L : Int) / 2251799813685248) = (((H * 18446744073709551616 + L) / 2251799813685248 : Nat) : Int) := by
  have e1 : IntKind.u64.wrap ((H : Int) * 8192) = ((H * 8192 : Nat) : Int) := by rw [IntKind.wrap_u64]; omega
  have e2 : (L : Int) / 2251799813685248 = ((L / 2251799813685248 : Nat) : Int) := by omega
  rw [e1, e2, u64_or_nat _ _ (by omega) (by omega)]
  congr 1
  have := or_add H (L / 2251799813685248) 13 (by omega)
  rw [show (2 : Nat) ^ 13 = 8192 from rfl] at this
  rw [this]
  omega
theorem beyond_any (H L : Nat) (w : World) (hH : H < 2251799813685248) (hL : L < 18446744073709551616) :
    Calls Try.prog 97 #[.int .u64 H, .int .u64 L] w fun e w' => e = .returned (.int .u64 ((H * 18446744073709551616 + L) / 2251799813685248 : Nat)) ∧ w' = w := by
  have h := Lib.hid (beyond_num H L hH hL)
  clear hH hL
  generalize (H * 18446744073709551616 + L) / 2251799813685248 = R at *
  go_enter Try.func97, Try.ntmps97
  go_wp2
  go_ret
  exact ⟨ret_int h.out, rfl⟩

theorem add64_runc (x y c : Nat) (hx : x < 18446744073709551616) (hy : y < 18446744073709551616) (hc : c ≤ 1) (w : World) :
    (callFunc 109 #[.int .u64 x, .int .u64 y, .int .u64 c]).run Try.prog w =
      .ok (.value (.tuple #[.int .u64 (((x + y + c) % 18446744073709551616 : Nat) : Int), .int .u64 (((x + y + c) / 18446744073709551616 : Nat) : Int)])) w := by
  rw [run_callFunc_extern Try.func109 (by kernel_rfl) (by kernel_rfl) (by kernel_rfl) (e := add64Entry) (by kernel_rfl)]
  have h := run_add64 (P := Try.prog) x y c (by omega) (by omega) (by omega) (by omega) w
  rw [h]
  simp [Result.andThen]

theorem plus_num (h l a b : Nat) (hl : l < 18446744073709551616) (ha : a < 18446744073709551616) (hb : b < 18446744073709551616)
    (ht : h * 18446744073709551616 + l + a * b < 340282366920938463463374607431768211456) :
    (l + a * b % 18446744073709551616 + 0) % 18446744073709551616 = (h * 18446744073709551616 + l + a * b) % 18446744073709551616 ∧
      (h + a * b / 18446744073709551616 + (l + a * b % 18446744073709551616 + 0) / 18446744073709551616) % 18446744073709551616 = (h * 18446744073709551616 + l + a * b) / 18446744073709551616 ∧
      (l + a * b % 18446744073709551616 + 0) / 18446744073709551616 ≤ 1 ∧ h < 18446744073709551616 ∧ a * b / 18446744073709551616 < 18446744073709551616 := by
  generalize a * b = t at *
  omega

set_option maxHeartbeats 400000 in
theorem plus_any (h l a b : Nat) (w : World) (hl : l < 18446744073709551616) (ha : a < 18446744073709551616) (hb : b < 18446744073709551616)
    (ht : h * 18446744073709551616 + l + a * b < 340282366920938463463374607431768211456) :
    Calls Try.prog 108 #[.int .u64 h, .int .u64 l, .int .u64 a, .int .u64 b] w fun e w' =>
      e = .returned (.tuple #[.int .u64 ((h * 18446744073709551616 + l + a * b) / 18446744073709551616 : Nat), .int .u64 ((h * 18446744073709551616 + l + a * b) % 18446744073709551616 : Nat)]) ∧ w' = w := by
  obtain ⟨n1, n2, n3, n4, n5⟩ := plus_num h l a b hl ha hb ht
  have CM := Lib.hid (fun w => Try.bits_Mul64 a b ha hb w)
  have A1 : ∀ w, (callFunc 109 #[.int .u64 l, .int .u64 (a * b % 18446744073709551616 : Nat), .int .u64 0]).run Try.prog w =
      .ok (.value (.tuple #[.int .u64 (((l + a * b % 18446744073709551616 + 0) % 18446744073709551616 : Nat) : Int), .int .u64 (((l + a * b % 18446744073709551616 + 0) / 18446744073709551616 : Nat) : Int)])) w :=
    fun w => add64_runc l (a * b % 18446744073709551616) 0 hl (mod64 _) (by omega) w
  have A2 := fun w => add64_runc h (a * b / 18446744073709551616) ((l + a * b % 18446744073709551616 + 0) / 18446744073709551616) n4 n5 n3 w
  rw [n1] at A1
  rw [n2] at A2
  clear n1 n2 n3 n4 n5 ht hl ha hb
  generalize (h * 18446744073709551616 + l + a * b) / 18446744073709551616 = RH at *
  generalize (h * 18446744073709551616 + l + a * b) % 18446744073709551616 = RL at *
  generalize (l + a * b % 18446744073709551616 + 0) / 18446744073709551616 = cy at *
  generalize a * b / 18446744073709551616 = mh at *
  generalize a * b % 18446744073709551616 = ml at *
  go_enter Try.func108, Try.ntmps108
  go_wp2_with ((go_at_call 107); refine (CM.out _).mono ?_; rintro e w' ⟨rfl, rfl⟩)
  exact bodyPost_ret (results_tmp2 rfl _ _ _) rfl ⟨rfl, rfl⟩
end Go.Proofs.Ytgdimnbdnepbgaa
/- The field's sums of products over words that lie in memory. No statement is proved here. -/
namespace Go.Proofs.Ytgdimnbdnepbgaa
open Go.RowKit
set_option linter.unusedVariables false
set_option linter.unusedSimpArgs false
set_option maxRecDepth 40000

theorem plus_at (t a b : Nat) (w : World) (ha : a < 18446744073709551616) (hb : b < 18446744073709551616)
    (ht : t + a * b < 340282366920938463463374607431768211456) :
    Calls Try.prog 108 #[.int .u64 (t / 18446744073709551616 : Nat), .int .u64 (t % 18446744073709551616 : Nat), .int .u64 a, .int .u64 b] w fun e w' =>
      e = .returned (.tuple #[.int .u64 ((t + a * b) / 18446744073709551616 : Nat), .int .u64 ((t + a * b) % 18446744073709551616 : Nat)]) ∧ w' = w := by
  have e : t / 18446744073709551616 * 18446744073709551616 + t % 18446744073709551616 = t := by omega
  have h := plus_any (t / 18446744073709551616) (t % 18446744073709551616) a b w (mod64 _) ha hb (by rw [e]; exact ht)
  rw [e] at h
  exact h

set_option maxHeartbeats 800000 in
theorem sum_any (g a0 a1 a2 a3 a4 b0 b1 b2 b3 b4 : Nat) (w : World)
    (c0 : w.cell? ⟨g, 0, none⟩ = some (.int .u64 a0)) (c1 : w.cell? ⟨g, 1, none⟩ = some (.int .u64 a1)) (c2 : w.cell? ⟨g, 2, none⟩ = some (.int .u64 a2))
    (c3 : w.cell? ⟨g, 3, none⟩ = some (.int .u64 a3)) (c4 : w.cell? ⟨g, 4, none⟩ = some (.int .u64 a4))
    (ha0 : a0 < 18446744073709551616) (ha1 : a1 < 18446744073709551616) (ha2 : a2 < 18446744073709551616) (ha3 : a3 < 18446744073709551616) (ha4 : a4 < 18446744073709551616)
    (hb0 : b0 < 18446744073709551616) (hb1 : b1 < 18446744073709551616) (hb2 : b2 < 18446744073709551616) (hb3 : b3 < 18446744073709551616) (hb4 : b4 < 18446744073709551616)
    (ht : a0 * b0 + a1 * b1 + a2 * b2 + a3 * b3 + a4 * b4 < 340282366920938463463374607431768211456) :
    Calls Try.prog 96 #[.pointer (some ⟨g, 0, none⟩), .int .u64 b0, .int .u64 b1, .int .u64 b2, .int .u64 b3, .int .u64 b4] w fun e w' =>
      e = .returned (.tuple #[.int .u64 ((a0 * b0 + a1 * b1 + a2 * b2 + a3 * b3 + a4 * b4) / 18446744073709551616 : Nat), .int .u64 ((a0 * b0 + a1 * b1 + a2 * b2 + a3 * b3 + a4 * b4) % 18446744073709551616 : Nat)]) ∧ w' = w := by
  have M0 := Lib.hid (fun w => Try.bits_Mul64 a0 b0 ha0 hb0 w)
  have M1 := Lib.hid (fun w => plus_at (a0 * b0) a1 b1 w ha1 hb1 (by omega))
  have M2 := Lib.hid (fun w => plus_at (a0 * b0 + a1 * b1) a2 b2 w ha2 hb2 (by omega))
  have M3 := Lib.hid (fun w => plus_at (a0 * b0 + a1 * b1 + a2 * b2) a3 b3 w ha3 hb3 (by omega))
  have M4 := Lib.hid (fun w => plus_at (a0 * b0 + a1 * b1 + a2 * b2 + a3 * b3) a4 b4 w ha4 hb4 ht)
  clear ha0 ha1 ha2 ha3 ha4 hb0 hb1 hb2 hb3 hb4 ht
  generalize a0 * b0 + a1 * b1 + a2 * b2 + a3 * b3 + a4 * b4 = t4 at *
  generalize a0 * b0 + a1 * b1 + a2 * b2 + a3 * b3 = t3 at *
  generalize a0 * b0 + a1 * b1 + a2 * b2 = t2 at *
  generalize a0 * b0 + a1 * b1 = t1 at *
  generalize a0 * b0 = t0 at *
  generalize t0 / 18446744073709551616 = h0 at *
  generalize t0 % 18446744073709551616 = l0 at *
  generalize t1 / 18446744073709551616 = h1 at *
  generalize t1 % 18446744073709551616 = l1 at *
  generalize t2 / 18446744073709551616 = h2 at *
  generalize t2 % 18446744073709551616 = l2 at *
  generalize t3 / 18446744073709551616 = h3 at *
  generalize t3 % 18446744073709551616 = l3 at *
  generalize t4 / 18446744073709551616 = h4 at *
  generalize t4 % 18446744073709551616 = l4 at *
  go_enter Try.func96, Try.ntmps96
  go_wp2_with fail
  refine (M0.out _).mono ?_
  rintro e w' ⟨rfl, rfl⟩
  go_wp2_with fail
  refine (M1.out _).mono ?_
  rintro e w' ⟨rfl, rfl⟩
  go_wp2_with fail
  refine (M2.out _).mono ?_
  rintro e w' ⟨rfl, rfl⟩
  go_wp2_with fail
  refine (M3.out _).mono ?_
  rintro e w' ⟨rfl, rfl⟩
  go_wp2_with fail
  refine (M4.out _).mono ?_
  rintro e w' ⟨rfl, rfl⟩
  go_wp2_with fail
  exact bodyPost_ret (results_tmp2 rfl _ _ _) rfl ⟨rfl, rfl⟩
end Go.Proofs.Ytgdimnbdnepbgaa
/- The field's reader of eight bytes. No statement is proved here. -/
namespace Go.Proofs.Ytgdimnbdnepbgaa
open Go.RowKit
set_option linter.unusedVariables false
set_option linter.unusedSimpArgs false
set_option maxRecDepth 40000

def num8 (b0 b1 b2 b3 b4 b5 b6 b7 : Nat) : Nat := b0 + b1 * 256 + b2 * 65536 + b3 * 16777216 + b4 * 4294967296 + b5 * 1099511627776 + b6 * 281474976710656 + b7 * 72057594037927936

theorem or_step (x b k m : Nat) (hm : m = 2 ^ k) (hx : x < m) (hb : b < 256) (hk : m * 256 ≤ 18446744073709551616) :
    bits .or .u64 (x : Int) (IntKind.u64.wrap (IntKind.u64.wrap (b : Int) * (m : Int))) = ((x + b * m : Nat) : Int) := by
  have hbm : b * m ≤ 255 * m := Nat.mul_le_mul_right m (by omega)
  have e1 : IntKind.u64.wrap (b : Int) = (b : Int) := by rw [IntKind.wrap_u64]; omega
  have e2 : IntKind.u64.wrap ((b : Int) * (m : Int)) = ((b * m : Nat) : Int) := by
    rw [show (b : Int) * (m : Int) = ((b * m : Nat) : Int) from by simp, IntKind.wrap_u64]
    omega
  rw [e1, e2, u64_or_nat _ _ (by omega) (by omega)]
  congr 1
  have := or_add b x k (by omega)
  rw [← hm] at this
  rw [Nat.or_comm, this, Nat.add_comm]

theorem quad_num (b0 b1 b2 b3 b4 b5 b6 b7 : Nat) (h : b0 < 256 ∧ b1 < 256 ∧ b2 < 256 ∧ b3 < 256 ∧ b4 < 256 ∧ b5 < 256 ∧ b6 < 256 ∧ b7 < 256) :
    bits .or .u64 (bits .or .u64 (bits .or .u64 (bits .or .u64 (bits .or .u64 (bits .or .u64 (bits .or .u64 (IntKind.u64.wrap b0)
      (IntKind.u64.wrap (IntKind.u64.wrap b1 * 256))) (IntKind.u64.wrap (IntKind.u64.wrap b2 * 65536))) (IntKind.u64.wrap (IntKind.u64.wrap b3 * 16777216)))
      (IntKind.u64.wrap (IntKind.u64.wrap b4 * 4294967296))) (IntKind.u64.wrap (IntKind.u64.wrap b5 * 1099511627776))) (IntKind.u64.wrap (IntKind.u64.wrap b6 * 281474976710656)))
      (IntKind.u64.wrap (IntKind.u64.wrap b7 * 72057594037927936)) = ((num8 b0 b1 b2 b3 b4 b5 b6 b7 : Nat) : Int) := by
  obtain ⟨h0, h1, h2, h3, h4, h5, h6, h7⟩ := h
  have e0 : IntKind.u64.wrap (b0 : Int) = (b0 : Int) := by rw [IntKind.wrap_u64]; omega
  have s1 := or_step b0 b1 8 256 rfl (by omega) h1 (by omega)
  have s2 := or_step (b0 + b1 * 256) b2 16 65536 rfl (by omega) h2 (by omega)
  have s3 := or_step (b0 + b1 * 256 + b2 * 65536) b3 24 16777216 rfl (by omega) h3 (by omega)
  have s4 := or_step (b0 + b1 * 256 + b2 * 65536 + b3 * 16777216) b4 32 4294967296 rfl (by omega) h4 (by omega)
  have s5 := or_step (b0 + b1 * 256 + b2 * 65536 + b3 * 16777216 + b4 * 4294967296) b5 40 1099511627776 rfl (by omega) h5 (by omega)
  have s6 := or_step (b0 + b1 * 256 + b2 * 65536 + b3 * 16777216 + b4 * 4294967296 + b5 * 1099511627776) b6 48 281474976710656 rfl (by omega) h6 (by omega)
  have s7 := or_step (b0 + b1 * 256 + b2 * 65536 + b3 * 16777216 + b4 * 4294967296 + b5 * 1099511627776 + b6 * 281474976710656) b7 56 72057594037927936 rfl (by omega) h7 (by omega)
  rw [e0]
  refine Eq.trans ?_ s7
  refine congrArg (fun z => bits .or .u64 z _) (Eq.trans ?_ s6)
  refine congrArg (fun z => bits .or .u64 z _) (Eq.trans ?_ s5)
  refine congrArg (fun z => bits .or .u64 z _) (Eq.trans ?_ s4)
  refine congrArg (fun z => bits .or .u64 z _) (Eq.trans ?_ s3)
  refine congrArg (fun z => bits .or .u64 z _) (Eq.trans ?_ s2)
  exact congrArg (fun z => bits .or .u64 z _) s1

theorem num8_lt (b0 b1 b2 b3 b4 b5 b6 b7 : Nat) (h : b0 < 256 ∧ b1 < 256 ∧ b2 < 256 ∧ b3 < 256 ∧ b4 < 256 ∧ b5 < 256 ∧ b6 < 256 ∧ b7 < 256) : num8 b0 b1 b2 b3 b4 b5 b6 b7 < 18446744073709551616 := by
  unfold num8
  omega

set_option maxHeartbeats 800000 in
theorem quad_any (g o c b0 b1 b2 b3 b4 b5 b6 b7 : Nat) (w : World)
    (c0 : w.cell? ⟨g, o, none⟩ = some (.int .u8 b0)) (c1 : w.cell? ⟨g, o + 1, none⟩ = some (.int .u8 b1)) (c2 : w.cell? ⟨g, o + 2, none⟩ = some (.int .u8 b2))
    (c3 : w.cell? ⟨g, o + 3, none⟩ = some (.int .u8 b3)) (c4 : w.cell? ⟨g, o + 4, none⟩ = some (.int .u8 b4)) (c5 : w.cell? ⟨g, o + 5, none⟩ = some (.int .u8 b5))
    (c6 : w.cell? ⟨g, o + 6, none⟩ = some (.int .u8 b6)) (c7 : w.cell? ⟨g, o + 7, none⟩ = some (.int .u8 b7))
    (h0 : b0 < 256) (h1 : b1 < 256) (h2 : b2 < 256) (h3 : b3 < 256) (h4 : b4 < 256) (h5 : b5 < 256) (h6 : b6 < 256) (h7 : b7 < 256) :
    Calls Try.prog 105 #[.slice (some ⟨g, o, none⟩) 8 c] w (Gives (.int .u64 (num8 b0 b1 b2 b3 b4 b5 b6 b7)) w) := by
  have H := Lib.hid (And.intro h0 (And.intro h1 (And.intro h2 (And.intro h3 (And.intro h4 (And.intro h5 (And.intro h6 h7)))))))
  clear h0 h1 h2 h3 h4 h5 h6 h7
  go_enter Try.func105, Try.ntmps105
  go_wp2_with fail
  go_quiet (fail)
  go_wp2
  go_ret
  refine ⟨ret_int ?_, below_drewN' (Below.refl _ w) _⟩
  exact quad_num b0 b1 b2 b3 b4 b5 b6 b7 H.out
end Go.Proofs.Ytgdimnbdnepbgaa
/- The field's split of 32 bytes. No statement is proved here. -/
namespace Go.Proofs.Ytgdimnbdnepbgaa
open Go.RowKit
set_option linter.unusedVariables false
set_option linter.unusedSimpArgs false
set_option maxRecDepth 40000

/-- Byte i of l. -/
def bt (l : List UInt8) (i : Nat) : Nat := (l.getD i 0).toNat
theorem bt_lt (l : List UInt8) (i : Nat) : bt l i < 256 := (l.getD i 0).toNat_lt
/-- The eight bytes of l from k on, as a number. -/
def q8 (l : List UInt8) (k : Nat) : Nat := num8 (bt l k) (bt l (k + 1)) (bt l (k + 2)) (bt l (k + 3)) (bt l (k + 4)) (bt l (k + 5)) (bt l (k + 6)) (bt l (k + 7))
theorem q8_lt (l : List UInt8) (k : Nat) : q8 l k < 18446744073709551616 :=
  num8_lt _ _ _ _ _ _ _ _ ⟨bt_lt _ _, bt_lt _ _, bt_lt _ _, bt_lt _ _, bt_lt _ _, bt_lt _ _, bt_lt _ _, bt_lt _ _⟩
/-- A number's bytes lie in row g. -/
def NumAt (w : World) (g : Nat) (l : List UInt8) : Prop := l.length = 32 ∧ ∃ t, w.heap[g]? = some (.cells (bcs l).toArray t (0, 0))
theorem NumAt.cell {w : World} {g : Nat} {l : List UInt8} (h : NumAt w g l) (i : Nat) (hi : i < 32) : w.cell? ⟨g, i, none⟩ = some (.int .u8 (bt l i)) := by
  obtain ⟨hl, t, ht⟩ := h
  refine row_cells ht i _ ?_
  rw [List.toList_toArray, bcs_get]
  unfold bt
  rw [List.getD_eq_getElem?_getD, List.getElem?_eq_getElem (by omega)]
  rfl
theorem NumAt.lt {w : World} {g : Nat} {l : List UInt8} (h : NumAt w g l) : g < w.heap.size := by
  obtain ⟨_, t, ht⟩ := h
  exact (Array.getElem?_eq_some_iff.1 ht).1
theorem NumAt.below {w w' : World} {g B : Nat} {l : List UInt8} (h : NumAt w g l) (hb : Below B w w') (hg : g < B) : NumAt w' g l := by
  obtain ⟨hl, t, ht⟩ := h
  exact ⟨hl, t, (hb.block g hg).trans ht⟩
theorem NumAt.grown {w w' : World} {g : Nat} {l : List UInt8} {row : Option Nat} (h : NumAt w g l) (hb : w.grownBy w' row) (hg : some g ≠ row) : NumAt w' g l := by
  have := h.lt
  obtain ⟨hl, t, ht⟩ := h
  exact ⟨hl, t, (hb.block g this hg).trans ht⟩
theorem quad_row {w : World} {g : Nat} {l : List UInt8} (h : NumAt w g l) (k c : Nat) (hk : k ≤ 24) :
    Calls Try.prog 105 #[.slice (some ⟨g, k, none⟩) 8 c] w (Gives (.int .u64 (q8 l k)) w) :=
  quad_any g k c _ _ _ _ _ _ _ _ w (h.cell k (by omega)) (h.cell (k + 1) (by omega)) (h.cell (k + 2) (by omega)) (h.cell (k + 3) (by omega)) (h.cell (k + 4) (by omega)) (h.cell (k + 5) (by omega)) (h.cell (k + 6) (by omega)) (h.cell (k + 7) (by omega))
    (bt_lt _ _) (bt_lt _ _) (bt_lt _ _) (bt_lt _ _) (bt_lt _ _) (bt_lt _ _) (bt_lt _ _) (bt_lt _ _)

theorem under91 : Try.prog.underlying 91 = some (.array 4 24) := by kernel_rfl
theorem size91 : (Try.prog.info? 91).map (·.size) = some 4 := by kernel_rfl
theorem zero91 (w : World) : (zeroValue 91).run Try.prog w = .ok (.agg (zw 4)) w := by kernel_rfl
theorem size24 : (Try.prog.info? 24).map (·.size) = some 1 := by kernel_rfl

/-- The memory of split: the words so far, behind the number's row. -/
structure Sp (g : Nat) (l : List UInt8) (w : World) (o : List Nat) (w' : World) : Prop where
  num : NumAt w' g l
  old : g < w.heap.size
  row : w'.heap[w.heap.size]? = some (.cells (ucs o).toArray 91 (0, 0))
  lt : w.heap.size < w'.heap.size
  bel : Below w.heap.size w w'
theorem Sp.call {g : Nat} {l : List UInt8} {w : World} {o : List Nat} {w' w'' : World} (h : Sp g l w o w') (hb : Below w'.heap.size w' w'') : Sp g l w o w'' :=
  ⟨h.num.below hb h.num.lt, h.old, (hb.block _ h.lt).trans h.row, Nat.lt_of_lt_of_le h.lt hb.size, h.bel.trans (hb.mono (Nat.le_of_lt h.lt))⟩
theorem Sp.set {g : Nat} {l : List UInt8} {w : World} {o o' : List Nat} {w' w'' : World} (h : Sp g l w o w') (hg : w'.grownBy w'' (some w.heap.size)) (hh : w''.heap[w.heap.size]? = some (.cells (ucs o').toArray 91 (0, 0))) : Sp g l w o' w'' :=
  ⟨h.num.grown hg (by have := h.old; simp; omega), h.old, hh, (Array.getElem?_eq_some_iff.1 hh).1, h.bel.grown hg (by have := h.lt; omega) (fun r hr => by injection hr; omega)⟩

set_option maxHeartbeats 800000 in
theorem split_any (g : Nat) (l : List UInt8) (w : World) (h : NumAt w g l) :
    Calls Try.prog 92 #[.pointer (some ⟨g, 0, none⟩)] w (Gives (.agg (ucs [q8 l 0, q8 l 8, q8 l 16, q8 l 24]).toArray) w) := by
  have HO : Hid (g < w.heap.size) := h.lt
  have HN := Lib.hid h
  clear h
  have M0 : Hid (∀ (w' : World) (c : Nat), NumAt w' g l → Calls Try.prog 105 #[.slice (some ⟨g, 0, none⟩) 8 c] w' (Gives (.int .u64 (q8 l 0)) w')) := fun w' c h => quad_row h 0 c (by omega)
  have M1 : Hid (∀ (w' : World) (c : Nat), NumAt w' g l → Calls Try.prog 105 #[.slice (some ⟨g, 8, none⟩) 8 c] w' (Gives (.int .u64 (q8 l 8)) w')) := fun w' c h => quad_row h 8 c (by omega)
  have M2 : Hid (∀ (w' : World) (c : Nat), NumAt w' g l → Calls Try.prog 105 #[.slice (some ⟨g, 16, none⟩) 8 c] w' (Gives (.int .u64 (q8 l 16)) w')) := fun w' c h => quad_row h 16 c (by omega)
  have M3 : Hid (∀ (w' : World) (c : Nat), NumAt w' g l → Calls Try.prog 105 #[.slice (some ⟨g, 24, none⟩) 8 c] w' (Gives (.int .u64 (q8 l 24)) w')) := fun w' c h => quad_row h 24 c (by omega)
  generalize q8 l 0 = q0 at *
  generalize q8 l 8 = q1 at *
  generalize q8 l 16 = q2 at *
  generalize q8 l 24 = q3 at *
  go_enter Try.func92, Try.ntmps92
  go_wp2_with (with_reducible refine wpList_alloc_row rfl 91 rfl (.agg (zw 4)) zero91 ?_; intro w0 hh0 hz0 hg0; have HZ0 := Lib.hid hz0; clear hz0)
  have S : Hid (Sp g l w [0, 0, 0, 0] w0) :=
    ⟨HN.out.grown hg0 (by simp), HO.out, hh0, by rw [HZ0.out]; omega, (Below.refl _ w).grown hg0 (by omega) (by simp)⟩
  clear hh0 hg0 HZ0 HN HO
  refine (M0.out _ _ S.out.num).mono ?_
  rintro e v0 ⟨rfl, hb⟩
  have S0 := Lib.hid (S.out.call hb)
  clear hb S M0
  go_wp2_with ((with_reducible show wpList _ _ _ (⟨none, .store 24 (.tmp 7) (.tmp 6), _, _, _, _⟩ :: _) _ _); refine wpList_store_one rfl 24 (.tmp 7) (.tmp 6) rfl w.heap.size 0 rfl .u64 (q0 : Int) rfl 91 _ S0.out.row size24 (by simp [ucs_len]) ?_; intro u0 hh hg hz; clear hz; rw [ucs_set] at hh; have S := Lib.hid (S0.out.set (o' := [q0, 0, 0, 0]) hg hh); clear hh hg S0)
  refine (M1.out _ _ S.out.num).mono ?_
  rintro e v1 ⟨rfl, hb⟩
  have S1 := Lib.hid (S.out.call hb)
  clear hb S M1
  go_wp2_with ((with_reducible show wpList _ _ _ (⟨none, .store 24 (.tmp 12) (.tmp 11), _, _, _, _⟩ :: _) _ _); refine wpList_store_one rfl 24 (.tmp 12) (.tmp 11) rfl w.heap.size 1 rfl .u64 (q1 : Int) rfl 91 _ S1.out.row size24 (by simp [ucs_len]) ?_; intro u1 hh hg hz; clear hz; rw [ucs_set] at hh; have S := Lib.hid (S1.out.set (o' := [q0, q1, 0, 0]) hg hh); clear hh hg S1)
  refine (M2.out _ _ S.out.num).mono ?_
  rintro e v2 ⟨rfl, hb⟩
  have S2 := Lib.hid (S.out.call hb)
  clear hb S M2
  go_wp2_with ((with_reducible show wpList _ _ _ (⟨none, .store 24 (.tmp 17) (.tmp 16), _, _, _, _⟩ :: _) _ _); refine wpList_store_one rfl 24 (.tmp 17) (.tmp 16) rfl w.heap.size 2 rfl .u64 (q2 : Int) rfl 91 _ S2.out.row size24 (by simp [ucs_len]) ?_; intro u2 hh hg hz; clear hz; rw [ucs_set] at hh; have S := Lib.hid (S2.out.set (o' := [q0, q1, q2, 0]) hg hh); clear hh hg S2)
  refine (M3.out _ _ S.out.num).mono ?_
  rintro e v3 ⟨rfl, hb⟩
  have S3 := Lib.hid (S.out.call hb)
  clear hb S M3
  go_wp2_with (first | ((with_reducible show wpList _ _ _ (⟨none, .store 24 (.tmp 22) (.tmp 21), _, _, _, _⟩ :: _) _ _); refine wpList_store_one rfl 24 (.tmp 22) (.tmp 21) rfl w.heap.size 3 rfl .u64 (q3 : Int) rfl 91 _ S3.out.row size24 (by simp [ucs_len]) ?_; intro u3 hh hg hz; clear hz; rw [ucs_set] at hh; have S := Lib.hid (S3.out.set (o' := [q0, q1, q2, q3]) hg hh); clear hh hg S3; have HC : Hid (∀ i u, (ucs [q0, q1, q2, q3])[i]? = some u → u3.cell? ⟨w.heap.size, 0 + i, none⟩ = some u) := fun i u hu => by rw [Nat.zero_add]; exact row_cells S.out.row i u (by simpa using hu)) | ((with_reducible show wpList _ _ _ (⟨_, .load 91 (.tmp 2), _, _, _, _⟩ :: _) _ _); refine wpList_load_arr rfl 91 (.tmp 2) rfl w.heap.size 0 rfl (ucs [q0, q1, q2, q3]) HC.out _ under91 rfl size91 ?_) | ((with_reducible show wpList _ _ _ (⟨none, .store 91 (.tmp 2) (.tmp 23), _, _, _, _⟩ :: _) _ _); refine wpList_store_all rfl 91 (.tmp 2) (.tmp 23) rfl w.heap.size rfl (ucs [q0, q1, q2, q3]).toArray rfl 91 _ S.out.row size91 rfl (ucs_one _) ?_; intro w3 hh3 hg3 hz3; have S4 := Lib.hid (S.out.set hg3 hh3); clear hh3 hg3 hz3))
  refine bodyPost_ret (results_cell_row rfl _ _ w.heap.size 91 (ucs [q0, q1, q2, q3]).toArray _ _ rfl S4.out.row under91 rfl size91) rfl ?_
  exact ⟨rfl, S4.out.bel⟩
end Go.Proofs.Ytgdimnbdnepbgaa
/- The field's read: 32 bytes become five words. No statement is proved here. -/
namespace Go.Proofs.Ytgdimnbdnepbgaa
open Go.RowKit
set_option linter.unusedVariables false
set_option linter.unusedSimpArgs false
set_option maxRecDepth 40000

/-- Words o lie in row g. -/
def WAt (w : World) (g : Nat) (o : List Nat) : Prop := o.length = 5 ∧ ∃ t, w.heap[g]? = some (.cells (ucs o).toArray t (0, 0))
/-- What a method that changes the words at g leaves. -/
def Sets (g : Nat) (o : List Nat) (w : World) (e : Ending) (w' : World) : Prop := e = .returned (.tuple #[]) ∧ WAt w' g o ∧ Keeps (· = g) w w'
theorem WAt.lt {w : World} {g : Nat} {o : List Nat} (h : WAt w g o) : g < w.heap.size := by
  obtain ⟨_, t, ht⟩ := h
  exact (Array.getElem?_eq_some_iff.1 ht).1
theorem WAt.below {w w' : World} {g B : Nat} {o : List Nat} (h : WAt w g o) (hb : Below B w w') (hg : g < B) : WAt w' g o := by
  obtain ⟨hl, t, ht⟩ := h
  exact ⟨hl, t, (hb.block g hg).trans ht⟩
theorem WAt.grown {w w' : World} {g : Nat} {o : List Nat} {row : Option Nat} (h : WAt w g o) (hb : w.grownBy w' row) (hg : some g ≠ row) : WAt w' g o := by
  have := h.lt
  obtain ⟨hl, t, ht⟩ := h
  exact ⟨hl, t, (hb.block g this hg).trans ht⟩
theorem WAt.keeps {G : Nat → Prop} {w w' : World} {g : Nat} {o : List Nat} (h : WAt w g o) (hk : Keeps G w w') (hg : ¬ G g) : WAt w' g o := by
  have := h.lt
  obtain ⟨hl, t, ht⟩ := h
  exact ⟨hl, t, (hk.block g this hg).trans ht⟩
theorem NumAt.keeps {G : Nat → Prop} {w w' : World} {g : Nat} {l : List UInt8} (h : NumAt w g l) (hk : Keeps G w w') (hg : ¬ G g) : NumAt w' g l := by
  have := h.lt
  obtain ⟨hl, t, ht⟩ := h
  exact ⟨hl, t, (hk.block g this hg).trans ht⟩
theorem WAt.cell {w : World} {g : Nat} {o : List Nat} (h : WAt w g o) (i : Nat) (hi : i < 5) : w.cell? ⟨g, i, none⟩ = some (.int .u64 (o.getD i 0 : Nat)) := by
  obtain ⟨hl, t, ht⟩ := h
  exact word_cell ht i (by omega)

/-- The memory of read. -/
structure Rd (g : Nat) (w : World) (gq q0 q1 q2 q3 : Nat) (o : List Nat) (w' : World) : Prop where
  len : o.length = 5
  row : ∃ t, w'.heap[g]? = some (.cells (ucs o).toArray t (0, 0))
  quads : w'.heap[gq]? = some (.cells (ucs [q0, q1, q2, q3]).toArray 91 (0, 0))
  old : g < w.heap.size
  new : w.heap.size ≤ gq
  keeps : Keeps (· = g) w w'
theorem Rd.set {g : Nat} {w : World} {gq q0 q1 q2 q3 : Nat} {o : List Nat} {w' w'' : World} {t : TypeId} (h : Rd g w gq q0 q1 q2 q3 o w') (hg : w'.grownBy w'' (some g)) (i x : Nat) (hh : w''.heap[g]? = some (.cells (ucs (o.set i x)).toArray t (0, 0))) : Rd g w gq q0 q1 q2 q3 (o.set i x) w'' :=
  ⟨by rw [List.length_set]; exact h.len, ⟨t, hh⟩, (hg.block _ (Array.getElem?_eq_some_iff.1 h.quads).1 (by have := h.old; have := h.new; simp; omega)).trans h.quads, h.old, h.new, h.keeps.trans (Keeps.of_grown hg (fun r hr => by injection hr with hr; exact hr.symm))⟩
theorem Rd.drewN {g : Nat} {w : World} {gq q0 q1 q2 q3 : Nat} {o : List Nat} {w' : World} (h : Rd g w gq q0 q1 q2 q3 o w') (n : Nat) : Rd g w gq q0 q1 q2 q3 o (w'.drewN n) :=
  ⟨h.len, h.row, h.quads, h.old, h.new, h.keeps.trans (Keeps.drewN _ _ _)⟩
theorem Rd.q {g : Nat} {w : World} {gq q0 q1 q2 q3 : Nat} {o : List Nat} {w' : World} (h : Rd g w gq q0 q1 q2 q3 o w') :
    w'.cell? ⟨gq, 0, none⟩ = some (.int .u64 q0) ∧ w'.cell? ⟨gq, 1, none⟩ = some (.int .u64 q1) ∧ w'.cell? ⟨gq, 2, none⟩ = some (.int .u64 q2) ∧ w'.cell? ⟨gq, 3, none⟩ = some (.int .u64 q3) :=
  ⟨word_cell h.quads 0 (by simp), word_cell h.quads 1 (by simp), word_cell h.quads 2 (by simp), word_cell h.quads 3 (by simp)⟩

theorem five_set (o : List Nat) (r0 r1 r2 r3 r4 : Nat) (h : o.length = 5) : ((((o.set 0 r0).set 1 r1).set 2 r2).set 3 r3).set 4 r4 = [r0, r1, r2, r3, r4] := by
  match o, h with
  | [a, b, c, d, e], _ => rfl

set_option maxHeartbeats 1600000 in
theorem read_core (g ga : Nat) (o : List Nat) (l : List UInt8) (w : World) (q0 q1 q2 q3 r0 r1 r2 r3 r4 : Nat) (HW : Hid (WAt w g o)) (HN : Hid (NumAt w ga l))
    (M0 : Hid (∀ w', NumAt w' ga l → Calls Try.prog 92 #[.pointer (some ⟨ga, 0, none⟩)] w' (Gives (.agg (ucs [q0, q1, q2, q3]).toArray) w')))
    (R0 : Hid (bits .and .u64 (q0 : Int) 2251799813685247 = (r0 : Int)))
    (R1 : Hid (bits .and .u64 (bits .or .u64 ((q0 : Int) / 2251799813685248) (IntKind.u64.wrap ((q1 : Int) * 8192))) 2251799813685247 = (r1 : Int)))
    (R2 : Hid (bits .and .u64 (bits .or .u64 ((q1 : Int) / 274877906944) (IntKind.u64.wrap ((q2 : Int) * 67108864))) 2251799813685247 = (r2 : Int)))
    (R3 : Hid (bits .and .u64 (bits .or .u64 ((q2 : Int) / 33554432) (IntKind.u64.wrap ((q3 : Int) * 549755813888))) 2251799813685247 = (r3 : Int)))
    (R4 : Hid ((q3 : Int) / 4096 = (r4 : Int))) :
    Calls Try.prog 65 #[.pointer (some ⟨g, 0, none⟩), .pointer (some ⟨ga, 0, none⟩)] w (Sets g [r0, r1, r2, r3, r4] w) := by
  go_enter Try.func65, Try.ntmps65
  go_wp2_with fail
  refine (M0.out _ HN.out).mono ?_
  rintro e w1 ⟨rfl, hb⟩
  have HB := Lib.hid hb
  clear hb M0 HN
  go_wp2_with (first | (with_reducible refine wpList_alloc_row rfl 91 rfl (.agg (zw 4)) zero91 ?_; intro w2 hh2 hz2 hg2; have HZ2 := Lib.hid hz2; have HG2 := Lib.hid hg2; have HH2 := Lib.hid hh2; clear hz2 hg2 hh2) | ((with_reducible show wpList _ _ _ (⟨none, .store 91 (.tmp 4) (.tmp 6), _, _, _, _⟩ :: _) _ _); refine wpList_store_all rfl 91 (.tmp 4) (.tmp 6) rfl w1.heap.size rfl (ucs [q0, q1, q2, q3]).toArray rfl 91 _ HH2.out size91 rfl (ucs_one _) ?_; intro w3 hh3 hg3 hz3; have HH3 := Lib.hid hh3; have HG3 := Lib.hid hg3; clear hh3 hg3 hz3))
  have S : Hid (Rd g w w1.heap.size q0 q1 q2 q3 o w3) := by
    have h1 := HW.out.lt
    have h2 := HB.out.size
    obtain ⟨hl, t, ht⟩ := ((HW.out.below HB.out h1).grown HG2.out (by simp)).grown HG3.out (by simp; omega)
    refine ⟨hl, ⟨t, ht⟩, HH3.out, h1, h2, ?_⟩
    have h3 := HZ2.out
    have k1 : Below w.heap.size w w3 := (HB.out.grown HG2.out h2 (by simp)).grown HG3.out (by omega) (fun r hr => by injection hr; omega)
    exact Keeps.of_below k1
  clear HW HB HH2 HG2 HZ2 HH3 HG3
  generalize w1.heap.size = gq at *
  have HL : Hid (o.length = 5) := S.out.len
  obtain ⟨c0, c1, c2, c3⟩ := S.out.q
  go_still_tail 6, (by kernel_rfl)
  clear c0 c1 c2 c3
  have S0 : Hid (Rd g w gq q0 q1 q2 q3 _ { heap := w3.heap, tape := w3.tape, drawn := w3.drawn + 1, os := w3.os, output := w3.output }) := S.out.drewN 1
  clear S
  generalize ({ heap := w3.heap, tape := w3.tape, drawn := w3.drawn + 1, os := w3.os, output := w3.output } : World) = x0 at *
  obtain ⟨t0, ht0⟩ := S0.out.row
  refine wpList_store_one rfl 24 (.tmp 12) (.tmp 10) rfl g 0 rfl .u64 _ rfl t0 _ ht0 size24 (by have := S0.out.len; simp only [List.size_toArray, ucs_len]; omega) ?_
  intro y0 hh hg hz
  rw [R0.out, ucs_set] at hh
  have S := Lib.hid (S0.out.set hg 0 r0 hh)
  clear hh hg hz ht0 S0 R0
  go_wp2_with fail
  obtain ⟨c0, c1, c2, c3⟩ := S.out.q
  go_still_tail 11, (by kernel_rfl)
  clear c0 c1 c2 c3
  have S1 : Hid (Rd g w gq q0 q1 q2 q3 _ { heap := y0.heap, tape := y0.tape, drawn := y0.drawn + 1, os := y0.os, output := y0.output }) := S.out.drewN 1
  clear S
  generalize ({ heap := y0.heap, tape := y0.tape, drawn := y0.drawn + 1, os := y0.os, output := y0.output } : World) = x1 at *
  obtain ⟨t1, ht1⟩ := S1.out.row
  refine wpList_store_one rfl 24 (.tmp 23) (.tmp 21) rfl g 1 rfl .u64 _ rfl t1 _ ht1 size24 (by have := S1.out.len; simp only [List.size_toArray, ucs_len]; omega) ?_
  intro y1 hh hg hz
  rw [R1.out, ucs_set] at hh
  have S := Lib.hid (S1.out.set hg 1 r1 hh)
  clear hh hg hz ht1 S1 R1
  go_wp2_with fail
  obtain ⟨c0, c1, c2, c3⟩ := S.out.q
  go_still_tail 11, (by kernel_rfl)
  clear c0 c1 c2 c3
  have S2 : Hid (Rd g w gq q0 q1 q2 q3 _ { heap := y1.heap, tape := y1.tape, drawn := y1.drawn + 1, os := y1.os, output := y1.output }) := S.out.drewN 1
  clear S
  generalize ({ heap := y1.heap, tape := y1.tape, drawn := y1.drawn + 1, os := y1.os, output := y1.output } : World) = x2 at *
  obtain ⟨t2, ht2⟩ := S2.out.row
  refine wpList_store_one rfl 24 (.tmp 34) (.tmp 32) rfl g 2 rfl .u64 _ rfl t2 _ ht2 size24 (by have := S2.out.len; simp only [List.size_toArray, ucs_len]; omega) ?_
  intro y2 hh hg hz
  rw [R2.out, ucs_set] at hh
  have S := Lib.hid (S2.out.set hg 2 r2 hh)
  clear hh hg hz ht2 S2 R2
  go_wp2_with fail
  obtain ⟨c0, c1, c2, c3⟩ := S.out.q
  go_still_tail 11, (by kernel_rfl)
  clear c0 c1 c2 c3
  have S3 : Hid (Rd g w gq q0 q1 q2 q3 _ { heap := y2.heap, tape := y2.tape, drawn := y2.drawn + 1, os := y2.os, output := y2.output }) := S.out.drewN 1
  clear S
  generalize ({ heap := y2.heap, tape := y2.tape, drawn := y2.drawn + 1, os := y2.os, output := y2.output } : World) = x3 at *
  obtain ⟨t3, ht3⟩ := S3.out.row
  refine wpList_store_one rfl 24 (.tmp 45) (.tmp 43) rfl g 3 rfl .u64 _ rfl t3 _ ht3 size24 (by have := S3.out.len; simp only [List.size_toArray, ucs_len]; omega) ?_
  intro y3 hh hg hz
  rw [R3.out, ucs_set] at hh
  have S := Lib.hid (S3.out.set hg 3 r3 hh)
  clear hh hg hz ht3 S3 R3
  go_wp2_with fail
  obtain ⟨c0, c1, c2, c3⟩ := S.out.q
  go_still_tail 6, (by kernel_rfl)
  clear c0 c1 c2 c3
  have S4 : Hid (Rd g w gq q0 q1 q2 q3 _ { heap := y3.heap, tape := y3.tape, drawn := y3.drawn + 1, os := y3.os, output := y3.output }) := S.out.drewN 1
  clear S
  generalize ({ heap := y3.heap, tape := y3.tape, drawn := y3.drawn + 1, os := y3.os, output := y3.output } : World) = x4 at *
  obtain ⟨t4, ht4⟩ := S4.out.row
  refine wpList_store_one rfl 24 (.tmp 51) (.tmp 49) rfl g 4 rfl .u64 _ rfl t4 _ ht4 size24 (by have := S4.out.len; simp only [List.size_toArray, ucs_len]; omega) ?_
  intro y4 hh hg hz
  rw [R4.out, ucs_set] at hh
  have S := Lib.hid (S4.out.set hg 4 r4 hh)
  clear hh hg hz ht4 S4 R4
  go_wp2_with fail
  refine bodyPost_end (results_none rfl _ _ _) rfl ?_
  obtain ⟨t, ht⟩ := S.out.row
  rw [five_set _ _ _ _ _ _ HL.out] at ht
  exact ⟨rfl, ⟨rfl, t, ht⟩, S.out.keeps⟩
end Go.Proofs.Ytgdimnbdnepbgaa
/- The field's read, in numbers. No statement is proved here. -/
namespace Go.Proofs.Ytgdimnbdnepbgaa
open Go.RowKit
set_option linter.unusedVariables false
set_option linter.unusedSimpArgs false
set_option maxRecDepth 40000

theorem and_mask (x : Nat) (hx : x < 18446744073709551616) : bits .and .u64 (x : Int) 2251799813685247 = ((x % 2251799813685248 : Nat) : Int) := by
  have h := u64_and_nat x 2251799813685247 hx (by omega)
  have e : x &&& 2251799813685247 = x % 2251799813685248 := Nat.and_two_pow_sub_one_eq_mod x 51
  rw [e] at h
  exact h
theorem cross_bits (a b D E k : Nat) (hE : E = 2 ^ k) (hD : 0 < D) (hDE : D * E = 18446744073709551616) (ha : a < 18446744073709551616) :
    bits .and .u64 (bits .or .u64 ((a : Int) / (D : Int)) (IntKind.u64.wrap ((b : Int) * (E : Int)))) 2251799813685247 = (((a / D + b % D * E) % 2251799813685248 : Nat) : Int) := by
  have h1 : a / D < E := by rw [Nat.div_lt_iff_lt_mul hD, Nat.mul_comm]; omega
  have h2 : b * E % 18446744073709551616 = b % D * E := by rw [← hDE, Nat.mul_mod_mul_right]
  have h3 : b % D * E < 18446744073709551616 := by rw [← h2]; exact mod64 _
  have h4 : a / D < 18446744073709551616 := Nat.lt_of_le_of_lt (Nat.div_le_self _ _) ha
  have e1 : IntKind.u64.wrap ((b : Int) * (E : Int)) = ((b % D * E : Nat) : Int) := by
    rw [show (b : Int) * (E : Int) = ((b * E : Nat) : Int) from by simp, wrap_nat, h2]
  have e2 : (a : Int) / (D : Int) = ((a / D : Nat) : Int) := by simp
  have e3 : (a / D) ||| (b % D * E) = a / D + b % D * E := by
    have := or_add (b % D) (a / D) k (by omega)
    rw [← hE] at this
    rw [Nat.or_comm, this, Nat.add_comm]
  have h5 : a / D + b % D * E < 18446744073709551616 := by
    have : (b % D + 1) * E ≤ D * E := Nat.mul_le_mul_right E (Nat.mod_lt _ hD)
    rw [Nat.add_mul, hDE] at this
    omega
  rw [e1, e2, u64_or_nat _ _ h4 h3, e3, and_mask _ h5]

/-- The words of five that read makes. -/
def w51 (q0 q1 q2 q3 : Nat) : List Nat := [q0 % 2251799813685248, (q0 / 2251799813685248 + q1 % 2251799813685248 * 8192) % 2251799813685248, (q1 / 274877906944 + q2 % 274877906944 * 67108864) % 2251799813685248,
  (q2 / 33554432 + q3 % 33554432 * 549755813888) % 2251799813685248, q3 / 4096]
def rdw (l : List UInt8) : List Nat := w51 (q8 l 0) (q8 l 8) (q8 l 16) (q8 l 24)
/-- The number of five words. -/
def val5 : List Nat → Nat
  | [a, b, c, d, e] => a + b * 2251799813685248 + c * 5070602400912917605986812821504 + d * 11417981541647679048466287755595961091061972992 + e * 25711008708143844408671393477458601640355247900524685364822016
  | _ => 0
/-- The number of 32 bytes. -/
def nv (l : List UInt8) : Nat := q8 l 0 + q8 l 8 * 18446744073709551616 + q8 l 16 * 340282366920938463463374607431768211456 + q8 l 24 * 6277101735386680763835789423207666416102355444464034512896
/-- Each word is below b. -/
def Bnd (b : Nat) (o : List Nat) : Prop := o.length = 5 ∧ ∀ i, i < 5 → o.getD i 0 < b

theorem w51_val (q0 q1 q2 q3 : Nat) (h0 : q0 < 18446744073709551616) (h1 : q1 < 18446744073709551616) (h2 : q2 < 18446744073709551616) (h3 : q3 < 18446744073709551616) :
    val5 (w51 q0 q1 q2 q3) = q0 + q1 * 18446744073709551616 + q2 * 340282366920938463463374607431768211456 + q3 * 6277101735386680763835789423207666416102355444464034512896 := by
  have e1 : (q0 / 2251799813685248 + q1 % 2251799813685248 * 8192) % 2251799813685248 = q0 / 2251799813685248 + q1 % 274877906944 * 8192 := by omega
  have e2 : (q1 / 274877906944 + q2 % 274877906944 * 67108864) % 2251799813685248 = q1 / 274877906944 + q2 % 33554432 * 67108864 := by omega
  have e3 : (q2 / 33554432 + q3 % 33554432 * 549755813888) % 2251799813685248 = q2 / 33554432 + q3 % 4096 * 549755813888 := by omega
  unfold val5 w51
  simp only [e1, e2, e3]
  have d0 := Nat.div_add_mod q0 2251799813685248
  have d1 := Nat.div_add_mod q1 274877906944
  have d2 := Nat.div_add_mod q2 33554432
  have d3 := Nat.div_add_mod q3 4096
  generalize q0 / 2251799813685248 = b0 at *
  generalize q0 % 2251799813685248 = a0 at *
  generalize q1 / 274877906944 = b1 at *
  generalize q1 % 274877906944 = a1 at *
  generalize q2 / 33554432 = b2 at *
  generalize q2 % 33554432 = a2 at *
  generalize q3 / 4096 = b3 at *
  generalize q3 % 4096 = a3 at *
  omega
theorem w51_bnd (q0 q1 q2 q3 : Nat) (h3 : q3 < 18446744073709551616) : Bnd 4503599627370496 (w51 q0 q1 q2 q3) := by
  refine ⟨rfl, fun i hi => ?_⟩
  unfold w51
  match i, hi with
  | 0, _ => simp only [List.getD_cons_zero]; omega
  | 1, _ => simp only [List.getD_cons_zero, List.getD_cons_succ]; omega
  | 2, _ => simp only [List.getD_cons_zero, List.getD_cons_succ]; omega
  | 3, _ => simp only [List.getD_cons_zero, List.getD_cons_succ]; omega
  | 4, _ => simp only [List.getD_cons_zero, List.getD_cons_succ]; omega
theorem rdw_val (l : List UInt8) : val5 (rdw l) = nv l := w51_val _ _ _ _ (q8_lt _ _) (q8_lt _ _) (q8_lt _ _) (q8_lt _ _)
theorem rdw_bnd (l : List UInt8) : Bnd 4503599627370496 (rdw l) := w51_bnd _ _ _ _ (q8_lt _ _)

theorem read_any (g ga : Nat) (o : List Nat) (l : List UInt8) (w : World) (ho : WAt w g o) (hl : NumAt w ga l) :
    Calls Try.prog 65 #[.pointer (some ⟨g, 0, none⟩), .pointer (some ⟨ga, 0, none⟩)] w (Sets g (rdw l) w) := by
  have M0 : ∀ w', NumAt w' ga l → Calls Try.prog 92 #[.pointer (some ⟨ga, 0, none⟩)] w' (Gives (.agg (ucs [q8 l 0, q8 l 8, q8 l 16, q8 l 24]).toArray) w') := fun w' h => split_any ga l w' h
  have B0 := q8_lt l 0
  have B1 := q8_lt l 8
  have B2 := q8_lt l 16
  have B3 := q8_lt l 24
  unfold rdw w51
  exact read_core g ga o l w _ _ _ _ _ _ _ _ _ ho hl M0 (and_mask _ B0)
    (cross_bits _ _ 2251799813685248 8192 13 rfl (by omega) rfl B0) (cross_bits _ _ 274877906944 67108864 26 rfl (by omega) rfl B1) (cross_bits _ _ 33554432 549755813888 39 rfl (by omega) rfl B2) (Lib.hid (by simp))
end Go.Proofs.Ytgdimnbdnepbgaa
/- The field's pass. No statement is proved here. -/
namespace Go.Proofs.Ytgdimnbdnepbgaa
open Go.RowKit
set_option linter.unusedVariables false
set_option linter.unusedSimpArgs false
set_option maxRecDepth 40000

/-- One word cut, what is beyond carried. -/
def pstep (p : List Nat × Nat) (n : Nat) : List Nat × Nat := (p.1.set n ((p.1.getD n 0 + p.2) % 2251799813685248), (p.1.getD n 0 + p.2) / 2251799813685248)
def passk (o : List Nat) : Nat → List Nat × Nat
  | 0 => (o, 0)
  | n + 1 => pstep (passk o n) n
theorem passk_len (o : List Nat) (n : Nat) : (passk o n).1.length = o.length := by
  induction n with
  | zero => rfl
  | succ n ih => unfold passk pstep; simp [ih]
theorem passk_later (o : List Nat) (n i : Nat) (h : n ≤ i) : (passk o n).1.getD i 0 = o.getD i 0 := by
  induction n with
  | zero => rfl
  | succ n ih =>
    unfold passk pstep
    simp only [List.getD_eq_getElem?_getD]
    rw [List.getElem?_set_ne (by omega)]
    have := ih (by omega)
    simpa [List.getD_eq_getElem?_getD] using this
theorem passk_carry (o : List Nat) (ho : Bnd 9223372036854775808 o) (n : Nat) (hn : n ≤ 5) : (passk o n).2 ≤ 4096 := by
  induction n with
  | zero => simp [passk]
  | succ n ih =>
    have h1 := ih (by omega)
    have h2 := passk_later o n n (Nat.le_refl _)
    have h3 := ho.2 n (by omega)
    unfold passk pstep
    simp only [h2]
    omega

/-- The memory of pass. -/
structure Ps (g : Nat) (w : World) (o : List Nat) (w' : World) : Prop where
  at_ : WAt w' g o
  keeps : Keeps (· = g) w w'
theorem Ps.set {g : Nat} {w : World} {o : List Nat} {w' w'' : World} {t : TypeId} (h : Ps g w o w') (hg : w'.grownBy w'' (some g)) (i x : Nat) (hh : w''.heap[g]? = some (.cells (ucs (o.set i x)).toArray t (0, 0))) : Ps g w (o.set i x) w'' :=
  ⟨⟨by rw [List.length_set]; exact h.at_.1, t, hh⟩, h.keeps.trans (Keeps.of_grown hg (fun r hr => by injection hr with hr; exact hr.symm))⟩
theorem Ps.drewN {g : Nat} {w : World} {o : List Nat} {w' : World} (h : Ps g w o w') (n : Nat) : Ps g w o (w'.drewN n) :=
  ⟨h.at_, h.keeps.trans (Keeps.drewN _ _ _)⟩

set_option maxHeartbeats 800000 in
theorem pass_any (g : Nat) (o : List Nat) (w : World) (hw : WAt w g o) (ho : Bnd 9223372036854775808 o) :
    Calls Try.prog 106 #[.pointer (some ⟨g, 0, none⟩)] w fun e w' => e = .returned (.int .u64 (passk o 5).2) ∧ WAt w' g (passk o 5).1 ∧ Keeps (· = g) w w' := by
  have HO := Lib.hid ho
  have HS : Hid (Ps g w (passk o 0).1 w) := ⟨hw, Keeps.refl _ _⟩
  clear hw ho
  go_enter Try.func106, Try.ntmps106
  go_wp2_with fail
  go_loopw [3, 4, 5, 6] (fun c _ _ i wr => ∃ n : Nat, n ≤ 5 ∧ i = .int .i64 n ∧ c = .int .u64 (passk o n).2 ∧ Ps g w (passk o n).1 wr) (fun _ _ _ i _ => 5 - (intOf i).toNat)
  case atStart => exact ⟨0, by omega, rfl, rfl, HS.out⟩
  case round =>
    obtain ⟨n, hn, rfl, rfl, hp⟩ := hrel
    have H := Lib.hid hp
    clear hp HS
    by_cases hlt : n < 5
    · have hni : (n : Int) < 5 := by omega
      have HC := Lib.hid (H.out.at_.cell n hlt)
      have HX : Hid ((passk o n).1.getD n 0 + (passk o n).2 < 18446744073709551616) := by
        have h1 := passk_carry o HO.out n hn
        have h2 := passk_later o n n (Nat.le_refl _)
        have h3 := HO.out.2 n hlt
        rw [h2]
        exact Lib.hid (by omega)
      obtain ⟨on, cn, hpk⟩ : ∃ on cn, passk o n = (on, cn) := ⟨_, _, rfl⟩
      have HE : Hid (passk o (n + 1) = (on.set n ((on.getD n 0 + cn) % 2251799813685248), (on.getD n 0 + cn) / 2251799813685248)) := by
        show pstep (passk o n) n = _
        rw [hpk]
        rfl
      rw [hpk] at H HC HX ⊢
      have HL : Hid (on.length = 5) := H.out.at_.1
      clear hpk HO
      simp only at HX HC H
      generalize on.getD n 0 = a at *
      have HV : Hid (bits .and .u64 (IntKind.u64.wrap ((a : Int) + (cn : Int))) 2251799813685247 = (((a + cn) % 2251799813685248 : Nat) : Int)) := by
        have e : IntKind.u64.wrap ((a : Int) + (cn : Int)) = ((a + cn : Nat) : Int) := by rw [IntKind.wrap_u64]; have := HX.out; omega
        rw [e]
        exact and_mask _ HX.out
      have HV2 : Hid (IntKind.u64.wrap ((a : Int) + (cn : Int)) / 2251799813685248 = (((a + cn) / 2251799813685248 : Nat) : Int)) := by
        have e : IntKind.u64.wrap ((a : Int) + (cn : Int)) = ((a + cn : Nat) : Int) := by rw [IntKind.wrap_u64]; have := HX.out; omega
        rw [e]
        exact Lib.hid (by omega)
      obtain ⟨t, ht⟩ := H.out.at_.2
      have HT := Lib.hid ht
      clear ht HX
      have hc := HC.out
      go_wp2_with ((with_reducible show wpList _ _ _ (⟨none, .store 24 (.tmp 21) (.tmp 19), _, _, _, _⟩ :: _) _ _); refine wpList_store_one rfl 24 (.tmp 21) (.tmp 19) rfl g n rfl .u64 _ rfl t _ HT.out size24 (by simp only [List.size_toArray, ucs_len]; have := HL.out; omega) ?_; intro w3 hh3 hg3 hz3; have HH3 := Lib.hid hh3; have HG3 := Lib.hid hg3; clear hh3 hg3 hz3 hc HC HT)
      have HP : Hid (Ps g w (on.set n ((a + cn) % 2251799813685248)) w3) := by
        have hh := HH3.out
        rw [HV.out, ucs_set] at hh
        exact H.out.set HG3.out n _ hh
      rw [HV2.out]
      refine ⟨⟨n + 1, by omega, by go_num, ?_, ?_⟩, by simp [intOf]; omega⟩
      · rw [HE.out]
      · rw [HE.out]
        exact HP.out
    · obtain rfl : n = 5 := by omega
      go_wp2
      go_ret
      exact ⟨rfl, H.out.at_, H.out.keeps⟩
end Go.Proofs.Ytgdimnbdnepbgaa
/- The field's add. No statement is proved here. -/
namespace Go.Proofs.Ytgdimnbdnepbgaa
open Go.RowKit
set_option linter.unusedVariables false
set_option linter.unusedSimpArgs false
set_option maxRecDepth 40000

theorem pass_val (o : List Nat) (h : o.length = 5) : val5 (passk o 5).1 + (passk o 5).2 * 57896044618658097711785492504343953926634992332820282019728792003956564819968 = val5 o := by
  match o, h with
  | [a, b, c, d, e], _ =>
    simp only [passk, pstep, List.set, List.getD_cons_zero, List.getD_cons_succ, val5, Nat.add_zero]
    omega
theorem pass_bnd (o : List Nat) (h : o.length = 5) : Bnd 2251799813685248 (passk o 5).1 := by
  refine ⟨(passk_len o 5).trans h, fun i hi => ?_⟩
  match o, h with
  | [a, b, c, d, e], _ =>
    simp only [passk, pstep, List.set, List.getD_cons_zero, List.getD_cons_succ, Nat.add_zero]
    match i, hi with
    | 0, _ => simp only [List.getD_cons_zero, List.getD_cons_succ]; exact Nat.mod_lt _ (by omega)
    | 1, _ => simp only [List.getD_cons_zero, List.getD_cons_succ]; exact Nat.mod_lt _ (by omega)
    | 2, _ => simp only [List.getD_cons_zero, List.getD_cons_succ]; exact Nat.mod_lt _ (by omega)
    | 3, _ => simp only [List.getD_cons_zero, List.getD_cons_succ]; exact Nat.mod_lt _ (by omega)
    | 4, _ => simp only [List.getD_cons_zero, List.getD_cons_succ]; exact Nat.mod_lt _ (by omega)

/-- The first n words of b added to those of o. -/
def addk (o b : List Nat) : Nat → List Nat
  | 0 => o
  | n + 1 => (addk o b n).set n ((addk o b n).getD n 0 + b.getD n 0)
theorem addk_later (o b : List Nat) (n i : Nat) (h : n ≤ i) : (addk o b n).getD i 0 = o.getD i 0 := by
  induction n with
  | zero => rfl
  | succ n ih =>
    unfold addk
    simp only [List.getD_eq_getElem?_getD]
    rw [List.getElem?_set_ne (by omega)]
    have := ih (by omega)
    simpa [List.getD_eq_getElem?_getD] using this
theorem addk_val (o b : List Nat) (ho : o.length = 5) (hb : b.length = 5) : val5 (addk o b 5) = val5 o + val5 b ∧ ∀ i, i < 5 → (addk o b 5).getD i 0 = o.getD i 0 + b.getD i 0 := by
  match o, b, ho, hb with
  | [a0, a1, a2, a3, a4], [b0, b1, b2, b3, b4], _, _ =>
    simp only [addk, List.set, List.getD_cons_zero, List.getD_cons_succ, val5]
    refine ⟨by omega, fun i hi => ?_⟩
    match i, hi with
    | 0, _ => rfl
    | 1, _ => rfl
    | 2, _ => rfl
    | 3, _ => rfl
    | 4, _ => rfl

set_option maxHeartbeats 800000 in
theorem add_any (g gb : Nat) (o b : List Nat) (w : World) (hw : WAt w g o) (hwb : WAt w gb b) (hne : gb ≠ g) (ho : Bnd 4611686018427387904 o) (hb : Bnd 4611686018427387904 b) :
    Calls Try.prog 70 #[.pointer (some ⟨g, 0, none⟩), .pointer (some ⟨gb, 0, none⟩)] w (Sets g (addk o b 5) w) := by
  have HO := Lib.hid ho
  have HB := Lib.hid hb
  have HNE := Lib.hid hne
  have HWB := Lib.hid hwb
  have HS : Hid (Ps g w (addk o b 0) w) := ⟨hw, Keeps.refl _ _⟩
  clear hw ho hwb hne hb
  go_enter Try.func70, Try.ntmps70
  go_wp2_with fail
  go_loopw [4, 5] (fun _ i wr => ∃ n : Nat, n ≤ 5 ∧ i = .int .i64 n ∧ Ps g w (addk o b n) wr) (fun _ i _ => 5 - (intOf i).toNat)
  case atStart => exact ⟨0, by omega, rfl, HS.out⟩
  case round =>
    obtain ⟨n, hn, rfl, hp⟩ := hrel
    have H := Lib.hid hp
    clear hp HS
    by_cases hlt : n < 5
    · have hni : (n : Int) < 5 := by omega
      have HC := Lib.hid (H.out.at_.cell n hlt)
      have HCB := Lib.hid ((HWB.out.keeps H.out.keeps HNE.out).cell n hlt)
      have HX : Hid ((addk o b n).getD n 0 + b.getD n 0 < 18446744073709551616) := by
        have h2 := addk_later o b n n (Nat.le_refl _)
        have h3 := HO.out.2 n hlt
        have h4 := HB.out.2 n hlt
        rw [h2]
        exact Lib.hid (by omega)
      have HE : Hid (addk o b (n + 1) = (addk o b n).set n ((addk o b n).getD n 0 + b.getD n 0)) := rfl
      have HL : Hid ((addk o b n).length = 5) := H.out.at_.1
      clear HO HB
      generalize addk o b n = on at *
      generalize on.getD n 0 = a at *
      generalize b.getD n 0 = c at *
      have HV : Hid (IntKind.u64.wrap ((a : Int) + (c : Int)) = ((a + c : Nat) : Int)) := by
        have := HX.out
        exact Lib.hid (by rw [IntKind.wrap_u64]; omega)
      have hc := HC.out
      have hcb := HCB.out
      clear HX
      go_wp2_with fail
      have hc' : ({ heap := wr.heap, tape := wr.tape, drawn := wr.drawn + 1, os := wr.os, output := wr.output } : World).cell? ⟨g, n, none⟩ = some (.int .u64 (a : Int)) := hc
      have hcb' : ({ heap := wr.heap, tape := wr.tape, drawn := wr.drawn + 1, os := wr.os, output := wr.output } : World).cell? ⟨gb, n, none⟩ = some (.int .u64 (c : Int)) := hcb
      go_still_tail 13, (by kernel_rfl)
      clear hc hcb hc' hcb' HC HCB
      have HD : Hid (Ps g w on { heap := wr.heap, tape := wr.tape, drawn := wr.drawn + 1, os := wr.os, output := wr.output }) := H.out.drewN 1
      clear H
      generalize ({ heap := wr.heap, tape := wr.tape, drawn := wr.drawn + 1, os := wr.os, output := wr.output } : World) = wd at *
      obtain ⟨t, ht⟩ := HD.out.at_.2
      refine wpList_store_one rfl 24 (.tmp 20) (.tmp 18) rfl g n rfl .u64 _ rfl t _ ht size24 (by simp only [List.size_toArray, ucs_len]; have := HL.out; omega) ?_
      intro w3 hh hg hz
      rw [HV.out, ucs_set] at hh
      have HP := Lib.hid (HD.out.set hg n _ hh)
      clear hh hg hz ht HD HV
      go_wp2
      refine ⟨⟨n + 1, by omega, by go_num, ?_⟩, by simp [intOf]; omega⟩
      rw [HE.out]
      exact HP.out
    · obtain rfl : n = 5 := by omega
      go_wp2
      refine bodyPost_end (results_none rfl _ _ _) rfl ?_
      exact ⟨rfl, H.out.at_, H.out.keeps⟩
end Go.Proofs.Ytgdimnbdnepbgaa
/- The field's sub. No statement is proved here. -/
namespace Go.Proofs.Ytgdimnbdnepbgaa
open Go.RowKit
set_option linter.unusedVariables false
set_option linter.unusedSimpArgs false
set_option maxRecDepth 40000

/-- The words of 4p. -/
def k4 (n : Nat) : Nat := if n = 0 then 9007199254740916 else 9007199254740988
/-- The first n words of b taken from those of o, 4p added. -/
def subk (o b : List Nat) : Nat → List Nat
  | 0 => o
  | n + 1 => (subk o b n).set n ((subk o b n).getD n 0 + (k4 n - b.getD n 0))
theorem subk_later (o b : List Nat) (n i : Nat) (h : n ≤ i) : (subk o b n).getD i 0 = o.getD i 0 := by
  induction n with
  | zero => rfl
  | succ n ih =>
    unfold subk
    simp only [List.getD_eq_getElem?_getD]
    rw [List.getElem?_set_ne (by omega)]
    have := ih (by omega)
    simpa [List.getD_eq_getElem?_getD] using this
theorem subk_val (o b : List Nat) (ho : o.length = 5) (hb : Bnd 9007199254740900 b) : val5 (subk o b 5) + val5 b = val5 o + 231584178474632390847141970017375815706539969331281128078915168015826259279796 ∧ ∀ i, i < 5 → (subk o b 5).getD i 0 ≤ o.getD i 0 + 9007199254740988 := by
  obtain ⟨hl, hlt⟩ := hb
  match o, b, ho, hl with
  | [a0, a1, a2, a3, a4], [b0, b1, b2, b3, b4], _, _ =>
    have h0 := hlt 0 (by omega)
    have h1 := hlt 1 (by omega)
    have h2 := hlt 2 (by omega)
    have h3 := hlt 3 (by omega)
    have h4 := hlt 4 (by omega)
    simp only [List.getD_cons_zero, List.getD_cons_succ] at h0 h1 h2 h3 h4
    have e : subk [a0, a1, a2, a3, a4] [b0, b1, b2, b3, b4] 5 = [a0 + (9007199254740916 - b0), a1 + (9007199254740988 - b1), a2 + (9007199254740988 - b2), a3 + (9007199254740988 - b3), a4 + (9007199254740988 - b4)] := rfl
    rw [e]
    refine ⟨by simp only [val5]; omega, fun i hi => ?_⟩
    match i, hi with
    | 0, _ => simp only [List.getD_cons_zero, List.getD_cons_succ]; omega
    | 1, _ => simp only [List.getD_cons_zero, List.getD_cons_succ]; omega
    | 2, _ => simp only [List.getD_cons_zero, List.getD_cons_succ]; omega
    | 3, _ => simp only [List.getD_cons_zero, List.getD_cons_succ]; omega
    | 4, _ => simp only [List.getD_cons_zero, List.getD_cons_succ]; omega
theorem sub_word (a c k : Nat) (hc : c ≤ k) (hk : k < 9223372036854775808) (ha : a < 9223372036854775808) :
    IntKind.u64.wrap ((a : Int) + IntKind.u64.wrap ((k : Int) - (c : Int))) = ((a + (k - c) : Nat) : Int) := by
  rw [IntKind.wrap_u64, IntKind.wrap_u64]; omega

set_option maxHeartbeats 800000 in
theorem sub_any (g gb : Nat) (o b : List Nat) (w : World) (hw : WAt w g o) (hwb : WAt w gb b) (hne : gb ≠ g) (ho : Bnd 9223372036854775808 o) (hb : Bnd 9007199254740900 b) :
    Calls Try.prog 72 #[.pointer (some ⟨g, 0, none⟩), .pointer (some ⟨gb, 0, none⟩)] w (Sets g (subk o b 5) w) := by
  have HO := Lib.hid ho
  have HB := Lib.hid hb
  have HNE := Lib.hid hne
  have HWB := Lib.hid hwb
  have HS : Hid (Ps g w (subk o b 0) w) := ⟨hw, Keeps.refl _ _⟩
  clear hw ho hwb hne hb
  have HC := Lib.hid (HS.out.at_.cell 0 (by omega))
  have HCB := Lib.hid (HWB.out.cell 0 (by omega))
  have HE : Hid (subk o b 1 = (subk o b 0).set 0 ((subk o b 0).getD 0 0 + (9007199254740916 - b.getD 0 0))) := rfl
  have HV : Hid (IntKind.u64.wrap (((subk o b 0).getD 0 0 : Int) + IntKind.u64.wrap ((9007199254740916 : Int) - (b.getD 0 0 : Int))) = (((subk o b 0).getD 0 0 + (9007199254740916 - b.getD 0 0) : Nat) : Int)) :=
    sub_word ((subk o b 0).getD 0 0) (b.getD 0 0) 9007199254740916 (by have := HB.out.2 0 (by omega); omega) (by omega) (by have := HO.out.2 0 (by omega); rw [subk_later o b 0 0 (by omega)]; exact this)
  have HL : Hid ((subk o b 0).length = 5) := HS.out.at_.1
  generalize hs0 : subk o b 0 = on at HC HE HV HL HS
  clear hs0
  generalize on.getD 0 0 = a at *
  generalize hb0 : b.getD 0 0 = c at HCB HE HV
  clear hb0
  go_enter Try.func72, Try.ntmps72
  have hc := HC.out
  have hcb := HCB.out
  have hc' : ({ heap := w.heap, tape := w.tape, drawn := w.drawn + 1, os := w.os, output := w.output } : World).cell? ⟨g, 0, none⟩ = some (.int .u64 (a : Int)) := hc
  have hcb' : ({ heap := w.heap, tape := w.tape, drawn := w.drawn + 1, os := w.os, output := w.output } : World).cell? ⟨gb, 0, none⟩ = some (.int .u64 (c : Int)) := hcb
  go_wp2_with fail
  go_still_tail 12, (by kernel_rfl)
  clear hc hcb hc' hcb' HC HCB
  have HD : Hid (Ps g w on { heap := w.heap, tape := w.tape, drawn := w.drawn + 1, os := w.os, output := w.output }) := HS.out.drewN 1
  clear HS
  generalize ({ heap := w.heap, tape := w.tape, drawn := w.drawn + 1, os := w.os, output := w.output } : World) = wd at *
  obtain ⟨t, ht⟩ := HD.out.at_.2
  refine wpList_store_one rfl 24 (.tmp 16) (.tmp 14) rfl g 0 rfl .u64 _ rfl t _ ht size24 (by simp only [List.size_toArray, ucs_len]; have := HL.out; omega) ?_
  intro w3 hh hg hz
  rw [HV.out, ucs_set] at hh
  have HP0 := Lib.hid (HD.out.set hg 0 _ hh)
  have HP : Hid (Ps g w (subk o b 1) w3) := by
    rw [HE.out]
    exact HP0
  clear hh hg hz ht HD HV HE HL HP0
  go_wp2_with fail
  go_loopw [4] (fun i wr => ∃ n : Nat, 1 ≤ n ∧ n ≤ 5 ∧ i = .int .i64 n ∧ Ps g w (subk o b n) wr) (fun i _ => 5 - (intOf i).toNat)
  case atStart => exact ⟨1, by omega, by omega, rfl, HP.out⟩
  case round =>
    obtain ⟨n, hn1, hn, rfl, hp⟩ := hrel
    have H := Lib.hid hp
    clear hp HP
    by_cases hlt : n < 5
    · have hni : (n : Int) < 5 := by omega
      have HC := Lib.hid (H.out.at_.cell n hlt)
      have HCB := Lib.hid ((HWB.out.keeps H.out.keeps HNE.out).cell n hlt)
      have HE : Hid (subk o b (n + 1) = (subk o b n).set n ((subk o b n).getD n 0 + (9007199254740988 - b.getD n 0))) := by
        have e : k4 n = 9007199254740988 := by unfold k4; rw [if_neg (by omega)]
        have e2 : subk o b (n + 1) = (subk o b n).set n ((subk o b n).getD n 0 + (k4 n - b.getD n 0)) := rfl
        rw [e] at e2
        exact e2
      have HV : Hid (IntKind.u64.wrap (((subk o b n).getD n 0 : Int) + IntKind.u64.wrap ((9007199254740988 : Int) - (b.getD n 0 : Int))) = (((subk o b n).getD n 0 + (9007199254740988 - b.getD n 0) : Nat) : Int)) :=
        sub_word ((subk o b n).getD n 0) (b.getD n 0) 9007199254740988 (by have := HB.out.2 n hlt; omega) (by omega) (by have := HO.out.2 n hlt; rw [subk_later o b n n (by omega)]; exact this)
      have HL : Hid ((subk o b n).length = 5) := H.out.at_.1
      clear HO HB
      generalize subk o b n = on at *
      generalize on.getD n 0 = a at *
      generalize b.getD n 0 = c at *
      have hc := HC.out
      have hcb := HCB.out
      go_wp2_with fail
      have hc' : ({ heap := wr.heap, tape := wr.tape, drawn := wr.drawn + 1, os := wr.os, output := wr.output } : World).cell? ⟨g, n, none⟩ = some (.int .u64 (a : Int)) := hc
      have hcb' : ({ heap := wr.heap, tape := wr.tape, drawn := wr.drawn + 1, os := wr.os, output := wr.output } : World).cell? ⟨gb, n, none⟩ = some (.int .u64 (c : Int)) := hcb
      go_still_tail 14, (by kernel_rfl)
      clear hc hcb hc' hcb' HC HCB
      have HD : Hid (Ps g w on { heap := wr.heap, tape := wr.tape, drawn := wr.drawn + 1, os := wr.os, output := wr.output }) := H.out.drewN 1
      clear H
      generalize ({ heap := wr.heap, tape := wr.tape, drawn := wr.drawn + 1, os := wr.os, output := wr.output } : World) = wd at *
      obtain ⟨t, ht⟩ := HD.out.at_.2
      refine wpList_store_one rfl 24 (.tmp 34) (.tmp 32) rfl g n rfl .u64 _ rfl t _ ht size24 (by simp only [List.size_toArray, ucs_len]; have := HL.out; omega) ?_
      intro w3 hh hg hz
      rw [HV.out, ucs_set] at hh
      have HP := Lib.hid (HD.out.set hg n _ hh)
      clear hh hg hz ht HD HV
      go_wp2
      refine ⟨⟨n + 1, by omega, by omega, by go_num, ?_⟩, by simp [intOf]; omega⟩
      rw [HE.out]
      exact HP.out
    · obtain rfl : n = 5 := by omega
      go_wp2
      refine bodyPost_end (results_none rfl _ _ _) rfl ?_
      exact ⟨rfl, H.out.at_, H.out.keeps⟩
end Go.Proofs.Ytgdimnbdnepbgaa
/- The field's writer of eight bytes. No statement is proved here. -/
namespace Go.Proofs.Ytgdimnbdnepbgaa
open Go.RowKit
set_option linter.unusedVariables false
set_option linter.unusedSimpArgs false
set_option maxRecDepth 40000

theorem bcs_set (l : List UInt8) (j : Nat) (x : UInt8) : (bcs l).toArray.setIfInBounds j (.int .u8 (x.toNat : Int)) = (bcs (l.set j x)).toArray := by
  apply Array.toList_inj.1
  rw [Array.toList_setIfInBounds]
  simp [bcs, bc, List.map_set]
theorem byte_at (n m k : Nat) (hm : m = 2 ^ k) : ((n : Int) / (m : Int)) % 256 = ((UInt8.ofNat (n / m)).toNat : Int) := by
  rw [UInt8.toNat_ofNat']
  simp
theorem byte_at0 (n : Nat) : (n : Int) % 256 = ((UInt8.ofNat n).toNat : Int) := by
  rw [UInt8.toNat_ofNat']
  simp
/-- l with the bytes of n from o on. -/
def put8 (l : List UInt8) (o n : Nat) : List UInt8 :=
  (((((((l.set o (UInt8.ofNat n)).set (o + 1) (UInt8.ofNat (n / 256))).set (o + 2) (UInt8.ofNat (n / 65536))).set (o + 3) (UInt8.ofNat (n / 16777216))).set (o + 4) (UInt8.ofNat (n / 4294967296))).set (o + 5) (UInt8.ofNat (n / 1099511627776))).set (o + 6) (UInt8.ofNat (n / 281474976710656))).set (o + 7) (UInt8.ofNat (n / 72057594037927936))
theorem size5 : (Try.prog.info? 5).map (·.size) = some 1 := by kernel_rfl

/-- Bytes l lie in row g, and nothing else has changed. -/
structure Pb (g : Nat) (w : World) (m : Nat) (l : List UInt8) (w' : World) : Prop where
  len : l.length = m
  row : ∃ t, w'.heap[g]? = some (.cells (bcs l).toArray t (0, 0))
  keeps : Keeps (· = g) w w'
theorem Pb.set {g m : Nat} {w : World} {l : List UInt8} {w' w'' : World} {t : TypeId} (h : Pb g w m l w') (hg : w'.grownBy w'' (some g)) (i : Nat) (x : UInt8) (hh : w''.heap[g]? = some (.cells (bcs (l.set i x)).toArray t (0, 0))) : Pb g w m (l.set i x) w'' :=
  ⟨by rw [List.length_set]; exact h.len, ⟨t, hh⟩, h.keeps.trans (Keeps.of_grown hg (fun r hr => by injection hr with hr; exact hr.symm))⟩
theorem Pb.cell {g m : Nat} {w : World} {l : List UInt8} {w' : World} (h : Pb g w m l w') (i : Nat) (hi : i < m) : w'.cell? ⟨g, i, none⟩ = some (.int .u8 (bt l i)) := by
  obtain ⟨t, ht⟩ := h.row
  have hl := h.len
  refine row_cells ht i _ ?_
  rw [List.toList_toArray, bcs_get]
  unfold bt
  rw [List.getD_eq_getElem?_getD, List.getElem?_eq_getElem (by omega)]
  rfl

set_option maxHeartbeats 1600000 in
theorem setQuad_core (g o c m n : Nat) (b0 b1 b2 b3 b4 b5 b6 b7 : UInt8) (l : List UInt8) (w : World) (hm : o + 8 ≤ m) (S0 : Hid (Pb g w m l w))
    (V0 : Hid ((n : Int) % 256 = (b0.toNat : Int)))
    (V1 : Hid (((n : Int) / 256) % 256 = (b1.toNat : Int)))
    (V2 : Hid (((n : Int) / 65536) % 256 = (b2.toNat : Int)))
    (V3 : Hid (((n : Int) / 16777216) % 256 = (b3.toNat : Int)))
    (V4 : Hid (((n : Int) / 4294967296) % 256 = (b4.toNat : Int)))
    (V5 : Hid (((n : Int) / 1099511627776) % 256 = (b5.toNat : Int)))
    (V6 : Hid (((n : Int) / 281474976710656) % 256 = (b6.toNat : Int)))
    (V7 : Hid (((n : Int) / 72057594037927936) % 256 = (b7.toNat : Int)))
    : Calls Try.prog 69 #[.slice (some ⟨g, o, none⟩) 8 c, .int .u64 n] w fun e w' => e = .returned (.tuple #[]) ∧ Pb g w m ((((((((l.set o b0).set (o + 1) b1).set (o + 2) b2).set (o + 3) b3).set (o + 4) b4).set (o + 5) b5).set (o + 6) b6).set (o + 7) b7) w' := by
  have hc7 := S0.out.cell (o + 7) (by omega)
  go_enter Try.func69, Try.ntmps69
  have HM := Lib.hid hm
  clear hm
  go_wp2_with (first | ((with_reducible show wpList _ _ _ (⟨none, .store 5 (.tmp 10) (.tmp 9), _, _, _, _⟩ :: _) _ _); go_must (obtain ⟨t0, ht0⟩ := S0.out.row; have hl0 := S0.out.len; have hm := HM.out; refine wpList_store_one rfl 5 (.tmp 10) (.tmp 9) rfl g o rfl .u8 _ rfl t0 _ ht0 size5 (by simp only [List.size_toArray, bcs_len]; omega) ?_; intro y0 hh hg hz; rw [V0.out, bcs_set] at hh; have S1 := Lib.hid (S0.out.set hg o b0 hh); clear hh hg hz ht0 hl0 hm S0; clear hc7)) | ((with_reducible show wpList _ _ _ (⟨none, .store 5 (.tmp 15) (.tmp 14), _, _, _, _⟩ :: _) _ _); go_must (obtain ⟨t1, ht1⟩ := S1.out.row; have hl1 := S1.out.len; have hm := HM.out; refine wpList_store_one rfl 5 (.tmp 15) (.tmp 14) rfl g (o + 1) rfl .u8 _ rfl t1 _ ht1 size5 (by simp only [List.size_toArray, bcs_len]; omega) ?_; intro y1 hh hg hz; rw [V1.out, bcs_set] at hh; have S2 := Lib.hid (S1.out.set hg (o + 1) b1 hh); clear hh hg hz ht1 hl1 hm S1)) | ((with_reducible show wpList _ _ _ (⟨none, .store 5 (.tmp 20) (.tmp 19), _, _, _, _⟩ :: _) _ _); go_must (obtain ⟨t2, ht2⟩ := S2.out.row; have hl2 := S2.out.len; have hm := HM.out; refine wpList_store_one rfl 5 (.tmp 20) (.tmp 19) rfl g (o + 2) rfl .u8 _ rfl t2 _ ht2 size5 (by simp only [List.size_toArray, bcs_len]; omega) ?_; intro y2 hh hg hz; rw [V2.out, bcs_set] at hh; have S3 := Lib.hid (S2.out.set hg (o + 2) b2 hh); clear hh hg hz ht2 hl2 hm S2)) | ((with_reducible show wpList _ _ _ (⟨none, .store 5 (.tmp 25) (.tmp 24), _, _, _, _⟩ :: _) _ _); go_must (obtain ⟨t3, ht3⟩ := S3.out.row; have hl3 := S3.out.len; have hm := HM.out; refine wpList_store_one rfl 5 (.tmp 25) (.tmp 24) rfl g (o + 3) rfl .u8 _ rfl t3 _ ht3 size5 (by simp only [List.size_toArray, bcs_len]; omega) ?_; intro y3 hh hg hz; rw [V3.out, bcs_set] at hh; have S4 := Lib.hid (S3.out.set hg (o + 3) b3 hh); clear hh hg hz ht3 hl3 hm S3)) | ((with_reducible show wpList _ _ _ (⟨none, .store 5 (.tmp 30) (.tmp 29), _, _, _, _⟩ :: _) _ _); go_must (obtain ⟨t4, ht4⟩ := S4.out.row; have hl4 := S4.out.len; have hm := HM.out; refine wpList_store_one rfl 5 (.tmp 30) (.tmp 29) rfl g (o + 4) rfl .u8 _ rfl t4 _ ht4 size5 (by simp only [List.size_toArray, bcs_len]; omega) ?_; intro y4 hh hg hz; rw [V4.out, bcs_set] at hh; have S5 := Lib.hid (S4.out.set hg (o + 4) b4 hh); clear hh hg hz ht4 hl4 hm S4)) | ((with_reducible show wpList _ _ _ (⟨none, .store 5 (.tmp 35) (.tmp 34), _, _, _, _⟩ :: _) _ _); go_must (obtain ⟨t5, ht5⟩ := S5.out.row; have hl5 := S5.out.len; have hm := HM.out; refine wpList_store_one rfl 5 (.tmp 35) (.tmp 34) rfl g (o + 5) rfl .u8 _ rfl t5 _ ht5 size5 (by simp only [List.size_toArray, bcs_len]; omega) ?_; intro y5 hh hg hz; rw [V5.out, bcs_set] at hh; have S6 := Lib.hid (S5.out.set hg (o + 5) b5 hh); clear hh hg hz ht5 hl5 hm S5)) | ((with_reducible show wpList _ _ _ (⟨none, .store 5 (.tmp 40) (.tmp 39), _, _, _, _⟩ :: _) _ _); go_must (obtain ⟨t6, ht6⟩ := S6.out.row; have hl6 := S6.out.len; have hm := HM.out; refine wpList_store_one rfl 5 (.tmp 40) (.tmp 39) rfl g (o + 6) rfl .u8 _ rfl t6 _ ht6 size5 (by simp only [List.size_toArray, bcs_len]; omega) ?_; intro y6 hh hg hz; rw [V6.out, bcs_set] at hh; have S7 := Lib.hid (S6.out.set hg (o + 6) b6 hh); clear hh hg hz ht6 hl6 hm S6)) | ((with_reducible show wpList _ _ _ (⟨none, .store 5 (.tmp 45) (.tmp 44), _, _, _, _⟩ :: _) _ _); go_must (obtain ⟨t7, ht7⟩ := S7.out.row; have hl7 := S7.out.len; have hm := HM.out; refine wpList_store_one rfl 5 (.tmp 45) (.tmp 44) rfl g (o + 7) rfl .u8 _ rfl t7 _ ht7 size5 (by simp only [List.size_toArray, bcs_len]; omega) ?_; intro y7 hh hg hz; rw [V7.out, bcs_set] at hh; have S8 := Lib.hid (S7.out.set hg (o + 7) b7 hh); clear hh hg hz ht7 hl7 hm S7)))
  refine bodyPost_end (results_none rfl _ _ _) rfl ?_
  exact ⟨rfl, S8.out⟩

theorem setQuad_any (g o c m n : Nat) (l : List UInt8) (w : World) (hm : o + 8 ≤ m) (h : Pb g w m l w) :
    Calls Try.prog 69 #[.slice (some ⟨g, o, none⟩) 8 c, .int .u64 n] w fun e w' => e = .returned (.tuple #[]) ∧ Pb g w m (put8 l o n) w' :=
  setQuad_core g o c m n _ _ _ _ _ _ _ _ l w hm (Lib.hid h) (Lib.hid (byte_at0 n)) (Lib.hid (byte_at n 256 8 rfl)) (Lib.hid (byte_at n 65536 16 rfl)) (Lib.hid (byte_at n 16777216 24 rfl)) (Lib.hid (byte_at n 4294967296 32 rfl)) (Lib.hid (byte_at n 1099511627776 40 rfl)) (Lib.hid (byte_at n 281474976710656 48 rfl)) (Lib.hid (byte_at n 72057594037927936 56 rfl))
end Go.Proofs.Ytgdimnbdnepbgaa
