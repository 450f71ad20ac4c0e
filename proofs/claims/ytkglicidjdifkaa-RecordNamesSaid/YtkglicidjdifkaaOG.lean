/- Reading words and digests. No statement is proved here. -/
import Derived.Test.YtkglicidjdifkaaOE

namespace Go.Proofs.Ytkglicidjdifkaa
open Go.RowKit

/-- Bytes as a number, the lowest first. -/
def lev : List UInt8 → Nat
  | [] => 0
  | c :: t => c.toNat + 256 * lev t
theorem lev_snoc : ∀ (t : List UInt8) (c : UInt8), lev (t ++ [c]) = lev t + c.toNat * 256 ^ t.length
  | [], c => by simp [lev]
  | d :: t, c => by
    show d.toNat + 256 * lev (t ++ [c]) = d.toNat + 256 * lev t + _
    rw [lev_snoc t c, List.length_cons, Nat.pow_succ, Nat.mul_add, Nat.mul_comm (256 ^ t.length) 256, ← Nat.mul_assoc c.toNat, Nat.mul_comm c.toNat 256, Nat.mul_assoc]
    omega
theorem lev_lt : ∀ t : List UInt8, lev t < 256 ^ t.length
  | [] => by simp [lev]
  | c :: t => by
    have := lev_lt t
    have hc : c.toNat < 256 := c.toNat_lt
    rw [List.length_cons, Nat.pow_succ]
    show c.toNat + 256 * lev t < _
    omega

theorem or_shift (X j : Nat) (z : UInt8) (hX : X < 256 ^ j) (hj : j < 8) : bits .or .u64 (X : Int) (IntKind.u64.wrap ((z.toNat : Int) * 2 ^ (8 * j))) = ((X + z.toNat * 256 ^ j : Nat) : Int) := by
  have hz : z.toNat < 256 := z.toNat_lt
  have hp : (256 : Nat) ^ j = 2 ^ (8 * j) := by rw [show (256 : Nat) = 2 ^ 8 from rfl, ← Nat.pow_mul]
  have h8 : (2 : Nat) ^ (8 * j) ≤ 2 ^ 56 := Nat.pow_le_pow_right (by omega) (by omega)
  have h1 : z.toNat * 2 ^ (8 * j) ≤ 255 * 2 ^ (8 * j) := Nat.mul_le_mul_right _ (by omega)
  have hc : (z.toNat : Int) * 2 ^ (8 * j) = ((z.toNat * 2 ^ (8 * j) : Nat) : Int) := by rw [Int.natCast_mul, Int.natCast_pow]; rfl
  rw [hc, IntKind.wrap_u64, Int.emod_eq_of_lt (by omega) (by omega), u64_or_nat X _ (by omega) (by omega), Nat.or_comm, nat_join (8 * j) _ X (by simp) (by omega), hp, Nat.add_comm]

set_option maxHeartbeats 400000 in
theorem Rdr.word {w : World} {lo hi g : Nat} {l : List UInt8} {k e : Nat} (h : Rdr w lo hi g l k e) (hl : l.length ≤ 1000000000) (size : Int) :
    Calls Try.prog 43 #[.pointer (some ⟨g, 0, none⟩), .int .i64 size] w (RdGives w lo hi g l (.int .u64 (lev (takeS l k e (wsz size)).1)) (takeS l k e (wsz size)).2.1 (takeS l k e (wsz size)).2.2) := by
  have k1 := wsz_pos size
  have k8 := wsz_le size
  have CW := Lib.hid (fun w => (wordSize_any size w).mono (R' := fun e w' => e = .returned (.int .i64 (wsz size)) ∧ w = w') fun e w' h => ⟨h.1.trans (ret_int (by unfold wsz; omega)), h.2⟩)
  have CT := Lib.hid (h.take hl (wsz size) (by omega))
  have hlen : (takeS l k e (wsz size)).1.length ≤ 8 := by
    unfold takeS
    split
    · simp
    · split
      · simp
      · simp [List.length_take]; omega
  generalize wsz size = s at *
  generalize takeS l k e s = r at *
  obtain ⟨out, k2, e2⟩ := r
  simp only at CT hlen
  clear h
  generalize decide (e = 0 ∧ s ≤ l.length - k) = ok at *
  go_enter Try.func43, Try.ntmps43
  go_wp2_with (first | (go_at_call 31; refine (CW.out _).mono ?_; rintro e' w' ⟨rfl, rfl⟩) | (go_at_call 52; refine CT.out.mono ?_; rintro e' w1 ⟨hg1, hr1, A', c', rfl, hc1, hc2, hs⟩; have HG := Lib.hid hg1; have HR := Lib.hid hr1; clear hg1 hr1))
  go_loop [5, 8, 9, 20] (fun v _ _ i => ∃ j : Nat, j ≤ out.length ∧ i = .int .i64 j ∧ v = .int .u64 (lev (out.take j))) (fun _ _ _ i => out.length - (intOf i).toNat)
  case atStart => exact ⟨0, by omega, rfl, by simp [lev]⟩
  case round =>
    obtain ⟨j, hj, rfl, rfl⟩ := hrel
    by_cases hlt : j < out.length
    · obtain ⟨b, o, rfl, _, hcell⟩ := hs.lies (by omega)
      have hcj : w1.cell? ⟨b, o + j, none⟩ = some (.int .u8 (out[j].toNat : Int)) := by
        rw [hcell j hlt, bcs_get, List.getElem?_eq_getElem hlt]; rfl
      have HS : Hid (lev (out.take (j + 1)) = lev (out.take j) + out[j].toNat * 256 ^ j) := by
        rw [List.take_succ_eq_append_getElem hlt, lev_snoc, List.length_take, Nat.min_eq_left (by omega)]
        exact rfl
      have HX : Hid (lev (out.take j) < 256 ^ j) := by
        have := lev_lt (out.take j)
        rw [List.length_take, Nat.min_eq_left (by omega)] at this
        exact this
      clear hcell hs
      generalize lev (out.take j) = X at *
      generalize out[j] = z at *
      have hzb : z.toNat < 256 := z.toNat_lt
      go_wp2
      go_roundw
      case rel => exact ⟨j + 1, by omega, by go_num, by rw [HS.out, or_shift X j z HX.out (by omega)]⟩
      case measure => simp [intOf]; omega
    · obtain rfl : j = out.length := by omega
      go_wp2
      go_ret
      exact ⟨rfl, HG.out, HR.out⟩

theorem word_nil (size : Int) (w : World) : Calls Try.prog 43 #[.pointer none, .int .i64 size] w fun e' w' => e' = .returned (.int .u64 0) ∧ w = w' := by
  have k1 := wsz_pos size
  have k8 := wsz_le size
  have CW := Lib.hid (fun w => (wordSize_any size w).mono (R' := fun e w' => e = .returned (.int .i64 (wsz size)) ∧ w = w') fun e w' h => ⟨h.1.trans (ret_int (by unfold wsz; omega)), h.2⟩)
  generalize wsz size = s at *
  go_enter Try.func43, Try.ntmps43
  go_wp2_with (first | (go_at_call 31; refine (CW.out _).mono ?_; rintro e' w' ⟨rfl, rfl⟩) | (go_at_call 52; refine (take_nil _ _).mono ?_; rintro e' w' ⟨rfl, rfl⟩))
  refine wp_loop_rounds 1 ?_
  rw [rounds_succ]
  go_wp2
  go_ret
  exact ⟨rfl, rfl⟩
theorem zero22 (w : World) : (zeroValue 22).run Try.prog w = .ok (.agg (zarr 32)) w := by kernel_rfl
theorem build22 (w : World) : (Instr.build 22 #[]).run Try.prog w = .ok (.agg (zarr 32)) w := by kernel_rfl
theorem size22 : (Try.prog.info? 22).map (·.size) = some (zarr 32).size := by kernel_rfl
theorem zarr_one (n : Nat) : ∀ u ∈ (zarr n).toList, u.oneCell' = true := by rw [zarr_bcs]; exact bcs_one _

theorem under22 : Try.prog.underlying 22 = some (.array 32 5) := by kernel_rfl
theorem run_arr22 (A : Option Addr) (n c : Nat) (h : 32 ≤ n) (w : World) : (Instr.arrayAt 22 (.slice A n c)).run Try.prog w = .ok (.pointer A) w := by
  have hn : ¬ n < 32 := by omega
  simp [Instr.arrayAt, run_underlying under22, hn]

end Go.Proofs.Ytkglicidjdifkaa
