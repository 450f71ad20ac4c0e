/- What the laws write to disks, and how they choose a call. No statement is proved here. -/
import Derived.Test.YtfhjcfoecmbhkaaDF
namespace Go.Proofs.Ytfhjcfoecmbhkaa
open Go.RowKit Go.Maps
set_option linter.unusedVariables false
set_option linter.unusedSimpArgs false

/-- A sector of a byte. -/
def rep (b : UInt8) : List UInt8 := List.replicate 256 b
theorem rep_len (b : UInt8) : (rep b).length = 256 := List.length_replicate
theorem bcs_set (l : List UInt8) (j : Nat) (x : UInt8) : (bcs l).toArray.setIfInBounds j (.int .u8 (x.toNat : Int)) = (bcs (l.set j x)).toArray := by
  rw [List.setIfInBounds_toArray]
  unfold bcs
  rw [List.map_set]
  rfl
theorem rep_step (b : UInt8) (k : Nat) (hk : k < 256) : (List.replicate k b ++ zs (256 - k)).set k b = List.replicate (k + 1) b ++ zs (256 - (k + 1)) := by
  have h1 : zs (256 - k) = 0 :: zs (256 - (k + 1)) := by
    unfold zs
    rw [show 256 - k = (256 - (k + 1)) + 1 from by omega, List.replicate_succ]
  rw [List.set_append_right _ _ (by simp), h1, List.length_replicate, Nat.sub_self, List.set_cons_zero, List.replicate_succ']
  simp
theorem size5 : (Try.prog.info? 5).map (·.size) = some 1 := by kernel_rfl

set_option maxRecDepth 100000 in
set_option maxHeartbeats 1000000 in
theorem row_any (w : World) (b : UInt8) : Calls Try.prog 10 #[.int .u8 (b.toNat : Int)] w fun e w' => e = .returned (.slice (some ⟨w.heap.size, 0, none⟩) 256 256) ∧ w'.heap[w.heap.size]? = some (.cells (bcs (rep b)).toArray 5 (0, 0)) ∧ Below w.heap.size w w' := by
  have HST := Lib.hid (rep_step b)
  have HR0 : Hid (List.replicate 0 b ++ zs (256 - 0) = zs 256) := Lib.hid rfl
  have HR9 : Hid (List.replicate 256 b ++ zs (256 - 256) = rep b) := Lib.hid (by simp [rep, zs])
  generalize rep b = R at *
  go_enter Try.func10, Try.ntmps10
  go_wp2_with ((with_reducible show wpList _ _ _ (⟨some 5, .makeSlice 27 _ _, _, _, _, _⟩ :: _) _ _); go_must (refine wpList_mkB rfl _ _ rfl 256 256 rfl rfl (Nat.le_refl _) (by omega) ?_; intro w1 hh1 hz1 hg1))
  have HB1 := Lib.hid (below_of_grownBy hg1)
  have HH1 := Lib.hid hh1
  clear hh1 hg1
  go_loopw [4] (fun v wr => ∃ k : Nat, k ≤ 256 ∧ v = .int .i64 k ∧ wr.heap[w.heap.size]? = some (.cells (bcs (List.replicate k b ++ zs (256 - k))).toArray 5 (0, 0)) ∧ Below w.heap.size w wr) (fun v _ => 256 - (valOf v).toNat)
  case atStart => exact ⟨0, by omega, rfl, by rw [HR0.out]; exact HH1.out, HB1.out⟩
  case round =>
    obtain ⟨k, hk, rfl, hh, hb⟩ := hrel
    have HH := Lib.hid hh
    have HB := Lib.hid hb
    clear hh hb HH1 HB1
    by_cases hlt : k < 256
    · have h0 : (k : Int) < 256 := by omega
      have HX := Lib.hid (HST.out k hlt)
      have HLL : Hid (k < (bcs (List.replicate k b ++ zs (256 - k))).toArray.size) := Lib.hid (by simp [bcs_len, zs_len]; omega)
      generalize List.replicate k b ++ zs (256 - k) = L at *
      go_wp2_with ((with_reducible show wpList _ _ _ (⟨none, .store 5 _ _, _, _, _, _⟩ :: _) _ _); go_must (refine wpList_store_one rfl 5 _ _ rfl w.heap.size k rfl .u8 _ rfl 5 _ HH.out size5 HLL.out ?_; intro w2 hh2 hg2 hz2))
      refine ⟨⟨k + 1, by omega, by go_num, ?_, HB.out.grown hg2 HB.out.size (fun r hr => by cases hr; exact Nat.le_refl _)⟩, by simp [valOf]; omega⟩
      rw [← HX.out, ← bcs_set]
      exact hh2
    · obtain rfl : k = 256 := by omega
      go_wp2
      go_ret
      exact ⟨rfl, by rw [← HR9.out]; exact HH.out, HB.out⟩

/-- The remainder from 0 on. -/
def pk (z : Int) (m : Nat) : Nat := (z % (m : Int)).toNat
theorem pk_lt (z : Int) (m : Nat) (hm : 0 < m) : pk z m < m := by
  unfold pk
  have h1 := Int.emod_nonneg z (show (m : Int) ≠ 0 by omega)
  have h2 := Int.emod_lt_of_pos z (show (0 : Int) < m by omega)
  omega
theorem pk_tmod (z : Int) (m : Nat) (hm : 0 < m) : ((pk z m : Nat) : Int) = if z.tmod m < 0 then z.tmod m + m else z.tmod m := by
  unfold pk
  have h1 := Int.emod_nonneg z (show (m : Int) ≠ 0 by omega)
  rw [Int.toNat_of_nonneg h1]
  have h2 := Int.mul_tdiv_add_tmod z m
  have h3 := Int.tmod_lt_of_pos z (show (0 : Int) < m by omega)
  have h4 := Int.lt_tmod_of_pos z (show (0 : Int) < m by omega)
  split
  · rw [show z % (m : Int) = (z.tmod m + m) % m from ?_]
    · exact Int.emod_eq_of_lt (by omega) (by omega)
    · conv => lhs; rw [← h2]
      rw [Int.add_comm, Int.add_mul_emod_self_left, Int.add_emod_right]
  · rw [show z % (m : Int) = (z.tmod m) % m from ?_]
    · exact Int.emod_eq_of_lt (by omega) (by omega)
    · conv => lhs; rw [← h2]
      rw [Int.add_comm, Int.add_mul_emod_self_left]
set_option maxHeartbeats 600000 in
theorem pick_any (w : World) (z : Int) (m : Nat) (hm : 0 < m) (hm2 : m ≤ 1000) : Calls Try.prog 19 #[.int .i64 z, .int .i64 (m : Int)] w fun e w' => e = .returned (.int .i64 (pk z m : Nat)) ∧ w' = w := by
  have hp := pk_tmod z m hm
  have h3 := Int.tmod_lt_of_pos z (show (0 : Int) < m by omega)
  have h4 := Int.lt_tmod_of_pos z (show (0 : Int) < m by omega)
  have h5 : ¬ ((m : Int) < 1) := by omega
  have h6 : ((m : Int) == 0) = false := by simp; omega
  have h7 : (m : Int) ≠ 0 := by omega
  have HP := Lib.hid hp
  have hw : IntKind.i64.wrap (z.tmod m) = z.tmod m := IntWalk.i64_in _ (by omega)
  have hw2 : IntKind.i64.wrap (z.tmod m + m) = z.tmod m + m := IntWalk.i64_in _ (by omega)
  clear hp
  by_cases hn : z.tmod m < 0
  · go_enter Try.func19, Try.ntmps19
    go_wp2
    go_ret
    exact ⟨by have := HP.out; rw [if_pos hn] at this; rw [this]; rfl, rfl⟩
  · go_enter Try.func19, Try.ntmps19
    go_wp2
    go_ret
    exact ⟨by have := HP.out; rw [if_neg (by omega)] at this; rw [this]; rfl, rfl⟩
end Go.Proofs.Ytfhjcfoecmbhkaa
