/- A disk's image. No statement is proved here. -/
import Derived.Test.YtfhjcfoecmbhkaaDD
namespace Go.Proofs.Ytfhjcfoecmbhkaa
open Go.RowKit Go.Maps
set_option linter.unusedVariables false
set_option linter.unusedSimpArgs false

theorem ownBlock_ge {w : World} {base : Nat} {e : TypeId} {size : Nat} {v : Value} {k r : Nat} {xs : List Value} (h : w.ownsRow base e size v k xs) (hr : v.ownBlock = some r) : base ≤ r := by
  rcases h.2 with ⟨rfl, _⟩ | ⟨g, cap, cur, rfl, hb, _⟩
  · cases hr
  · have hr2 : some g = some r := hr
    injection hr2 with hr2
    omega
def valOf : Value → Int
  | .int _ z => z
  | _ => 0
theorem ownsRow_keep {w w' : World} {base : Nat} {e : TypeId} {size : Nat} {v : Value} {k : Nat} {xs : List Value} (h : w.ownsRow base e size v k xs) (hb : Below w.heap.size w w') : w'.ownsRow base e size v k xs := by
  obtain ⟨h1, h2⟩ := h
  refine ⟨h1, h2.imp id ?_⟩
  rintro ⟨g, cap, cur, e1, e2, hg, r⟩
  exact ⟨g, cap, cur, e1, e2, (hb.block g (Array.getElem?_eq_some_iff.1 hg).1).trans hg, r⟩
set_option maxRecDepth 100000 in
set_option maxHeartbeats 1000000 in
theorem joined_any (w : World) (b n c : Nat) (S : Nat → List UInt8) (hok : SOk n S) (hc : ∀ j u, (bcs (flat n S))[j]? = some u → w.cell? ⟨b, j, none⟩ = some u) (hb : b < w.heap.size) (hn : n ≤ 16384) :
    Calls Try.prog 45 #[.slice (some ⟨b, 0, none⟩) n c] w fun e w' => ∃ v, e = .returned v ∧ w'.ownsRow w.heap.size 5 1 v (256 * n) (bcs (flat n S)) ∧ Below w.heap.size w w' := by
  obtain ⟨i0, hi, hq0, hq1, hq2⟩ := info_parts info5
  have HC := Lib.hid hc
  have HOK := Lib.hid hok
  have HM := Lib.hid (show (n : Int) * 256 = ((n * 256 : Nat) : Int) by omega)
  have hw0 : IntKind.i64.wrap ((n : Int) * 256) = (n : Int) * 256 := IntWalk.i64_in _ (by omega)
  clear hc hok
  go_enter Try.func45, Try.ntmps45
  go_wp2_with ((with_reducible show wpList _ _ _ (⟨some 9, .makeSlice 27 _ _, _, _, _, _⟩ :: _) _ _); go_must (refine wpList_mkB rfl _ _ rfl 0 (n * 256) rfl (congrArg (Value.int .i64) HM.out) (Nat.zero_le _) (by omega) ?_; intro w1 hh1 hz1 hg1))
  have HO1 : Hid (w1.ownsRow w.heap.size 5 1 (.slice (some ⟨w.heap.size, 0, none⟩) 0 (n * 256)) 0 (bcs (flat 0 S))) := Lib.hid ⟨rfl, .inr ⟨_, _, _, rfl, Nat.le_refl _, hh1, Nat.zero_le _, by unfold maxLen; omega, by simp [bcs_len, zs_len], rfl⟩⟩
  have HB1 := Lib.hid (below_of_grownBy hg1)
  clear hh1 hg1
  go_loopw [3, 12] (fun v i wr => ∃ k : Nat, k ≤ n ∧ i = .int .i64 k ∧ wr.ownsRow w.heap.size 5 1 v (256 * k) (bcs (flat k S)) ∧ Below w.heap.size w wr) (fun _ i _ => n - (valOf i).toNat)
  case atStart => exact ⟨0, by omega, rfl, HO1.out, HB1.out⟩
  case round =>
    obtain ⟨k, hk, rfl, ho, hb⟩ := hrel
    have HO := Lib.hid ho
    have HB := Lib.hid hb
    clear ho hb HO1 HB1
    by_cases hlt : k < n
    · have HS : Hid ((S k).length = 256) := Lib.hid (HOK.out k hlt)
      have HL : Hid (∀ j u, (bcs (S k))[j]? = some u → wr.cell? ⟨b, k * 256 + j, none⟩ = some u) := Lib.hid (fun j u hj => by
        have hj2 : j < 256 := by have := (List.getElem?_eq_some_iff.1 hj).1; rw [bcs_len, HS.out] at this; exact this
        refine (HB.out.cell (p := ⟨b, k * 256 + j, none⟩) (by show b < _; assumption)).trans (HC.out _ u ?_)
        rw [bcs_get, show k * 256 + j = 256 * k + j from by omega, flat_byte HOK.out hlt hj2, ← bcs_get]
        exact hj)
      have h0 : (k : Int) < (n : Int) := by omega
      have M1 : Hid True := trivial
      go_wp2_with (first | ((with_reducible show wpList _ _ _ (⟨some 15, .load 63 (.tmp 14), _, _, _, _⟩ :: _) _ _); go_must (refine wpList_load_arr rfl 63 (.tmp 14) rfl b (k * 256) rfl (bcs (S k)) HL.out _ under63 rfl (by rw [size63, bcs_len, HS.out]) ?_)) | (clear M1; with_reducible refine wpList_al63 rfl rfl ?_; go_must (intro w1 hh1 hz1 hg1; have HG1 := Lib.hid hg1; have HH1 := Lib.hid hh1; clear hg1 hh1)) | ((with_reducible show wpList _ _ _ (⟨none, .store 63 (.tmp 5) (.tmp 15), _, _, _, _⟩ :: _) _ _); go_must (refine wpList_store_all rfl 63 (.tmp 5) (.tmp 15) rfl wr.heap.size rfl _ rfl 63 (zarr 256) HH1.out (by rw [size63]; simp [bcs_len, HS.out]) (by simp [bcs_len, HS.out, zarr]) (by simpa using bcs_one _) ?_; intro w2 hh2 hg2 hz2; have HB2 : Hid (Below wr.heap.size wr w2) := Lib.hid ((below_of_grownBy HG1.out).grown hg2 (by omega) (fun r hr => by cases hr; omega)); have HO2 : Hid (w2.ownsRow w.heap.size 5 1 _ (256 * k) (bcs (flat k S))) := Lib.hid (ownsRow_keep HO.out HB2.out); have HS2 : Hid (Src w2 (fun g => g = wr.heap.size) (some ⟨wr.heap.size, 0, none⟩) 256 (bcs (S k))) := Lib.hid ⟨by rw [bcs_len, HS.out], fun _ => ⟨_, _, rfl, rfl, fun k hk => by rw [cell_of_row w2 _ _ _ _ _ hh2]; simp⟩⟩; clear hg2 hh2)) | (at_builtin; go_must (refine wpList_app _ rfl _ _ 27 rfl w.heap.size 5 i0 (.int .u8 0) 1 under27 hi hq0 hq1 hq2 rfl _ (256 * k) _ rfl HO2.out _ _ 256 256 (bcs (S k)) rfl HS2.out (bcs_one _) (by unfold maxLen; omega) (by omega) (by have := HB.out.size; have := HB2.out.size; omega) ?_; intro v3 w3 ho3 hg3 hl3)))
      have hg4 : w2.grownBy w3 u3.ownBlock := hg3
      have hz := HB.out.size
      refine ⟨⟨k + 1, by omega, by go_num, ?_, ?_⟩, by simp [valOf]; omega⟩
      · have := ho3
        rw [← bcs_append] at this
        exact this
      · exact (HB.out.trans (HB2.out.mono hz)).grown hg4 (by have := HB2.out.size; omega) (fun r hr => ownBlock_ge HO.out hr)
    · obtain rfl : k = n := by omega
      go_wp2
      go_ret
      exact ⟨_, rfl, HO.out, HB.out⟩

section
variable {w : World} {lo hi p n : Nat} {S : Nat → List UInt8} {C : Nat → Option (List UInt8)}
set_option maxHeartbeats 600000 in
theorem image_any (h : Dk w lo hi p n S C) : Calls Try.prog 29 #[.pointer (some ⟨p, 0, none⟩)] w fun e w' => ∃ v, e = .returned v ∧ w'.ownsRow w.heap.size 5 1 v (256 * n) (bcs (flat n S)) ∧ Below w.heap.size w w' := by
  have hV := valid_any h
  obtain ⟨bs, bm, cap, cur, D, h⟩ := h
  have c0 := h.c0
  have HJ := Lib.hid (joined_any w bs n cap S h.sok (fun j u hj => by
    rw [← h.ht, List.getElem?_take] at hj
    split at hj
    · rw [cell_of_row w bs _ _ _ _ h.hs]
      simpa using hj
    · cases hj) (by have := h.s1; have := h.hle; omega) h.n2)
  clear h
  go_enter Try.func29, Try.ntmps29
  go_wp2_with (first | (go_at_call 35; refine hV.mono ?_; rintro e w' ⟨rfl, rfl⟩) | (go_at_call 45; refine HJ.out.mono ?_; rintro e2 w2 ⟨v2, rfl, ho2, hb2⟩))
  go_ret
  exact ⟨v2, rfl, ho2, hb2⟩
end
set_option maxHeartbeats 600000 in
theorem image_nil (w : World) : Calls Try.prog 29 #[.pointer none] w fun e w' => e = .returned (.slice none 0 0) ∧ w' = w := by
  have hV := valid_nil
  go_enter Try.func29, Try.ntmps29
  go_wp2_with (go_at_call 35; refine (hV _).mono ?_; rintro e w' ⟨rfl, rfl⟩)
  go_ret
  exact ⟨rfl, rfl⟩
end Go.Proofs.Ytfhjcfoecmbhkaa
