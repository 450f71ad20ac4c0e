/- Powers of wide numbers, and which is greater. No statement is proved here. -/
import Derived.Test.YtphalfpmgbmcaaaT
namespace Go.Proofs.Ytphalfpmgbmcaaa
open Go.RowKit
set_option linter.unusedVariables false

/-- The memory of a power. -/
structure Pw (B : Nat) (w0 : World) (A C : Nat) (w : World) : Prop where
  b0 : w.heap[B]? = some (.cells (ucs (wl A)).toArray 62 (0, 0))
  b1 : w.heap[B + 1]? = some (.cells (zw 4) 62 (0, 0))
  b2 : w.heap[B + 2]? = some (.cells (ucs (wl C)).toArray 62 (0, 0))
  lt : B + 3 ≤ w.heap.size
  bel : Below B w0 w
theorem Pw.below {B : Nat} {w0 : World} {A C : Nat} {w w' : World} (h : Pw B w0 A C w) (hb : Below w.heap.size w w') : Pw B w0 A C w' := by
  have := h.lt
  exact ⟨(hb.block _ (by omega)).trans h.b0, (hb.block _ (by omega)).trans h.b1, (hb.block _ (by omega)).trans h.b2, Nat.le_trans h.lt hb.size, h.bel.trans (hb.mono (by omega))⟩
theorem szw (A : Nat) : (Try.prog.info? 62).map (·.size) = some (ucs (wl A)).toArray.size := by rw [size62]; rfl
theorem szl (A : Nat) : (Try.prog.info? 62).map (·.size) = some (ucs (wl A)).length := by rw [size62]; rfl

set_option maxRecDepth 100000 in
set_option maxHeartbeats 1000000 in
theorem power_any (A d : Nat) (h1 : 1 ≤ d) (h3 : d ≤ 3) (w : World) : Calls Try.prog 46 #[.agg (ucs (wl A)).toArray, .int .i64 d] w (Gives (.agg (ucs (wl (A ^ d))).toArray) w) := by
  have M1 : Hid True := trivial
  have HLD : Hid (∀ (w : World) g D t, w.heap[g]? = some (.cells (ucs (wl D)).toArray t (0, 0)) → ∀ i u, (ucs (wl D))[i]? = some u → w.cell? ⟨g, 0 + i, none⟩ = some u) := fun w g D t h i u hu => by
    rw [Nat.zero_add]
    exact row_cells h i u (by simpa using hu)
  have HL0 : Hid (∀ w0 : World, (w.alloc (.cells (ucs (wl A)).toArray 62)).grownBy w0 none → ∀ i u, (ucs (wl A))[i]? = some u → w0.cell? ⟨w.heap.size, 0 + i, none⟩ = some u) := fun w0 hg0 => HLD.out w0 w.heap.size A 62 ((hg0.block _ (by simp) (by simp)).trans (heap_alloc_new w _))
  go_enter Try.func46, Try.ntmps46
  go_wp2_with (first | (clear M1; with_reducible refine wpList_alloc_row rfl 62 rfl (.agg (zw 4)) zero62 ?_; intro w0 hh0 hz0 hg0; have HZ0 := Lib.hid hz0; have HA0 := Lib.hid (HL0.out w0 hg0)) | ((with_reducible show wpList _ _ _ (⟨_, .load 62 (.tmp 2), _, _, _, _⟩ :: _) _ _); refine wpList_load_arr rfl 62 (.tmp 2) rfl w.heap.size 0 rfl (ucs (wl A)) HA0.out _ under62 rfl (szl A) ?_) | (with_reducible refine wpList_alloc_row rfl 62 rfl (.agg (zw 4)) zero62 ?_; intro w1 hh1 hz1 hg1; have HZ := Lib.hid hz1; have HH1 := Lib.hid hh1) | ((with_reducible show wpList _ _ _ (⟨none, .store 62 (.tmp 5) (.tmp 6), _, _, _, _⟩ :: _) _ _); refine wpList_store_all rfl 62 (.tmp 5) (.tmp 6) rfl w0.heap.size rfl (ucs (wl A)).toArray rfl 62 (zw 4) HH1.out (szw A) rfl (ucs_one _) ?_; intro w2 hh2 hg2 hz2))
  simp only [World.size_alloc] at hh0
  have HP : Hid (Pw w.heap.size w A A w2) := by
    have z0 := HZ0.out
    have z1 := HZ.out
    simp only [World.size_alloc] at z0
    have e0 : w0.heap.size = w.heap.size + 2 := z0
    rw [e0] at hh2 hg2
    refine ⟨?_, ?_, hh2, by omega, ?_⟩
    · exact (hg2.block _ (by omega) (by simp)).trans ((hg1.block _ (by omega) (by simp)).trans ((hg0.block _ (by simp) (by simp)).trans (heap_alloc_new w _)))
    · exact (hg2.block _ (by omega) (by simp)).trans ((hg1.block _ (by omega) (by simp)).trans hh0)
    · exact (((below_alloc w _).grown hg0 (by simp) (by simp)).grown hg1 (by omega) (by simp)).grown hg2 (by omega) (fun r hr => by injection hr; omega)
  clear hh0 hh1 hh2 hg0 hg1 hg2 HZ0 HZ HA0 HH1
  go_loopw [9] (fun i wr => ∃ n : Nat, n ≤ d - 1 ∧ i = .int .i64 n ∧ Pw w.heap.size w A (A ^ (n + 1)) wr) (fun i _ => (d - 1) - (intOf i).toNat)
  case atStart => exact ⟨0, by omega, rfl, by simpa using HP.out⟩
  case round =>
    obtain ⟨n, hn, rfl, hpw⟩ := hrel
    have H := Lib.hid hpw
    clear hpw HP
    by_cases hlt : n < d - 1
    · have hni : (n : Int) < (d : Int) - 1 := by omega
      have HCA := Lib.hid (HLD.out wr w.heap.size A 62 H.out.b0)
      have HCC := Lib.hid (HLD.out wr (w.heap.size + 2) (A ^ (n + 1)) 62 H.out.b2)
      have hpo : A ^ (n + 1) * A = A ^ (n + 1 + 1) := (Nat.pow_succ ..).symm
      have HPO := Lib.hid hpo
      have HTM := Lib.hid (times_any (A ^ (n + 1)) A)
      clear hpo
      generalize A ^ (n + 1) = D at *
      go_wp2_with (first | ((with_reducible show wpList _ _ _ (⟨_, .load 62 (.tmp 5), _, _, _, _⟩ :: _) _ _); refine wpList_load_arr rfl 62 (.tmp 5) rfl (w.heap.size + 2) 0 rfl (ucs (wl D)) HCC.out _ under62 rfl (szl D) ?_) | ((with_reducible show wpList _ _ _ (⟨_, .load 62 (.tmp 2), _, _, _, _⟩ :: _) _ _); refine wpList_load_arr rfl 62 (.tmp 2) rfl w.heap.size 0 rfl (ucs (wl A)) HCA.out _ under62 rfl (szl A) ?_) | (go_at_call 53; refine (HTM.out wr).mono ?_; rintro e w5 ⟨rfl, hb5⟩; rw [HPO.out]; have H5 := Lib.hid (H.out.below hb5); clear hb5) | ((with_reducible show wpList _ _ _ (⟨none, .store 62 (.tmp 5) (.tmp 13), _, _, _, _⟩ :: _) _ _); refine wpList_store_all rfl 62 (.tmp 5) (.tmp 13) rfl (w.heap.size + 2) rfl (ucs (wl (A ^ (n + 1 + 1)))).toArray rfl 62 (ucs (wl D)).toArray H5.out.b2 (szw _) rfl (ucs_one _) ?_; intro w6 hh6 hg6 hz6; have H6 : Hid (Pw w.heap.size w A (A ^ (n + 1 + 1)) w6) := (by have h5 := H5.out; have := h5.lt; exact ⟨(hg6.block _ (by omega) (by simp)).trans h5.b0, (hg6.block _ (by omega) (by simp)).trans h5.b1, hh6, by omega, h5.bel.grown hg6 (by omega) (fun r hr => by injection hr; omega)⟩); clear hh6 hg6 hz6 H5))
      go_roundw
      case rel => exact ⟨n + 1, by omega, by go_num, H6.out⟩
      case measure => simp [intOf]; omega
    · have hnd : n = d - 1 := by omega
      have hnd2 : n + 1 = d := by omega
      rw [hnd2] at H
      have hni : ¬ (n : Int) < (d : Int) - 1 := by omega
      clear hnd hnd2 hlt
      have HCC := Lib.hid (HLD.out wr (w.heap.size + 2) (A ^ d) 62 H.out.b2)
      generalize A ^ d = D at *
      have HLT := H.out.lt
      go_wp2_with (first | ((with_reducible show wpList _ _ _ (⟨_, .load 62 (.tmp 5), _, _, _, _⟩ :: _) _ _); refine wpList_load_arr rfl 62 (.tmp 5) rfl (w.heap.size + 2) 0 rfl (ucs (wl D)) HCC.out _ under62 rfl (szl D) ?_) | ((with_reducible show wpList _ _ _ (⟨none, .store 62 (.tmp 4) (.tmp 15), _, _, _, _⟩ :: _) _ _); refine wpList_store_all rfl 62 (.tmp 4) (.tmp 15) rfl (w.heap.size + 1) rfl (ucs (wl D)).toArray rfl 62 (zw 4) H.out.b1 (szw _) rfl (ucs_one _) ?_; intro w3 hh3 hg3 hz3))
      have H3 := Lib.hid hh3
      have G3 := Lib.hid hg3
      clear hh3 hg3
      go_wp2
      refine bodyPost_ret (results_cell_row rfl _ _ (w.heap.size + 1) 62 (ucs (wl D)).toArray _ _ rfl H3.out under62 rfl (szw D)) rfl ?_
      exact ⟨rfl, H.out.bel.grown G3.out (by omega) (fun r hr => by injection hr; omega)⟩
end Go.Proofs.Ytphalfpmgbmcaaa
