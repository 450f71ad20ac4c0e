/- The curve chapter's examples. No statement is proved here. -/
import Derived.Test.YtgdimnbdnepbgaaEJ
namespace Go.Proofs.Ytgdimnbdnepbgaa
open Go.RowKit
set_option linter.unusedVariables false
set_option maxRecDepth 40000
set_option linter.unusedSimpArgs false

def oddOne : Nat := 57896044618658097711785492504343953926634992332820282019728792003956564819969

set_option maxHeartbeats 4000000 in
theorem clives_core (bx by' n1 : Nat) (w : World) (C1 : Hid (∀ w, Calls Try.prog 42 #[] w (Gives (vR [bx, by']) w))) (C2 : Hid (∀ w, Calls Try.prog 36 #[vR [bx, by']] w (Gives (.tuple #[vN by', .int .i64 0]) w)))
    (C3 : Hid (∀ w, Calls Try.prog 35 #[vN n1] w (Gives (.tuple #[vR [0, 0], .int .i64 4]) w))) (HN : Hid (vN oddOne = vN n1))
    (H0 : Hid (((enc by').getD 0 0).toNat = 88)) (HB : Hid (∀ i, 1 ≤ i → i < 32 → ((enc by').getD i 0).toNat = 102)) :
    Calls Try.prog 38 #[] w (Gives (.bool true) w) := by
  go_enter Try.func38, Try.ntmps38
  go_wp2_with fail
  refine (C1.out _).mono ?_
  rintro e x1 ⟨rfl, hb⟩
  have HF1 : Hid (Below w.heap.size w x1) := hb
  clear hb
  go_wp2_with fail
  refine (C2.out _).mono ?_
  rintro e x2 ⟨rfl, hb⟩
  have HF2 := Lib.hid (HF1.out.trans (hb.mono HF1.out.size))
  clear hb HF1
  go_wp2_with (first | ((with_reducible show wpList _ _ _ (⟨some 1, .alloc 22, _, _, _, _⟩ :: _) _ _); go_must (refine wpList_alloc_row rfl 22 rfl (.agg (zbs 32)) zero22 ?_; intro a1 h1 z1 g1; have H1 := Lib.hid h1; have Z1 := Lib.hid z1; have G1 := Lib.hid g1; clear h1 z1 g1)) | ((with_reducible show wpList _ _ _ (⟨none, .store 22 (.tmp 1) (.tmp 9), _, _, _, _⟩ :: _) _ _); go_must (refine wpList_store_all rfl 22 (.tmp 1) (.tmp 9) rfl (x2.heap.size) rfl (bcs (enc by')).toArray rfl 22 _ H1.out (by rw [List.size_toArray, bcs_enc_len]; exact size22) (by rw [List.size_toArray, bcs_enc_len]; rfl) (bcs_one _) ?_; intro b5 hh hg hz; have HA : Hid (BAt b5 x2.heap.size (enc by')) := Lib.hid ⟨enc_len _, 22, hh⟩; have HF3 : Hid (Below w.heap.size w b5) := Lib.hid ((HF2.out.grown G1.out HF2.out.size (by simp)).grown hg (by have := HF2.out.size; have := Z1.out; omega) (fun r hr => by injection hr with hr; have := HF2.out.size; omega)); clear hh hg hz H1 Z1 G1 HF2)) | fail)
  generalize x2.heap.size = g at *
  go_loopw [3] (fun i wr => ∃ n : Nat, n ≤ 32 ∧ i = .int .i64 n ∧ 1 ≤ n ∧ BAt wr g (enc by') ∧ Below w.heap.size w wr) (fun i _ => 32 - (intOf i).toNat)
  case atStart => exact ⟨1, by omega, rfl, by omega, HA.out, HF3.out⟩
  case round =>
    obtain ⟨n, hn, rfl, hn1, hp, hq⟩ := hrel
    have HA := Lib.hid hp
    have HF := Lib.hid hq
    clear hp hq HF3
    by_cases hlt : n < 32
    · have hni : (n : Int) < 32 := by omega
      have cn := HA.out.cell n hlt
      rw [HB.out n hn1 hlt] at cn
      go_wp2_with fail
      exact ⟨⟨n + 1, by omega, by go_num, by omega, HA.out, HF.out⟩, by simp [intOf]; omega⟩
    · obtain rfl : n = 32 := by omega
      go_wp2_with (first | ((with_reducible show wpList _ _ _ (⟨_, .build 22 _, _, _, _, _⟩ :: _) _ _); go_must (refine wpList_exec rfl (vN n1) (exec_buildc rfl (by rw [← HN.out]; kernel_rfl)) ?_)) | fail)
      refine (C3.out _).mono ?_
      rintro e x3 ⟨rfl, hb⟩
      have HA2 : Hid (BAt x3 g (enc by')) := Lib.hid (HA.out.keep hb)
      have HF4 := Lib.hid (HF.out.trans (hb.mono HF.out.size))
      clear hb HA HF
      go_wp2_with (first | ((with_reducible show wpList _ _ _ (⟨some 4, .alloc 35, _, _, _, _⟩ :: _) _ _); go_must (refine wpList_alloc_row rfl 35 rfl (.agg (zbs 64)) zero35 ?_; intro a2 h1 z1 g1; have R1 : Hid (RAt a2 x3.heap.size [0, 0]) := Lib.hid (zrow (k := 2) h1); have HA3 := Lib.hid (HA2.out.grown g1 (by simp)); have Z2 := Lib.hid z1; have HF5 := Lib.hid (HF4.out.grown g1 HF4.out.size (by simp)); clear h1 z1 g1)) | ((with_reducible show wpList _ _ _ (⟨none, .store 35 (.tmp 4) (.tmp 22), _, _, _, _⟩ :: _) _ _); go_must (refine wpList_storeP rfl (.tmp 4) (.tmp 22) rfl (x3.heap.size) [0, 0] 0 0 rfl rfl R1.out rfl ?_; intro b6 hr hg hz; have HA4 := Lib.hid (HA3.out.grown hg (by obtain ⟨_, t, ht⟩ := HA2.out; have := (Array.getElem?_eq_some_iff.1 ht).1; simp; omega)); have HF6 : Hid (Below w.heap.size w b6) := Lib.hid (HF5.out.grown hg HF5.out.size (fun r hr => by injection hr with hr; have := HF4.out.size; omega)); have c0 := HA4.out.cell 0 (by omega); rw [H0.out] at c0; clear hr hg hz R1 HA3 Z2 HF5 HA2)) | fail)
      go_ret
      exact ⟨rfl, HF6.out⟩
end Go.Proofs.Ytgdimnbdnepbgaa
