/- It is proved that FieldRoots returns true for any two numbers: the root of a square is the number or its negative, whichever is not Odd; twice a square has none; the product of two numbers has one exactly if both or none have. Conditions: none. -/
import Derived.Test.YtlkjengcmlfknaaRows
import Derived.Test.YtlkjengcmlfknaaGE
import Derived.ProofKit
import Derived.OpenShut
import Derived.ChangeOld
namespace Go.Proofs.Ytlkjengcmlfknaa.fieldRoots
open Go.ChangeShapes Go.WideShapes Go.ChangeAt Go.RowKit
set_option linter.unusedVariables false

theorem own : ownKnob Try.prog.godebug = none := by kernel_rfl
theorem laidOut : laidOutB Try.prog = true := by kernel_rfl
set_option linter.unusedSimpArgs false

set_option maxHeartbeats 8000000 in
set_option maxRecDepth 100000 in
theorem roots_core (A B rA rB s ev n t x1 x2 x3 p : Nat) (zA zB oA kA kB : Bool) (w : World)
    (C0 : Hid (∀ w, Calls Try.prog 10 #[] w (Gives (.bool true) w)))
    (C1 : Hid (∀ w, Calls Try.prog 11 #[vN A] w (Gives (vN rA) w)))
    (C2 : Hid (∀ w, Calls Try.prog 11 #[vN B] w (Gives (vN rB) w)))
    (C3 : Hid (zA = false → zB = false → ∀ w, Calls Try.prog 28 #[vN A, vN A] w (Gives (vN s) w)))
    (C4 : Hid (zA = false → zB = false → ∀ w, Calls Try.prog 9 #[vN s] w (Gives (.tuple #[vN ev, .bool true]) w)))
    (C5 : Hid (zA = false → zB = false → ∀ w, Calls Try.prog 17 #[vN A] w (Gives (.bool oA) w)))
    (C6 : Hid (zA = false → zB = false → ∀ w, Calls Try.prog 13 #[vN A] w (Gives (vN n) w)))
    (C7 : Hid (zA = false → zB = false → ∀ w, Calls Try.prog 14 #[.int .u64 2] w (Gives (vN 2) w)))
    (C8 : Hid (zA = false → zB = false → ∀ w, Calls Try.prog 28 #[vN 2, vN s] w (Gives (vN t) w)))
    (C9 : Hid (zA = false → zB = false → ∀ w, Calls Try.prog 9 #[vN t] w (Gives (.tuple #[vN 0, .bool false]) w)))
    (C10 : Hid (zA = false → zB = false → ∀ w, Calls Try.prog 9 #[vN A] w (Gives (.tuple #[vN x1, .bool kA]) w)))
    (C11 : Hid (zA = false → zB = false → ∀ w, Calls Try.prog 9 #[vN B] w (Gives (.tuple #[vN x2, .bool kB]) w)))
    (C12 : Hid (zA = false → zB = false → ∀ w, Calls Try.prog 28 #[vN A, vN B] w (Gives (vN p) w)))
    (C13 : Hid (zA = false → zB = false → ∀ w, Calls Try.prog 9 #[vN p] w (Gives (.tuple #[vN x3, .bool (kA == kB)]) w)))
    (C14 : Hid (zA = false → zB = false → ∀ w, Calls Try.prog 17 #[vN n] w (Gives (.bool ((!oA))) w)))
    (HZA : Hid (∀ w, (Op.equalIn 10000 23 (vN rA) (vN 0)).run Try.prog w = .ok zA w))
    (HZB : Hid (∀ w, (Op.equalIn 10000 23 (vN rB) (vN 0)).run Try.prog w = .ok zB w))
    (HEV : Hid (zA = false → zB = false → (if oA then n else rA) = ev)) :
    Calls Try.prog 7 #[vN A, vN B] w (Gives (.bool true) w) := by
  go_enter Try.func7, Try.ntmps7
  go_wp2_with (first | ((with_reducible show wpList _ _ _ (⟨some 2, .box 23 (.tmp 0), _, _, _, _⟩ :: _) _ _); go_must (refine wpList_box_row rfl 23 (.tmp 0) rfl (bcs (enc A)).toArray rfl ?_; intro w1 h1 z1 g1; have H1 := Lib.hid h1; have Z1 := Lib.hid z1; have G1 := Lib.hid g1; clear h1 z1 g1)) | ((with_reducible show wpList _ _ _ (⟨some 3, .box 23 (.tmp 1), _, _, _, _⟩ :: _) _ _); go_must (refine wpList_box_row rfl 23 (.tmp 1) rfl (bcs (enc B)).toArray rfl ?_; intro w2 h1 z1 g1; have H2 := Lib.hid h1; have Z2 := Lib.hid z1; have G2 := Lib.hid g1; clear h1 z1 g1)) | fail)
  have RA_0 : Hid (NAt w2 w.heap.size A) := NAt.grown ⟨23, H1.out⟩ G2.out (by simp)
  have RB_0 : Hid (NAt w2 (w.heap.size + 1) B) := by
    have h : NAt w2 w1.heap.size B := ⟨23, H2.out⟩
    rw [Z1.out] at h
    exact h
  have HB_0 : Hid (Below w.heap.size w w2) := (below_of_grownBy G1.out).trans ((below_of_grownBy G2.out).mono (by have := Z1.out; omega))
  rw [show w1.heap.size = w.heap.size + 1 from Z1.out]
  clear H1 Z1 G1 H2 Z2 G2
  refine (C0.out _).mono ?_
  rintro ex x11 ⟨rfl, hb⟩
  have RA_11 := Lib.hid (RA_0.out.keep hb)
  have RB_11 := Lib.hid (RB_0.out.keep hb)
  have HB_11 := Lib.hid (HB_0.out.trans (hb.mono HB_0.out.size))
  clear hb RA_0 RB_0 HB_0
  go_wp2_with (first | ((with_reducible show wpList _ _ _ (⟨_, .load 23 (.tmp 2), _, _, _, _⟩ :: _) _ _); go_must (refine wpList_exec rfl (vN A) (exec_load23 (.tmp 2) rfl (w.heap.size) A rfl RA_11.out) ?_)) | fail)
  refine (C1.out _).mono ?_
  rintro ex x12 ⟨rfl, hb⟩
  have RA_12 := Lib.hid (RA_11.out.keep hb)
  have RB_12 := Lib.hid (RB_11.out.keep hb)
  have HB_12 := Lib.hid (HB_11.out.trans (hb.mono HB_11.out.size))
  clear hb RA_11 RB_11 HB_11
  cases zA
  · go_wp2_with (first | ((with_reducible show wpList _ _ _ (⟨_, .build 23 _, _, _, _, _⟩ :: _) _ _); go_must (refine wpList_exec rfl (vN 0) (exec_build0 rfl) ?_)) | ((with_reducible show wpList _ _ _ (⟨_, .binOp .eql 23 (.tmp 20) (.tmp 21) 23, _, _, _, _⟩ :: _) _ _); go_must (refine wpList_exec rfl (.bool false) (exec_eq23 (.tmp 20) (.tmp 21) rfl rfl rfl (HZA.out _)) ?_)) | ((with_reducible show wpList _ _ _ (⟨_, .load 23 (.tmp 3), _, _, _, _⟩ :: _) _ _); go_must (refine wpList_exec rfl (vN B) (exec_load23 (.tmp 3) rfl (w.heap.size + 1) B rfl RB_12.out) ?_)) | fail)
    refine (C2.out _).mono ?_
    rintro ex x13 ⟨rfl, hb⟩
    have RA_13 := Lib.hid (RA_12.out.keep hb)
    have RB_13 := Lib.hid (RB_12.out.keep hb)
    have HB_13 := Lib.hid (HB_12.out.trans (hb.mono HB_12.out.size))
    clear hb RA_12 RB_12 HB_12
    cases zB
    · replace C3 := Lib.hid (C3.out (by first | trivial | rfl) (by first | trivial | rfl))
      replace C4 := Lib.hid (C4.out (by first | trivial | rfl) (by first | trivial | rfl))
      replace C5 := Lib.hid (C5.out (by first | trivial | rfl) (by first | trivial | rfl))
      replace C6 := Lib.hid (C6.out (by first | trivial | rfl) (by first | trivial | rfl))
      replace C7 := Lib.hid (C7.out (by first | trivial | rfl) (by first | trivial | rfl))
      replace C8 := Lib.hid (C8.out (by first | trivial | rfl) (by first | trivial | rfl))
      replace C9 := Lib.hid (C9.out (by first | trivial | rfl) (by first | trivial | rfl))
      replace C10 := Lib.hid (C10.out (by first | trivial | rfl) (by first | trivial | rfl))
      replace C11 := Lib.hid (C11.out (by first | trivial | rfl) (by first | trivial | rfl))
      replace C12 := Lib.hid (C12.out (by first | trivial | rfl) (by first | trivial | rfl))
      replace C13 := Lib.hid (C13.out (by first | trivial | rfl) (by first | trivial | rfl))
      replace C14 := Lib.hid (C14.out (by first | trivial | rfl) (by first | trivial | rfl))
      replace HEV := Lib.hid (HEV.out (by first | trivial | rfl) (by first | trivial | rfl))
      go_wp2_with (first | ((with_reducible show wpList _ _ _ (⟨_, .build 23 _, _, _, _, _⟩ :: _) _ _); go_must (refine wpList_exec rfl (vN 0) (exec_build0 rfl) ?_)) | ((with_reducible show wpList _ _ _ (⟨_, .binOp .eql 23 (.tmp 25) (.tmp 26) 23, _, _, _, _⟩ :: _) _ _); go_must (refine wpList_exec rfl (.bool false) (exec_eq23 (.tmp 25) (.tmp 26) rfl rfl rfl (HZB.out _)) ?_)) | ((with_reducible show wpList _ _ _ (⟨_, .load 23 (.tmp 2), _, _, _, _⟩ :: _) _ _); go_must (refine wpList_exec rfl (vN A) (exec_load23 (.tmp 2) rfl (w.heap.size) A rfl RA_13.out) ?_)) | ((with_reducible show wpList _ _ _ (⟨_, .load 23 (.tmp 2), _, _, _, _⟩ :: _) _ _); go_must (refine wpList_exec rfl (vN A) (exec_load23 (.tmp 2) rfl (w.heap.size) A rfl RA_13.out) ?_)) | fail)
      refine (C3.out _).mono ?_
      rintro ex x14 ⟨rfl, hb⟩
      have RA_14 := Lib.hid (RA_13.out.keep hb)
      have RB_14 := Lib.hid (RB_13.out.keep hb)
      have HB_14 := Lib.hid (HB_13.out.trans (hb.mono HB_13.out.size))
      clear hb RA_13 RB_13 HB_13
      go_wp2_with (first | ((with_reducible show wpList _ _ _ (⟨some 5, .alloc 23, _, _, _, _⟩ :: _) _ _); go_must (refine wpList_alloc_row rfl 23 rfl (.agg (zbs 32)) zero23 ?_; intro u15 h1 z1 g1; have H15 := Lib.hid h1; have Z15 := Lib.hid z1; have G15 := Lib.hid g1; clear h1 z1 g1)) | ((with_reducible show wpList _ _ _ (⟨none, .store 23 (.tmp 5) (.tmp 31), _, _, _, _⟩ :: _) _ _); go_must (refine wpList_store_all rfl 23 (.tmp 5) (.tmp 31) rfl (x14.heap.size) rfl (bcs (enc s)).toArray rfl 23 _ H15.out (by rw [List.size_toArray, bcs_enc_len]; exact size23) (by rw [List.size_toArray, bcs_enc_len]; rfl) (bcs_one _) ?_; intro v15 hh hg hz; have HH15 := Lib.hid hh; have HG15 := Lib.hid hg; clear hh hg hz; have RA_15 := Lib.hid ((RA_14.out.grown G15.out (by simp)).grown HG15.out (by have := RA_14.out.lt; simp; omega)); have RB_15 := Lib.hid ((RB_14.out.grown G15.out (by simp)).grown HG15.out (by have := RB_14.out.lt; simp; omega)); have S5_15 : Hid (NAt v15 x14.heap.size s) := Lib.hid ⟨23, HH15.out⟩; have HB_15 : Hid (Below w.heap.size w v15) := Lib.hid ((HB_14.out.grown G15.out HB_14.out.size (by simp)).grown HG15.out (by have := HB_14.out.size; have := Z15.out; omega) (fun r hr => by injection hr with hr; have := HB_14.out.size; omega)); clear H15 Z15 G15 HH15 HG15 HB_14 RA_14 RB_14)) | ((with_reducible show wpList _ _ _ (⟨_, .load 23 (.tmp 5), _, _, _, _⟩ :: _) _ _); go_must (refine wpList_exec rfl (vN s) (exec_load23 (.tmp 5) rfl (x14.heap.size) s rfl S5_15.out) ?_)) | fail)
      generalize x14.heap.size = g5 at *
      refine (C4.out _).mono ?_
      rintro ex x16 ⟨rfl, hb⟩
      have RA_16 := Lib.hid (RA_15.out.keep hb)
      have RB_16 := Lib.hid (RB_15.out.keep hb)
      have S5_16 := Lib.hid (S5_15.out.keep hb)
      have HB_16 := Lib.hid (HB_15.out.trans (hb.mono HB_15.out.size))
      clear hb RA_15 RB_15 S5_15 HB_15
      go_wp2_with (first | ((with_reducible show wpList _ _ _ (⟨some 6, .alloc 23, _, _, _, _⟩ :: _) _ _); go_must (refine wpList_alloc_row rfl 23 rfl (.agg (zbs 32)) zero23 ?_; intro u17 h1 z1 g1; have H17 := Lib.hid h1; have Z17 := Lib.hid z1; have G17 := Lib.hid g1; clear h1 z1 g1)) | ((with_reducible show wpList _ _ _ (⟨none, .store 23 (.tmp 6) (.tmp 35), _, _, _, _⟩ :: _) _ _); go_must (refine wpList_store_all rfl 23 (.tmp 6) (.tmp 35) rfl (x16.heap.size) rfl (bcs (enc ev)).toArray rfl 23 _ H17.out (by rw [List.size_toArray, bcs_enc_len]; exact size23) (by rw [List.size_toArray, bcs_enc_len]; rfl) (bcs_one _) ?_; intro v17 hh hg hz; have HH17 := Lib.hid hh; have HG17 := Lib.hid hg; clear hh hg hz; have RA_17 := Lib.hid ((RA_16.out.grown G17.out (by simp)).grown HG17.out (by have := RA_16.out.lt; simp; omega)); have RB_17 := Lib.hid ((RB_16.out.grown G17.out (by simp)).grown HG17.out (by have := RB_16.out.lt; simp; omega)); have S5_17 := Lib.hid ((S5_16.out.grown G17.out (by simp)).grown HG17.out (by have := S5_16.out.lt; simp; omega)); have S6_17 : Hid (NAt v17 x16.heap.size ev) := Lib.hid ⟨23, HH17.out⟩; have HB_17 : Hid (Below w.heap.size w v17) := Lib.hid ((HB_16.out.grown G17.out HB_16.out.size (by simp)).grown HG17.out (by have := HB_16.out.size; have := Z17.out; omega) (fun r hr => by injection hr with hr; have := HB_16.out.size; omega)); clear H17 Z17 G17 HH17 HG17 HB_16 RA_16 RB_16 S5_16)) | ((with_reducible show wpList _ _ _ (⟨_, .load 23 (.tmp 2), _, _, _, _⟩ :: _) _ _); go_must (refine wpList_exec rfl (vN A) (exec_load23 (.tmp 2) rfl (w.heap.size) A rfl RA_17.out) ?_)) | fail)
      generalize x16.heap.size = g6 at *
      refine (C1.out _).mono ?_
      rintro ex x18 ⟨rfl, hb⟩
      have RA_18 := Lib.hid (RA_17.out.keep hb)
      have RB_18 := Lib.hid (RB_17.out.keep hb)
      have S5_18 := Lib.hid (S5_17.out.keep hb)
      have S6_18 := Lib.hid (S6_17.out.keep hb)
      have HB_18 := Lib.hid (HB_17.out.trans (hb.mono HB_17.out.size))
      clear hb RA_17 RB_17 S5_17 S6_17 HB_17
      have HDRA8 : Hid (w.heap.size ≠ x18.heap.size) := Lib.hid (by have := RA_18.out.lt; omega)
      have HDRB8 : Hid (w.heap.size + 1 ≠ x18.heap.size) := Lib.hid (by have := RB_18.out.lt; omega)
      have HDS58 : Hid (g5 ≠ x18.heap.size) := Lib.hid (by have := S5_18.out.lt; omega)
      have HDS68 : Hid (g6 ≠ x18.heap.size) := Lib.hid (by have := S6_18.out.lt; omega)
      have HDw8 : Hid (w.heap.size ≤ x18.heap.size) := Lib.hid HB_18.out.size
      go_wp2_with (first | ((with_reducible show wpList _ _ _ (⟨some 8, .alloc 23, _, _, _, _⟩ :: _) _ _); go_must (refine wpList_alloc_row rfl 23 rfl (.agg (zbs 32)) zero23 ?_; intro u19 h1 z1 g1; have H19 := Lib.hid h1; have Z19 := Lib.hid z1; have G19 := Lib.hid g1; clear h1 z1 g1)) | ((with_reducible show wpList _ _ _ (⟨none, .store 23 (.tmp 8) (.tmp 38), _, _, _, _⟩ :: _) _ _); go_must (refine wpList_store_all rfl 23 (.tmp 8) (.tmp 38) rfl (x18.heap.size) rfl (bcs (enc rA)).toArray rfl 23 _ H19.out (by rw [List.size_toArray, bcs_enc_len]; exact size23) (by rw [List.size_toArray, bcs_enc_len]; rfl) (bcs_one _) ?_; intro v19 hh hg hz; have HH19 := Lib.hid hh; have HG19 := Lib.hid hg; clear hh hg hz; have RA_19 := Lib.hid ((RA_18.out.grown G19.out (by simp)).grown HG19.out (by have := RA_18.out.lt; simp; omega)); have RB_19 := Lib.hid ((RB_18.out.grown G19.out (by simp)).grown HG19.out (by have := RB_18.out.lt; simp; omega)); have S5_19 := Lib.hid ((S5_18.out.grown G19.out (by simp)).grown HG19.out (by have := S5_18.out.lt; simp; omega)); have S6_19 := Lib.hid ((S6_18.out.grown G19.out (by simp)).grown HG19.out (by have := S6_18.out.lt; simp; omega)); have S8_19 : Hid (NAt v19 x18.heap.size rA) := Lib.hid ⟨23, HH19.out⟩; have HB_19 : Hid (Below w.heap.size w v19) := Lib.hid ((HB_18.out.grown G19.out HB_18.out.size (by simp)).grown HG19.out (by have := HB_18.out.size; have := Z19.out; omega) (fun r hr => by injection hr with hr; have := HB_18.out.size; omega)); clear H19 Z19 G19 HH19 HG19 HB_18 RA_18 RB_18 S5_18 S6_18)) | ((with_reducible show wpList _ _ _ (⟨_, .load 23 (.tmp 2), _, _, _, _⟩ :: _) _ _); go_must (refine wpList_exec rfl (vN A) (exec_load23 (.tmp 2) rfl (w.heap.size) A rfl RA_19.out) ?_)) | fail)
      generalize x18.heap.size = g8 at *
      refine (C5.out _).mono ?_
      rintro ex x20 ⟨rfl, hb⟩
      have RA_20 := Lib.hid (RA_19.out.keep hb)
      have RB_20 := Lib.hid (RB_19.out.keep hb)
      have S5_20 := Lib.hid (S5_19.out.keep hb)
      have S6_20 := Lib.hid (S6_19.out.keep hb)
      have S8_20 := Lib.hid (S8_19.out.keep hb)
      have HB_20 := Lib.hid (HB_19.out.trans (hb.mono HB_19.out.size))
      clear hb RA_19 RB_19 S5_19 S6_19 S8_19 HB_19
      cases oA
      · have hn : rA = ev := HEV.out
        have S8_21 := S8_20
        rw [hn] at S8_21
        clear hn S8_20
        go_wp2_with fail
        have HLTwheapsize : Hid (w.heap.size < x20.heap.size) := RA_20.out.lt
        have HLTwheapsizep1 : Hid (w.heap.size + 1 < x20.heap.size) := RB_20.out.lt
        have HLTg5 : Hid (g5 < x20.heap.size) := S5_20.out.lt
        have HLTg6 : Hid (g6 < x20.heap.size) := S6_20.out.lt
        have HLTg8 : Hid (g8 < x20.heap.size) := S8_21.out.lt
        refine region_split (fun a' W => ∃ g9, NAt W (w.heap.size) A ∧ NAt W (w.heap.size + 1) B ∧ NAt W (g5) s ∧ NAt W (g6) ev ∧ NAt W (g8) ev ∧ NAt W g9 0 ∧ Below w.heap.size w W ∧ a' = ⟨#[vN A, vN B, .pointer (some ⟨w.heap.size, 0, none⟩), .pointer (some ⟨w.heap.size + 1, 0, none⟩), .bool false, .pointer (some ⟨g5, 0, none⟩), .pointer (some ⟨g6, 0, none⟩), .bool true, .pointer (some ⟨g8, 0, none⟩), .pointer (some ⟨g9, 0, none⟩), .bool false, undef, undef, undef, undef, undef, undef, .bool true, .bool false, vN A, vN rA, vN 0, .bool false, .bool false, vN B, vN rB, vN 0, .bool false, .bool false, vN A, vN A, vN s, .tuple #[vN ev, .bool true], vN s, .tuple #[vN ev, .bool true], vN ev, .bool true, vN A, vN rA, vN A, .bool false, undef, undef, .tuple #[vN 0, .bool false], vN 2, vN s, vN t, .tuple #[vN 0, .bool false], vN 0, .bool false, undef, undef, undef, undef, undef, undef, undef, undef, undef, undef, undef, undef, undef, undef, undef, undef, undef, undef, undef, undef, undef, undef, undef, undef, undef, undef, undef, undef, undef, undef, undef, undef, undef, undef, undef, undef, undef, undef, undef, undef, undef, undef, undef, undef, undef, undef, undef], []⟩) ?_ ?_
        · refine startW (fun j => j == 8) (x20.heap.size) (by kernel_rfl) ?_
          obtain ⟨D19, hD19⟩ : ∃ D, D = x20.drew := ⟨_, rfl⟩
          rw [← hD19]
          have HLD19 : Hid (x20.heap.size ≤ D19.heap.size) := Lib.hid (by rw [hD19]; exact Nat.le_refl _)
          have HBD19 : Hid (Below w.heap.size w D19) := Lib.hid (by rw [hD19]; exact below_drewN' HB_20.out 1)
          have R0D19 : Hid (NAt D19 (w.heap.size) A) := Lib.hid (by rw [hD19]; exact RA_20.out)
          have R1D19 : Hid (NAt D19 (w.heap.size + 1) B) := Lib.hid (by rw [hD19]; exact RB_20.out)
          have R2D19 : Hid (NAt D19 (g5) s) := Lib.hid (by rw [hD19]; exact S5_20.out)
          have R3D19 : Hid (NAt D19 (g6) ev) := Lib.hid (by rw [hD19]; exact S6_20.out)
          have R4D19 : Hid (NAt D19 (g8) ev) := Lib.hid (by rw [hD19]; exact S8_21.out)
          clear hD19
          refine takeT (i := 1) (oi := { dst := some 45, op := Op.load 23 (Operand.tmp 5), type := 23, pos := "law.go:94", after := #[], guard := none }) (vN s) rfl (by kernel_rfl) (by kernel_rfl) (by kernel_rfl) (by kernel_rfl) (by kernel_rfl) (fun _ _ _ h => nomatch h.1) (by rfl) (fun w' hk => exec_load23 (.tmp 5) rfl (g5) s rfl (R2D19.out.below hk HLTg5.out)) ?_
          simp only [Act.put, List.setIfInBounds_toArray, List.set_cons_zero, List.set_cons_succ]
          refine eachW [0, 7] (by kernel_rfl) (by simp) ?_
          intro k hk
          simp only [List.mem_cons, List.not_mem_nil, or_false] at hk
          rcases hk with rfl | rfl
          · refine wpOp_call (i := 0) (oi := { dst := some 44, op := Op.call { callee := Callee.value (Operand.func 14), args := #[Operand.const (Value.int IntKind.u64 2)], argTypes := #[30] }, type := 23, pos := "law.go:94", after := #[], guard := none }) rfl (by rfl) (exec_callL 14 [.const (.int .u64 2)] #[30] rfl [.int .u64 2] rfl (CF14 _)) ((C7.out D19).mono ?_)
            rintro eW20 W20 ⟨rfl, hbW20⟩
            refine ⟨_, rfl, fun _ => hbW20.mono HLD19.out, ?_⟩
            have HBW20 : Hid (Below w.heap.size w W20) := Lib.hid (HBD19.out.trans (hbW20.mono HBD19.out.size))
            have HLW20 : Hid (x20.heap.size ≤ W20.heap.size) := Lib.hid (Nat.le_trans HLD19.out hbW20.size)
            have R0D19_W20 := Lib.hid (R0D19.out.keep hbW20)
            have R1D19_W20 := Lib.hid (R1D19.out.keep hbW20)
            have R2D19_W20 := Lib.hid (R2D19.out.keep hbW20)
            have R3D19_W20 := Lib.hid (R3D19.out.keep hbW20)
            have R4D19_W20 := Lib.hid (R4D19.out.keep hbW20)
            clear hbW20 HBD19 HLD19 R0D19 R1D19 R2D19 R3D19 R4D19
            simp only [Act.put, List.setIfInBounds_toArray, List.set_cons_zero, List.set_cons_succ]
            refine eachW [2, 7] (by kernel_rfl) (by simp) ?_
            intro k hk
            simp only [List.mem_cons, List.not_mem_nil, or_false] at hk
            rcases hk with rfl | rfl
            · refine wpOp_call (i := 2) (oi := { dst := some 46, op := Op.call { callee := Callee.value (Operand.func 28), args := #[Operand.tmp 44, Operand.tmp 45], argTypes := #[23, 23] }, type := 23, pos := "law.go:94", after := #[{ on := 0, ground := Ground.data }, { on := 1, ground := Ground.data }, { on := 0, ground := Ground.chain }], guard := none }) rfl (by rfl) (exec_callL 28 [.tmp 44, .tmp 45] #[23, 23] rfl [vN 2, vN s] rfl (CF28 _)) ((C8.out W20).mono ?_)
              rintro eW21 W21 ⟨rfl, hbW21⟩
              refine ⟨_, rfl, fun _ => hbW21.mono HLW20.out, ?_⟩
              have HBW21 : Hid (Below w.heap.size w W21) := Lib.hid (HBW20.out.trans (hbW21.mono HBW20.out.size))
              have HLW21 : Hid (x20.heap.size ≤ W21.heap.size) := Lib.hid (Nat.le_trans HLW20.out hbW21.size)
              have R0D19_W21 := Lib.hid (R0D19_W20.out.keep hbW21)
              have R1D19_W21 := Lib.hid (R1D19_W20.out.keep hbW21)
              have R2D19_W21 := Lib.hid (R2D19_W20.out.keep hbW21)
              have R3D19_W21 := Lib.hid (R3D19_W20.out.keep hbW21)
              have R4D19_W21 := Lib.hid (R4D19_W20.out.keep hbW21)
              clear hbW21 HBW20 HLW20 R0D19_W20 R1D19_W20 R2D19_W20 R3D19_W20 R4D19_W20
              simp only [Act.put, List.setIfInBounds_toArray, List.set_cons_zero, List.set_cons_succ]
              refine eachW [3, 7] (by kernel_rfl) (by simp) ?_
              intro k hk
              simp only [List.mem_cons, List.not_mem_nil, or_false] at hk
              rcases hk with rfl | rfl
              · refine wpOp_call (i := 3) (oi := { dst := some 47, op := Op.call { callee := Callee.value (Operand.func 9), args := #[Operand.tmp 46], argTypes := #[23] }, type := 24, pos := "law.go:94", after := #[{ on := 2, ground := Ground.data }, { on := 2, ground := Ground.chain }], guard := none }) rfl (by rfl) (exec_callL 9 [.tmp 46] #[23] rfl [vN t] rfl (CF9 _)) ((C9.out W21).mono ?_)
                rintro eW22 W22 ⟨rfl, hbW22⟩
                refine ⟨_, rfl, fun _ => hbW22.mono HLW21.out, ?_⟩
                have HBW22 : Hid (Below w.heap.size w W22) := Lib.hid (HBW21.out.trans (hbW22.mono HBW21.out.size))
                have HLW22 : Hid (x20.heap.size ≤ W22.heap.size) := Lib.hid (Nat.le_trans HLW21.out hbW22.size)
                have R0D19_W22 := Lib.hid (R0D19_W21.out.keep hbW22)
                have R1D19_W22 := Lib.hid (R1D19_W21.out.keep hbW22)
                have R2D19_W22 := Lib.hid (R2D19_W21.out.keep hbW22)
                have R3D19_W22 := Lib.hid (R3D19_W21.out.keep hbW22)
                have R4D19_W22 := Lib.hid (R4D19_W21.out.keep hbW22)
                clear hbW22 HBW21 HLW21 R0D19_W21 R1D19_W21 R2D19_W21 R3D19_W21 R4D19_W21
                simp only [Act.put, List.setIfInBounds_toArray, List.set_cons_zero, List.set_cons_succ]
                refine takeAE (i := 4) (oi := { dst := some 43, op := Op.move (Operand.tmp 47), type := 24, pos := "law.go:94", after := #[{ on := 3, ground := Ground.data }], guard := none }) rfl (by kernel_rfl) (by kernel_rfl) (by kernel_rfl) (fun _ _ _ _ h => nomatch h.1) (by rfl) ?_
                refine ⟨.tuple #[vN 0, .bool false], fun w' => exec_move (.tmp 47) rfl _ rfl, ?_⟩
                simp only [Act.put, List.setIfInBounds_toArray, List.set_cons_zero, List.set_cons_succ]
                refine takeAE (i := 5) (oi := { dst := some 48, op := Op.extract (Operand.tmp 43) 0, type := 23, pos := "law.go:94", after := #[{ on := 4, ground := Ground.data }], guard := none }) rfl (by kernel_rfl) (by kernel_rfl) (by kernel_rfl) (fun _ _ _ _ h => nomatch h.1) (by rfl) ?_
                refine ⟨vN 0, fun w' => exec_extract (.tmp 43) 0 rfl #[vN 0, .bool false] rfl _ rfl, ?_⟩
                simp only [Act.put, List.setIfInBounds_toArray, List.set_cons_zero, List.set_cons_succ]
                refine takeAE (i := 6) (oi := { dst := some 49, op := Op.extract (Operand.tmp 43) 1, type := 4, pos := "law.go:94", after := #[{ on := 4, ground := Ground.data }, { on := 8, ground := Ground.gcOnly Departure.lateStores }], guard := none }) rfl (by kernel_rfl) (by kernel_rfl) (by kernel_rfl) (fun _ _ _ _ h => nomatch h.1) (by rfl) ?_
                refine ⟨.bool false, fun w' => exec_extract (.tmp 43) 1 rfl #[vN 0, .bool false] rfl _ rfl, ?_⟩
                simp only [Act.put, List.setIfInBounds_toArray, List.set_cons_zero, List.set_cons_succ]
                refine opW _ _ (i := 7) (oi := { dst := some 9, op := Op.alloc 23, type := 0, pos := "law.go:94", after := #[], guard := none }) rfl (by kernel_rfl) (by rfl) (exec_alloc 23 rfl (.agg (zbs 32)) zero23 W22) (fun _ => (below_alloc W22 _).mono HLW22.out) ?_
                obtain ⟨W23, hW23, hbW23, hzW23⟩ := alloc_zero W22
                rw [← hW23]
                obtain ⟨gW23, hgW23⟩ : ∃ g, g = W22.heap.size := ⟨_, rfl⟩
                rw [← hgW23] at hzW23 ⊢
                have HGgW23 : Hid (x20.heap.size ≤ gW23) := Lib.hid (by rw [hgW23]; exact HLW22.out)
                have HBW23 : Hid (Below w.heap.size w W23) := Lib.hid (HBW22.out.trans (hbW23.mono HBW22.out.size))
                have HLW23 : Hid (x20.heap.size ≤ W23.heap.size) := Lib.hid (Nat.le_trans HLW22.out hbW23.size)
                have R0D19_W23 := Lib.hid (R0D19_W22.out.keep hbW23)
                have R1D19_W23 := Lib.hid (R1D19_W22.out.keep hbW23)
                have R2D19_W23 := Lib.hid (R2D19_W22.out.keep hbW23)
                have R3D19_W23 := Lib.hid (R3D19_W22.out.keep hbW23)
                have R4D19_W23 := Lib.hid (R4D19_W22.out.keep hbW23)
                have ZAgW23_W23 := Lib.hid hzW23
                clear hbW23 HBW22 HLW22 R0D19_W22 R1D19_W22 R2D19_W22 R3D19_W22 R4D19_W22 hzW23 hgW23 hW23
                simp only [Act.put, List.setIfInBounds_toArray, List.set_cons_zero, List.set_cons_succ]
                refine storeW_all (i := 8) (oi := { dst := none, op := Op.store 23 (Operand.tmp 9) (Operand.tmp 48), type := 0, pos := "law.go:94", after := #[{ on := 7, ground := Ground.data }, { on := 5, ground := Ground.data }, { on := 3, ground := Ground.chain }, { on := 0, ground := Ground.phase }, { on := 1, ground := Ground.phase }, { on := 2, ground := Ground.phase }, { on := 3, ground := Ground.phase }, { on := 4, ground := Ground.phase }, { on := 5, ground := Ground.phase }, { on := 6, ground := Ground.textOnly Departure.lateStores }, { on := 7, ground := Ground.phase }], guard := none }) rfl (by kernel_rfl) (by rfl) 23 (.tmp 9) (.tmp 48) rfl (gW23) rfl (bcs (enc 0)).toArray rfl 23 _ ZAgW23_W23.out (by rw [List.size_toArray, bcs_enc_len]; exact size23) (by rw [List.size_toArray, bcs_enc_len]; rfl) (bcs_one _) rfl ?_
                intro W24 hhW24 hgW24 hzW24
                simp only [Act.put, List.setIfInBounds_toArray, List.set_cons_zero, List.set_cons_succ]
                have R0D19_W24 := Lib.hid (R0D19_W23.out.grown hgW24 (by have := HGgW23.out; have := HLTwheapsize.out; simp; omega))
                have R1D19_W24 := Lib.hid (R1D19_W23.out.grown hgW24 (by have := HGgW23.out; have := HLTwheapsizep1.out; simp; omega))
                have R2D19_W24 := Lib.hid (R2D19_W23.out.grown hgW24 (by have := HGgW23.out; have := HLTg5.out; simp; omega))
                have R3D19_W24 := Lib.hid (R3D19_W23.out.grown hgW24 (by have := HGgW23.out; have := HLTg6.out; simp; omega))
                have R4D19_W24 := Lib.hid (R4D19_W23.out.grown hgW24 (by have := HGgW23.out; have := HLTg8.out; simp; omega))
                have SgW23_W24 : Hid (NAt W24 (gW23) 0) := Lib.hid ⟨23, hhW24⟩
                have HBW24 : Hid (Below w.heap.size w W24) := Lib.hid (HBW23.out.grown hgW24 HBW23.out.size (fun r hr => by injection hr with hr; have := HGgW23.out; have := HB_20.out.size; omega))
                have HLW24 : Hid (x20.heap.size ≤ W24.heap.size) := Lib.hid (Nat.le_trans HLW23.out hgW24.size)
                clear hhW24 hgW24 hzW24 HBW23 HLW23 R0D19_W23 R1D19_W23 R2D19_W23 R3D19_W23 R4D19_W23 ZAgW23_W23
                refine takeAE (i := 9) (oi := { dst := some 10, op := Op.assign (Operand.tmp 49), type := 4, pos := "law.go:94", after := #[{ on := 6, ground := Ground.data }, { on := 8, ground := Ground.chain }, { on := 0, ground := Ground.phase }, { on := 1, ground := Ground.phase }, { on := 2, ground := Ground.phase }, { on := 3, ground := Ground.phase }, { on := 4, ground := Ground.phase }, { on := 5, ground := Ground.phase }, { on := 6, ground := Ground.phase }, { on := 7, ground := Ground.phase }, { on := 8, ground := Ground.phase }], guard := none }) rfl (by kernel_rfl) (by kernel_rfl) (by kernel_rfl) (fun _ _ _ _ h => nomatch h.1) (by rfl) ?_
                refine ⟨.bool false, fun w' => exec_moveA (.tmp 49) rfl _ rfl, ?_⟩
                simp only [Act.put, List.setIfInBounds_toArray, List.set_cons_zero, List.set_cons_succ]
                refine doneW (by kernel_rfl) ⟨rfl, ?_⟩ _
                exact ⟨gW23, R0D19_W24.out, R1D19_W24.out, R2D19_W24.out, R3D19_W24.out, R4D19_W24.out, SgW23_W24.out, HBW24.out, rfl⟩
              · refine wpOp_value (i := 7) (oi := { dst := some 9, op := Op.alloc 23, type := 0, pos := "law.go:94", after := #[], guard := none }) rfl (by rfl) (exec_alloc 23 rfl (.agg (zbs 32)) zero23 W21) ⟨fun _ => (below_alloc W21 _).mono HLW21.out, ?_⟩
                obtain ⟨W25, hW25, hbW25, hzW25⟩ := alloc_zero W21
                rw [← hW25]
                obtain ⟨gW25, hgW25⟩ : ∃ g, g = W21.heap.size := ⟨_, rfl⟩
                rw [← hgW25] at hzW25 ⊢
                have HGgW25 : Hid (x20.heap.size ≤ gW25) := Lib.hid (by rw [hgW25]; exact HLW21.out)
                have HBW25 : Hid (Below w.heap.size w W25) := Lib.hid (HBW21.out.trans (hbW25.mono HBW21.out.size))
                have HLW25 : Hid (x20.heap.size ≤ W25.heap.size) := Lib.hid (Nat.le_trans HLW21.out hbW25.size)
                have R0D19_W25 := Lib.hid (R0D19_W21.out.keep hbW25)
                have R1D19_W25 := Lib.hid (R1D19_W21.out.keep hbW25)
                have R2D19_W25 := Lib.hid (R2D19_W21.out.keep hbW25)
                have R3D19_W25 := Lib.hid (R3D19_W21.out.keep hbW25)
                have R4D19_W25 := Lib.hid (R4D19_W21.out.keep hbW25)
                have ZAgW25_W25 := Lib.hid hzW25
                clear hbW25 HBW21 HLW21 R0D19_W21 R1D19_W21 R2D19_W21 R3D19_W21 R4D19_W21 hzW25 hgW25 hW25
                simp only [Act.put, List.setIfInBounds_toArray, List.set_cons_zero, List.set_cons_succ]
                refine callW (i := 3) (oi := { dst := some 47, op := Op.call { callee := Callee.value (Operand.func 9), args := #[Operand.tmp 46], argTypes := #[23] }, type := 24, pos := "law.go:94", after := #[{ on := 2, ground := Ground.data }, { on := 2, ground := Ground.chain }], guard := none }) rfl (by kernel_rfl) (by rfl) (exec_callL 9 [.tmp 46] #[23] rfl [vN t] rfl (CF9 _)) ((C9.out W25).mono ?_)
                rintro eW26 W26 ⟨rfl, hbW26⟩
                refine ⟨_, rfl, fun _ => hbW26.mono HLW25.out, ?_⟩
                have HBW26 : Hid (Below w.heap.size w W26) := Lib.hid (HBW25.out.trans (hbW26.mono HBW25.out.size))
                have HLW26 : Hid (x20.heap.size ≤ W26.heap.size) := Lib.hid (Nat.le_trans HLW25.out hbW26.size)
                have R0D19_W26 := Lib.hid (R0D19_W25.out.keep hbW26)
                have R1D19_W26 := Lib.hid (R1D19_W25.out.keep hbW26)
                have R2D19_W26 := Lib.hid (R2D19_W25.out.keep hbW26)
                have R3D19_W26 := Lib.hid (R3D19_W25.out.keep hbW26)
                have R4D19_W26 := Lib.hid (R4D19_W25.out.keep hbW26)
                have ZAgW25_W26 := Lib.hid (ZAgW25_W25.out.keep hbW26)
                clear hbW26 HBW25 HLW25 R0D19_W25 R1D19_W25 R2D19_W25 R3D19_W25 R4D19_W25 ZAgW25_W25
                simp only [Act.put, List.setIfInBounds_toArray, List.set_cons_zero, List.set_cons_succ]
                refine takeAE (i := 4) (oi := { dst := some 43, op := Op.move (Operand.tmp 47), type := 24, pos := "law.go:94", after := #[{ on := 3, ground := Ground.data }], guard := none }) rfl (by kernel_rfl) (by kernel_rfl) (by kernel_rfl) (fun _ _ _ _ h => nomatch h.1) (by rfl) ?_
                refine ⟨.tuple #[vN 0, .bool false], fun w' => exec_move (.tmp 47) rfl _ rfl, ?_⟩
                simp only [Act.put, List.setIfInBounds_toArray, List.set_cons_zero, List.set_cons_succ]
                refine takeAE (i := 5) (oi := { dst := some 48, op := Op.extract (Operand.tmp 43) 0, type := 23, pos := "law.go:94", after := #[{ on := 4, ground := Ground.data }], guard := none }) rfl (by kernel_rfl) (by kernel_rfl) (by kernel_rfl) (fun _ _ _ _ h => nomatch h.1) (by rfl) ?_
                refine ⟨vN 0, fun w' => exec_extract (.tmp 43) 0 rfl #[vN 0, .bool false] rfl _ rfl, ?_⟩
                simp only [Act.put, List.setIfInBounds_toArray, List.set_cons_zero, List.set_cons_succ]
                refine takeAE (i := 6) (oi := { dst := some 49, op := Op.extract (Operand.tmp 43) 1, type := 4, pos := "law.go:94", after := #[{ on := 4, ground := Ground.data }, { on := 8, ground := Ground.gcOnly Departure.lateStores }], guard := none }) rfl (by kernel_rfl) (by kernel_rfl) (by kernel_rfl) (fun _ _ _ _ h => nomatch h.1) (by rfl) ?_
                refine ⟨.bool false, fun w' => exec_extract (.tmp 43) 1 rfl #[vN 0, .bool false] rfl _ rfl, ?_⟩
                simp only [Act.put, List.setIfInBounds_toArray, List.set_cons_zero, List.set_cons_succ]
                refine storeW_all (i := 8) (oi := { dst := none, op := Op.store 23 (Operand.tmp 9) (Operand.tmp 48), type := 0, pos := "law.go:94", after := #[{ on := 7, ground := Ground.data }, { on := 5, ground := Ground.data }, { on := 3, ground := Ground.chain }, { on := 0, ground := Ground.phase }, { on := 1, ground := Ground.phase }, { on := 2, ground := Ground.phase }, { on := 3, ground := Ground.phase }, { on := 4, ground := Ground.phase }, { on := 5, ground := Ground.phase }, { on := 6, ground := Ground.textOnly Departure.lateStores }, { on := 7, ground := Ground.phase }], guard := none }) rfl (by kernel_rfl) (by rfl) 23 (.tmp 9) (.tmp 48) rfl (gW25) rfl (bcs (enc 0)).toArray rfl 23 _ ZAgW25_W26.out (by rw [List.size_toArray, bcs_enc_len]; exact size23) (by rw [List.size_toArray, bcs_enc_len]; rfl) (bcs_one _) rfl ?_
                intro W27 hhW27 hgW27 hzW27
                simp only [Act.put, List.setIfInBounds_toArray, List.set_cons_zero, List.set_cons_succ]
                have R0D19_W27 := Lib.hid (R0D19_W26.out.grown hgW27 (by have := HGgW25.out; have := HLTwheapsize.out; simp; omega))
                have R1D19_W27 := Lib.hid (R1D19_W26.out.grown hgW27 (by have := HGgW25.out; have := HLTwheapsizep1.out; simp; omega))
                have R2D19_W27 := Lib.hid (R2D19_W26.out.grown hgW27 (by have := HGgW25.out; have := HLTg5.out; simp; omega))
                have R3D19_W27 := Lib.hid (R3D19_W26.out.grown hgW27 (by have := HGgW25.out; have := HLTg6.out; simp; omega))
                have R4D19_W27 := Lib.hid (R4D19_W26.out.grown hgW27 (by have := HGgW25.out; have := HLTg8.out; simp; omega))
                have SgW25_W27 : Hid (NAt W27 (gW25) 0) := Lib.hid ⟨23, hhW27⟩
                have HBW27 : Hid (Below w.heap.size w W27) := Lib.hid (HBW26.out.grown hgW27 HBW26.out.size (fun r hr => by injection hr with hr; have := HGgW25.out; have := HB_20.out.size; omega))
                have HLW27 : Hid (x20.heap.size ≤ W27.heap.size) := Lib.hid (Nat.le_trans HLW26.out hgW27.size)
                clear hhW27 hgW27 hzW27 HBW26 HLW26 R0D19_W26 R1D19_W26 R2D19_W26 R3D19_W26 R4D19_W26 ZAgW25_W26
                refine takeAE (i := 9) (oi := { dst := some 10, op := Op.assign (Operand.tmp 49), type := 4, pos := "law.go:94", after := #[{ on := 6, ground := Ground.data }, { on := 8, ground := Ground.chain }, { on := 0, ground := Ground.phase }, { on := 1, ground := Ground.phase }, { on := 2, ground := Ground.phase }, { on := 3, ground := Ground.phase }, { on := 4, ground := Ground.phase }, { on := 5, ground := Ground.phase }, { on := 6, ground := Ground.phase }, { on := 7, ground := Ground.phase }, { on := 8, ground := Ground.phase }], guard := none }) rfl (by kernel_rfl) (by kernel_rfl) (by kernel_rfl) (fun _ _ _ _ h => nomatch h.1) (by rfl) ?_
                refine ⟨.bool false, fun w' => exec_moveA (.tmp 49) rfl _ rfl, ?_⟩
                simp only [Act.put, List.setIfInBounds_toArray, List.set_cons_zero, List.set_cons_succ]
                refine doneW (by kernel_rfl) ⟨rfl, ?_⟩ _
                exact ⟨gW25, R0D19_W27.out, R1D19_W27.out, R2D19_W27.out, R3D19_W27.out, R4D19_W27.out, SgW25_W27.out, HBW27.out, rfl⟩
            · refine wpOp_value (i := 7) (oi := { dst := some 9, op := Op.alloc 23, type := 0, pos := "law.go:94", after := #[], guard := none }) rfl (by rfl) (exec_alloc 23 rfl (.agg (zbs 32)) zero23 W20) ⟨fun _ => (below_alloc W20 _).mono HLW20.out, ?_⟩
              obtain ⟨W28, hW28, hbW28, hzW28⟩ := alloc_zero W20
              rw [← hW28]
              obtain ⟨gW28, hgW28⟩ : ∃ g, g = W20.heap.size := ⟨_, rfl⟩
              rw [← hgW28] at hzW28 ⊢
              have HGgW28 : Hid (x20.heap.size ≤ gW28) := Lib.hid (by rw [hgW28]; exact HLW20.out)
              have HBW28 : Hid (Below w.heap.size w W28) := Lib.hid (HBW20.out.trans (hbW28.mono HBW20.out.size))
              have HLW28 : Hid (x20.heap.size ≤ W28.heap.size) := Lib.hid (Nat.le_trans HLW20.out hbW28.size)
              have R0D19_W28 := Lib.hid (R0D19_W20.out.keep hbW28)
              have R1D19_W28 := Lib.hid (R1D19_W20.out.keep hbW28)
              have R2D19_W28 := Lib.hid (R2D19_W20.out.keep hbW28)
              have R3D19_W28 := Lib.hid (R3D19_W20.out.keep hbW28)
              have R4D19_W28 := Lib.hid (R4D19_W20.out.keep hbW28)
              have ZAgW28_W28 := Lib.hid hzW28
              clear hbW28 HBW20 HLW20 R0D19_W20 R1D19_W20 R2D19_W20 R3D19_W20 R4D19_W20 hzW28 hgW28 hW28
              simp only [Act.put, List.setIfInBounds_toArray, List.set_cons_zero, List.set_cons_succ]
              refine callW (i := 2) (oi := { dst := some 46, op := Op.call { callee := Callee.value (Operand.func 28), args := #[Operand.tmp 44, Operand.tmp 45], argTypes := #[23, 23] }, type := 23, pos := "law.go:94", after := #[{ on := 0, ground := Ground.data }, { on := 1, ground := Ground.data }, { on := 0, ground := Ground.chain }], guard := none }) rfl (by kernel_rfl) (by rfl) (exec_callL 28 [.tmp 44, .tmp 45] #[23, 23] rfl [vN 2, vN s] rfl (CF28 _)) ((C8.out W28).mono ?_)
              rintro eW29 W29 ⟨rfl, hbW29⟩
              refine ⟨_, rfl, fun _ => hbW29.mono HLW28.out, ?_⟩
              have HBW29 : Hid (Below w.heap.size w W29) := Lib.hid (HBW28.out.trans (hbW29.mono HBW28.out.size))
              have HLW29 : Hid (x20.heap.size ≤ W29.heap.size) := Lib.hid (Nat.le_trans HLW28.out hbW29.size)
              have R0D19_W29 := Lib.hid (R0D19_W28.out.keep hbW29)
              have R1D19_W29 := Lib.hid (R1D19_W28.out.keep hbW29)
              have R2D19_W29 := Lib.hid (R2D19_W28.out.keep hbW29)
              have R3D19_W29 := Lib.hid (R3D19_W28.out.keep hbW29)
              have R4D19_W29 := Lib.hid (R4D19_W28.out.keep hbW29)
              have ZAgW28_W29 := Lib.hid (ZAgW28_W28.out.keep hbW29)
              clear hbW29 HBW28 HLW28 R0D19_W28 R1D19_W28 R2D19_W28 R3D19_W28 R4D19_W28 ZAgW28_W28
              simp only [Act.put, List.setIfInBounds_toArray, List.set_cons_zero, List.set_cons_succ]
              refine callW (i := 3) (oi := { dst := some 47, op := Op.call { callee := Callee.value (Operand.func 9), args := #[Operand.tmp 46], argTypes := #[23] }, type := 24, pos := "law.go:94", after := #[{ on := 2, ground := Ground.data }, { on := 2, ground := Ground.chain }], guard := none }) rfl (by kernel_rfl) (by rfl) (exec_callL 9 [.tmp 46] #[23] rfl [vN t] rfl (CF9 _)) ((C9.out W29).mono ?_)
              rintro eW30 W30 ⟨rfl, hbW30⟩
              refine ⟨_, rfl, fun _ => hbW30.mono HLW29.out, ?_⟩
              have HBW30 : Hid (Below w.heap.size w W30) := Lib.hid (HBW29.out.trans (hbW30.mono HBW29.out.size))
              have HLW30 : Hid (x20.heap.size ≤ W30.heap.size) := Lib.hid (Nat.le_trans HLW29.out hbW30.size)
              have R0D19_W30 := Lib.hid (R0D19_W29.out.keep hbW30)
              have R1D19_W30 := Lib.hid (R1D19_W29.out.keep hbW30)
              have R2D19_W30 := Lib.hid (R2D19_W29.out.keep hbW30)
              have R3D19_W30 := Lib.hid (R3D19_W29.out.keep hbW30)
              have R4D19_W30 := Lib.hid (R4D19_W29.out.keep hbW30)
              have ZAgW28_W30 := Lib.hid (ZAgW28_W29.out.keep hbW30)
              clear hbW30 HBW29 HLW29 R0D19_W29 R1D19_W29 R2D19_W29 R3D19_W29 R4D19_W29 ZAgW28_W29
              simp only [Act.put, List.setIfInBounds_toArray, List.set_cons_zero, List.set_cons_succ]
              refine takeAE (i := 4) (oi := { dst := some 43, op := Op.move (Operand.tmp 47), type := 24, pos := "law.go:94", after := #[{ on := 3, ground := Ground.data }], guard := none }) rfl (by kernel_rfl) (by kernel_rfl) (by kernel_rfl) (fun _ _ _ _ h => nomatch h.1) (by rfl) ?_
              refine ⟨.tuple #[vN 0, .bool false], fun w' => exec_move (.tmp 47) rfl _ rfl, ?_⟩
              simp only [Act.put, List.setIfInBounds_toArray, List.set_cons_zero, List.set_cons_succ]
              refine takeAE (i := 5) (oi := { dst := some 48, op := Op.extract (Operand.tmp 43) 0, type := 23, pos := "law.go:94", after := #[{ on := 4, ground := Ground.data }], guard := none }) rfl (by kernel_rfl) (by kernel_rfl) (by kernel_rfl) (fun _ _ _ _ h => nomatch h.1) (by rfl) ?_
              refine ⟨vN 0, fun w' => exec_extract (.tmp 43) 0 rfl #[vN 0, .bool false] rfl _ rfl, ?_⟩
              simp only [Act.put, List.setIfInBounds_toArray, List.set_cons_zero, List.set_cons_succ]
              refine takeAE (i := 6) (oi := { dst := some 49, op := Op.extract (Operand.tmp 43) 1, type := 4, pos := "law.go:94", after := #[{ on := 4, ground := Ground.data }, { on := 8, ground := Ground.gcOnly Departure.lateStores }], guard := none }) rfl (by kernel_rfl) (by kernel_rfl) (by kernel_rfl) (fun _ _ _ _ h => nomatch h.1) (by rfl) ?_
              refine ⟨.bool false, fun w' => exec_extract (.tmp 43) 1 rfl #[vN 0, .bool false] rfl _ rfl, ?_⟩
              simp only [Act.put, List.setIfInBounds_toArray, List.set_cons_zero, List.set_cons_succ]
              refine storeW_all (i := 8) (oi := { dst := none, op := Op.store 23 (Operand.tmp 9) (Operand.tmp 48), type := 0, pos := "law.go:94", after := #[{ on := 7, ground := Ground.data }, { on := 5, ground := Ground.data }, { on := 3, ground := Ground.chain }, { on := 0, ground := Ground.phase }, { on := 1, ground := Ground.phase }, { on := 2, ground := Ground.phase }, { on := 3, ground := Ground.phase }, { on := 4, ground := Ground.phase }, { on := 5, ground := Ground.phase }, { on := 6, ground := Ground.textOnly Departure.lateStores }, { on := 7, ground := Ground.phase }], guard := none }) rfl (by kernel_rfl) (by rfl) 23 (.tmp 9) (.tmp 48) rfl (gW28) rfl (bcs (enc 0)).toArray rfl 23 _ ZAgW28_W30.out (by rw [List.size_toArray, bcs_enc_len]; exact size23) (by rw [List.size_toArray, bcs_enc_len]; rfl) (bcs_one _) rfl ?_
              intro W31 hhW31 hgW31 hzW31
              simp only [Act.put, List.setIfInBounds_toArray, List.set_cons_zero, List.set_cons_succ]
              have R0D19_W31 := Lib.hid (R0D19_W30.out.grown hgW31 (by have := HGgW28.out; have := HLTwheapsize.out; simp; omega))
              have R1D19_W31 := Lib.hid (R1D19_W30.out.grown hgW31 (by have := HGgW28.out; have := HLTwheapsizep1.out; simp; omega))
              have R2D19_W31 := Lib.hid (R2D19_W30.out.grown hgW31 (by have := HGgW28.out; have := HLTg5.out; simp; omega))
              have R3D19_W31 := Lib.hid (R3D19_W30.out.grown hgW31 (by have := HGgW28.out; have := HLTg6.out; simp; omega))
              have R4D19_W31 := Lib.hid (R4D19_W30.out.grown hgW31 (by have := HGgW28.out; have := HLTg8.out; simp; omega))
              have SgW28_W31 : Hid (NAt W31 (gW28) 0) := Lib.hid ⟨23, hhW31⟩
              have HBW31 : Hid (Below w.heap.size w W31) := Lib.hid (HBW30.out.grown hgW31 HBW30.out.size (fun r hr => by injection hr with hr; have := HGgW28.out; have := HB_20.out.size; omega))
              have HLW31 : Hid (x20.heap.size ≤ W31.heap.size) := Lib.hid (Nat.le_trans HLW30.out hgW31.size)
              clear hhW31 hgW31 hzW31 HBW30 HLW30 R0D19_W30 R1D19_W30 R2D19_W30 R3D19_W30 R4D19_W30 ZAgW28_W30
              refine takeAE (i := 9) (oi := { dst := some 10, op := Op.assign (Operand.tmp 49), type := 4, pos := "law.go:94", after := #[{ on := 6, ground := Ground.data }, { on := 8, ground := Ground.chain }, { on := 0, ground := Ground.phase }, { on := 1, ground := Ground.phase }, { on := 2, ground := Ground.phase }, { on := 3, ground := Ground.phase }, { on := 4, ground := Ground.phase }, { on := 5, ground := Ground.phase }, { on := 6, ground := Ground.phase }, { on := 7, ground := Ground.phase }, { on := 8, ground := Ground.phase }], guard := none }) rfl (by kernel_rfl) (by kernel_rfl) (by kernel_rfl) (fun _ _ _ _ h => nomatch h.1) (by rfl) ?_
              refine ⟨.bool false, fun w' => exec_moveA (.tmp 49) rfl _ rfl, ?_⟩
              simp only [Act.put, List.setIfInBounds_toArray, List.set_cons_zero, List.set_cons_succ]
              refine doneW (by kernel_rfl) ⟨rfl, ?_⟩ _
              exact ⟨gW28, R0D19_W31.out, R1D19_W31.out, R2D19_W31.out, R3D19_W31.out, R4D19_W31.out, SgW28_W31.out, HBW31.out, rfl⟩
          · refine wpOp_value (i := 7) (oi := { dst := some 9, op := Op.alloc 23, type := 0, pos := "law.go:94", after := #[], guard := none }) rfl (by rfl) (exec_alloc 23 rfl (.agg (zbs 32)) zero23 D19) ⟨fun _ => (below_alloc D19 _).mono HLD19.out, ?_⟩
            obtain ⟨W32, hW32, hbW32, hzW32⟩ := alloc_zero D19
            rw [← hW32]
            obtain ⟨gW32, hgW32⟩ : ∃ g, g = D19.heap.size := ⟨_, rfl⟩
            rw [← hgW32] at hzW32 ⊢
            have HGgW32 : Hid (x20.heap.size ≤ gW32) := Lib.hid (by rw [hgW32]; exact HLD19.out)
            have HBW32 : Hid (Below w.heap.size w W32) := Lib.hid (HBD19.out.trans (hbW32.mono HBD19.out.size))
            have HLW32 : Hid (x20.heap.size ≤ W32.heap.size) := Lib.hid (Nat.le_trans HLD19.out hbW32.size)
            have R0D19_W32 := Lib.hid (R0D19.out.keep hbW32)
            have R1D19_W32 := Lib.hid (R1D19.out.keep hbW32)
            have R2D19_W32 := Lib.hid (R2D19.out.keep hbW32)
            have R3D19_W32 := Lib.hid (R3D19.out.keep hbW32)
            have R4D19_W32 := Lib.hid (R4D19.out.keep hbW32)
            have ZAgW32_W32 := Lib.hid hzW32
            clear hbW32 HBD19 HLD19 R0D19 R1D19 R2D19 R3D19 R4D19 hzW32 hgW32 hW32
            simp only [Act.put, List.setIfInBounds_toArray, List.set_cons_zero, List.set_cons_succ]
            refine callW (i := 0) (oi := { dst := some 44, op := Op.call { callee := Callee.value (Operand.func 14), args := #[Operand.const (Value.int IntKind.u64 2)], argTypes := #[30] }, type := 23, pos := "law.go:94", after := #[], guard := none }) rfl (by kernel_rfl) (by rfl) (exec_callL 14 [.const (.int .u64 2)] #[30] rfl [.int .u64 2] rfl (CF14 _)) ((C7.out W32).mono ?_)
            rintro eW33 W33 ⟨rfl, hbW33⟩
            refine ⟨_, rfl, fun _ => hbW33.mono HLW32.out, ?_⟩
            have HBW33 : Hid (Below w.heap.size w W33) := Lib.hid (HBW32.out.trans (hbW33.mono HBW32.out.size))
            have HLW33 : Hid (x20.heap.size ≤ W33.heap.size) := Lib.hid (Nat.le_trans HLW32.out hbW33.size)
            have R0D19_W33 := Lib.hid (R0D19_W32.out.keep hbW33)
            have R1D19_W33 := Lib.hid (R1D19_W32.out.keep hbW33)
            have R2D19_W33 := Lib.hid (R2D19_W32.out.keep hbW33)
            have R3D19_W33 := Lib.hid (R3D19_W32.out.keep hbW33)
            have R4D19_W33 := Lib.hid (R4D19_W32.out.keep hbW33)
            have ZAgW32_W33 := Lib.hid (ZAgW32_W32.out.keep hbW33)
            clear hbW33 HBW32 HLW32 R0D19_W32 R1D19_W32 R2D19_W32 R3D19_W32 R4D19_W32 ZAgW32_W32
            simp only [Act.put, List.setIfInBounds_toArray, List.set_cons_zero, List.set_cons_succ]
            refine callW (i := 2) (oi := { dst := some 46, op := Op.call { callee := Callee.value (Operand.func 28), args := #[Operand.tmp 44, Operand.tmp 45], argTypes := #[23, 23] }, type := 23, pos := "law.go:94", after := #[{ on := 0, ground := Ground.data }, { on := 1, ground := Ground.data }, { on := 0, ground := Ground.chain }], guard := none }) rfl (by kernel_rfl) (by rfl) (exec_callL 28 [.tmp 44, .tmp 45] #[23, 23] rfl [vN 2, vN s] rfl (CF28 _)) ((C8.out W33).mono ?_)
            rintro eW34 W34 ⟨rfl, hbW34⟩
            refine ⟨_, rfl, fun _ => hbW34.mono HLW33.out, ?_⟩
            have HBW34 : Hid (Below w.heap.size w W34) := Lib.hid (HBW33.out.trans (hbW34.mono HBW33.out.size))
            have HLW34 : Hid (x20.heap.size ≤ W34.heap.size) := Lib.hid (Nat.le_trans HLW33.out hbW34.size)
            have R0D19_W34 := Lib.hid (R0D19_W33.out.keep hbW34)
            have R1D19_W34 := Lib.hid (R1D19_W33.out.keep hbW34)
            have R2D19_W34 := Lib.hid (R2D19_W33.out.keep hbW34)
            have R3D19_W34 := Lib.hid (R3D19_W33.out.keep hbW34)
            have R4D19_W34 := Lib.hid (R4D19_W33.out.keep hbW34)
            have ZAgW32_W34 := Lib.hid (ZAgW32_W33.out.keep hbW34)
            clear hbW34 HBW33 HLW33 R0D19_W33 R1D19_W33 R2D19_W33 R3D19_W33 R4D19_W33 ZAgW32_W33
            simp only [Act.put, List.setIfInBounds_toArray, List.set_cons_zero, List.set_cons_succ]
            refine callW (i := 3) (oi := { dst := some 47, op := Op.call { callee := Callee.value (Operand.func 9), args := #[Operand.tmp 46], argTypes := #[23] }, type := 24, pos := "law.go:94", after := #[{ on := 2, ground := Ground.data }, { on := 2, ground := Ground.chain }], guard := none }) rfl (by kernel_rfl) (by rfl) (exec_callL 9 [.tmp 46] #[23] rfl [vN t] rfl (CF9 _)) ((C9.out W34).mono ?_)
            rintro eW35 W35 ⟨rfl, hbW35⟩
            refine ⟨_, rfl, fun _ => hbW35.mono HLW34.out, ?_⟩
            have HBW35 : Hid (Below w.heap.size w W35) := Lib.hid (HBW34.out.trans (hbW35.mono HBW34.out.size))
            have HLW35 : Hid (x20.heap.size ≤ W35.heap.size) := Lib.hid (Nat.le_trans HLW34.out hbW35.size)
            have R0D19_W35 := Lib.hid (R0D19_W34.out.keep hbW35)
            have R1D19_W35 := Lib.hid (R1D19_W34.out.keep hbW35)
            have R2D19_W35 := Lib.hid (R2D19_W34.out.keep hbW35)
            have R3D19_W35 := Lib.hid (R3D19_W34.out.keep hbW35)
            have R4D19_W35 := Lib.hid (R4D19_W34.out.keep hbW35)
            have ZAgW32_W35 := Lib.hid (ZAgW32_W34.out.keep hbW35)
            clear hbW35 HBW34 HLW34 R0D19_W34 R1D19_W34 R2D19_W34 R3D19_W34 R4D19_W34 ZAgW32_W34
            simp only [Act.put, List.setIfInBounds_toArray, List.set_cons_zero, List.set_cons_succ]
            refine takeAE (i := 4) (oi := { dst := some 43, op := Op.move (Operand.tmp 47), type := 24, pos := "law.go:94", after := #[{ on := 3, ground := Ground.data }], guard := none }) rfl (by kernel_rfl) (by kernel_rfl) (by kernel_rfl) (fun _ _ _ _ h => nomatch h.1) (by rfl) ?_
            refine ⟨.tuple #[vN 0, .bool false], fun w' => exec_move (.tmp 47) rfl _ rfl, ?_⟩
            simp only [Act.put, List.setIfInBounds_toArray, List.set_cons_zero, List.set_cons_succ]
            refine takeAE (i := 5) (oi := { dst := some 48, op := Op.extract (Operand.tmp 43) 0, type := 23, pos := "law.go:94", after := #[{ on := 4, ground := Ground.data }], guard := none }) rfl (by kernel_rfl) (by kernel_rfl) (by kernel_rfl) (fun _ _ _ _ h => nomatch h.1) (by rfl) ?_
            refine ⟨vN 0, fun w' => exec_extract (.tmp 43) 0 rfl #[vN 0, .bool false] rfl _ rfl, ?_⟩
            simp only [Act.put, List.setIfInBounds_toArray, List.set_cons_zero, List.set_cons_succ]
            refine takeAE (i := 6) (oi := { dst := some 49, op := Op.extract (Operand.tmp 43) 1, type := 4, pos := "law.go:94", after := #[{ on := 4, ground := Ground.data }, { on := 8, ground := Ground.gcOnly Departure.lateStores }], guard := none }) rfl (by kernel_rfl) (by kernel_rfl) (by kernel_rfl) (fun _ _ _ _ h => nomatch h.1) (by rfl) ?_
            refine ⟨.bool false, fun w' => exec_extract (.tmp 43) 1 rfl #[vN 0, .bool false] rfl _ rfl, ?_⟩
            simp only [Act.put, List.setIfInBounds_toArray, List.set_cons_zero, List.set_cons_succ]
            refine storeW_all (i := 8) (oi := { dst := none, op := Op.store 23 (Operand.tmp 9) (Operand.tmp 48), type := 0, pos := "law.go:94", after := #[{ on := 7, ground := Ground.data }, { on := 5, ground := Ground.data }, { on := 3, ground := Ground.chain }, { on := 0, ground := Ground.phase }, { on := 1, ground := Ground.phase }, { on := 2, ground := Ground.phase }, { on := 3, ground := Ground.phase }, { on := 4, ground := Ground.phase }, { on := 5, ground := Ground.phase }, { on := 6, ground := Ground.textOnly Departure.lateStores }, { on := 7, ground := Ground.phase }], guard := none }) rfl (by kernel_rfl) (by rfl) 23 (.tmp 9) (.tmp 48) rfl (gW32) rfl (bcs (enc 0)).toArray rfl 23 _ ZAgW32_W35.out (by rw [List.size_toArray, bcs_enc_len]; exact size23) (by rw [List.size_toArray, bcs_enc_len]; rfl) (bcs_one _) rfl ?_
            intro W36 hhW36 hgW36 hzW36
            simp only [Act.put, List.setIfInBounds_toArray, List.set_cons_zero, List.set_cons_succ]
            have R0D19_W36 := Lib.hid (R0D19_W35.out.grown hgW36 (by have := HGgW32.out; have := HLTwheapsize.out; simp; omega))
            have R1D19_W36 := Lib.hid (R1D19_W35.out.grown hgW36 (by have := HGgW32.out; have := HLTwheapsizep1.out; simp; omega))
            have R2D19_W36 := Lib.hid (R2D19_W35.out.grown hgW36 (by have := HGgW32.out; have := HLTg5.out; simp; omega))
            have R3D19_W36 := Lib.hid (R3D19_W35.out.grown hgW36 (by have := HGgW32.out; have := HLTg6.out; simp; omega))
            have R4D19_W36 := Lib.hid (R4D19_W35.out.grown hgW36 (by have := HGgW32.out; have := HLTg8.out; simp; omega))
            have SgW32_W36 : Hid (NAt W36 (gW32) 0) := Lib.hid ⟨23, hhW36⟩
            have HBW36 : Hid (Below w.heap.size w W36) := Lib.hid (HBW35.out.grown hgW36 HBW35.out.size (fun r hr => by injection hr with hr; have := HGgW32.out; have := HB_20.out.size; omega))
            have HLW36 : Hid (x20.heap.size ≤ W36.heap.size) := Lib.hid (Nat.le_trans HLW35.out hgW36.size)
            clear hhW36 hgW36 hzW36 HBW35 HLW35 R0D19_W35 R1D19_W35 R2D19_W35 R3D19_W35 R4D19_W35 ZAgW32_W35
            refine takeAE (i := 9) (oi := { dst := some 10, op := Op.assign (Operand.tmp 49), type := 4, pos := "law.go:94", after := #[{ on := 6, ground := Ground.data }, { on := 8, ground := Ground.chain }, { on := 0, ground := Ground.phase }, { on := 1, ground := Ground.phase }, { on := 2, ground := Ground.phase }, { on := 3, ground := Ground.phase }, { on := 4, ground := Ground.phase }, { on := 5, ground := Ground.phase }, { on := 6, ground := Ground.phase }, { on := 7, ground := Ground.phase }, { on := 8, ground := Ground.phase }], guard := none }) rfl (by kernel_rfl) (by kernel_rfl) (by kernel_rfl) (fun _ _ _ _ h => nomatch h.1) (by rfl) ?_
            refine ⟨.bool false, fun w' => exec_moveA (.tmp 49) rfl _ rfl, ?_⟩
            simp only [Act.put, List.setIfInBounds_toArray, List.set_cons_zero, List.set_cons_succ]
            refine doneW (by kernel_rfl) ⟨rfl, ?_⟩ _
            exact ⟨gW32, R0D19_W36.out, R1D19_W36.out, R2D19_W36.out, R3D19_W36.out, R4D19_W36.out, SgW32_W36.out, HBW36.out, rfl⟩
        rintro a' yf ⟨g9, h1, h2, h3, h4, h5, h6, h7, rfl⟩
        have RA_yf := Lib.hid h1
        have RB_yf := Lib.hid h2
        have S5_yf := Lib.hid h3
        have S6_yf := Lib.hid h4
        have S8_yf := Lib.hid h5
        have S9_yf := Lib.hid h6
        have HB_yf := Lib.hid h7
        clear h1 h2 h3 h4 h5 h6 h7 RA_20 RB_20 S5_20 S6_20 S8_21 HB_20 HLTwheapsize HLTwheapsizep1 HLTg5 HLTg6 HLTg8
        go_wp2_with (first | ((with_reducible show wpList _ _ _ (⟨_, .load 23 (.tmp 2), _, _, _, _⟩ :: _) _ _); go_must (refine wpList_exec rfl (vN A) (exec_load23 (.tmp 2) rfl (w.heap.size) A rfl RA_yf.out) ?_)) | fail)
        refine (C10.out _).mono ?_
        rintro ex x22 ⟨rfl, hb⟩
        have RA_22 := Lib.hid (RA_yf.out.keep hb)
        have RB_22 := Lib.hid (RB_yf.out.keep hb)
        have S5_22 := Lib.hid (S5_yf.out.keep hb)
        have S6_22 := Lib.hid (S6_yf.out.keep hb)
        have S8_22 := Lib.hid (S8_yf.out.keep hb)
        have S9_22 := Lib.hid (S9_yf.out.keep hb)
        have HB_22 := Lib.hid (HB_yf.out.trans (hb.mono HB_yf.out.size))
        clear hb RA_yf RB_yf S5_yf S6_yf S8_yf S9_yf HB_yf
        go_wp2_with (first | ((with_reducible show wpList _ _ _ (⟨some 11, .alloc 23, _, _, _, _⟩ :: _) _ _); go_must (refine wpList_alloc_row rfl 23 rfl (.agg (zbs 32)) zero23 ?_; intro u23 h1 z1 g1; have H23 := Lib.hid h1; have Z23 := Lib.hid z1; have G23 := Lib.hid g1; clear h1 z1 g1)) | ((with_reducible show wpList _ _ _ (⟨none, .store 23 (.tmp 11) (.tmp 53), _, _, _, _⟩ :: _) _ _); go_must (refine wpList_store_all rfl 23 (.tmp 11) (.tmp 53) rfl (x22.heap.size) rfl (bcs (enc x1)).toArray rfl 23 _ H23.out (by rw [List.size_toArray, bcs_enc_len]; exact size23) (by rw [List.size_toArray, bcs_enc_len]; rfl) (bcs_one _) ?_; intro v23 hh hg hz; have HH23 := Lib.hid hh; have HG23 := Lib.hid hg; clear hh hg hz; have RA_23 := Lib.hid ((RA_22.out.grown G23.out (by simp)).grown HG23.out (by have := RA_22.out.lt; simp; omega)); have RB_23 := Lib.hid ((RB_22.out.grown G23.out (by simp)).grown HG23.out (by have := RB_22.out.lt; simp; omega)); have S5_23 := Lib.hid ((S5_22.out.grown G23.out (by simp)).grown HG23.out (by have := S5_22.out.lt; simp; omega)); have S6_23 := Lib.hid ((S6_22.out.grown G23.out (by simp)).grown HG23.out (by have := S6_22.out.lt; simp; omega)); have S8_23 := Lib.hid ((S8_22.out.grown G23.out (by simp)).grown HG23.out (by have := S8_22.out.lt; simp; omega)); have S9_23 := Lib.hid ((S9_22.out.grown G23.out (by simp)).grown HG23.out (by have := S9_22.out.lt; simp; omega)); have S11_23 : Hid (NAt v23 x22.heap.size x1) := Lib.hid ⟨23, HH23.out⟩; have HB_23 : Hid (Below w.heap.size w v23) := Lib.hid ((HB_22.out.grown G23.out HB_22.out.size (by simp)).grown HG23.out (by have := HB_22.out.size; have := Z23.out; omega) (fun r hr => by injection hr with hr; have := HB_22.out.size; omega)); clear H23 Z23 G23 HH23 HG23 HB_22 RA_22 RB_22 S5_22 S6_22 S8_22 S9_22)) | ((with_reducible show wpList _ _ _ (⟨_, .load 23 (.tmp 3), _, _, _, _⟩ :: _) _ _); go_must (refine wpList_exec rfl (vN B) (exec_load23 (.tmp 3) rfl (w.heap.size + 1) B rfl RB_23.out) ?_)) | fail)
        generalize x22.heap.size = g11 at *
        refine (C11.out _).mono ?_
        rintro ex x24 ⟨rfl, hb⟩
        have RA_24 := Lib.hid (RA_23.out.keep hb)
        have RB_24 := Lib.hid (RB_23.out.keep hb)
        have S5_24 := Lib.hid (S5_23.out.keep hb)
        have S6_24 := Lib.hid (S6_23.out.keep hb)
        have S8_24 := Lib.hid (S8_23.out.keep hb)
        have S9_24 := Lib.hid (S9_23.out.keep hb)
        have S11_24 := Lib.hid (S11_23.out.keep hb)
        have HB_24 := Lib.hid (HB_23.out.trans (hb.mono HB_23.out.size))
        clear hb RA_23 RB_23 S5_23 S6_23 S8_23 S9_23 S11_23 HB_23
        go_wp2_with (first | ((with_reducible show wpList _ _ _ (⟨some 13, .alloc 23, _, _, _, _⟩ :: _) _ _); go_must (refine wpList_alloc_row rfl 23 rfl (.agg (zbs 32)) zero23 ?_; intro u25 h1 z1 g1; have H25 := Lib.hid h1; have Z25 := Lib.hid z1; have G25 := Lib.hid g1; clear h1 z1 g1)) | ((with_reducible show wpList _ _ _ (⟨none, .store 23 (.tmp 13) (.tmp 58), _, _, _, _⟩ :: _) _ _); go_must (refine wpList_store_all rfl 23 (.tmp 13) (.tmp 58) rfl (x24.heap.size) rfl (bcs (enc x2)).toArray rfl 23 _ H25.out (by rw [List.size_toArray, bcs_enc_len]; exact size23) (by rw [List.size_toArray, bcs_enc_len]; rfl) (bcs_one _) ?_; intro v25 hh hg hz; have HH25 := Lib.hid hh; have HG25 := Lib.hid hg; clear hh hg hz; have RA_25 := Lib.hid ((RA_24.out.grown G25.out (by simp)).grown HG25.out (by have := RA_24.out.lt; simp; omega)); have RB_25 := Lib.hid ((RB_24.out.grown G25.out (by simp)).grown HG25.out (by have := RB_24.out.lt; simp; omega)); have S5_25 := Lib.hid ((S5_24.out.grown G25.out (by simp)).grown HG25.out (by have := S5_24.out.lt; simp; omega)); have S6_25 := Lib.hid ((S6_24.out.grown G25.out (by simp)).grown HG25.out (by have := S6_24.out.lt; simp; omega)); have S8_25 := Lib.hid ((S8_24.out.grown G25.out (by simp)).grown HG25.out (by have := S8_24.out.lt; simp; omega)); have S9_25 := Lib.hid ((S9_24.out.grown G25.out (by simp)).grown HG25.out (by have := S9_24.out.lt; simp; omega)); have S11_25 := Lib.hid ((S11_24.out.grown G25.out (by simp)).grown HG25.out (by have := S11_24.out.lt; simp; omega)); have S13_25 : Hid (NAt v25 x24.heap.size x2) := Lib.hid ⟨23, HH25.out⟩; have HB_25 : Hid (Below w.heap.size w v25) := Lib.hid ((HB_24.out.grown G25.out HB_24.out.size (by simp)).grown HG25.out (by have := HB_24.out.size; have := Z25.out; omega) (fun r hr => by injection hr with hr; have := HB_24.out.size; omega)); clear H25 Z25 G25 HH25 HG25 HB_24 RA_24 RB_24 S5_24 S6_24 S8_24 S9_24 S11_24)) | ((with_reducible show wpList _ _ _ (⟨_, .load 23 (.tmp 2), _, _, _, _⟩ :: _) _ _); go_must (refine wpList_exec rfl (vN A) (exec_load23 (.tmp 2) rfl (w.heap.size) A rfl RA_25.out) ?_)) | ((with_reducible show wpList _ _ _ (⟨_, .load 23 (.tmp 3), _, _, _, _⟩ :: _) _ _); go_must (refine wpList_exec rfl (vN B) (exec_load23 (.tmp 3) rfl (w.heap.size + 1) B rfl RB_25.out) ?_)) | fail)
        generalize x24.heap.size = g13 at *
        refine (C12.out _).mono ?_
        rintro ex x26 ⟨rfl, hb⟩
        have RA_26 := Lib.hid (RA_25.out.keep hb)
        have RB_26 := Lib.hid (RB_25.out.keep hb)
        have S5_26 := Lib.hid (S5_25.out.keep hb)
        have S6_26 := Lib.hid (S6_25.out.keep hb)
        have S8_26 := Lib.hid (S8_25.out.keep hb)
        have S9_26 := Lib.hid (S9_25.out.keep hb)
        have S11_26 := Lib.hid (S11_25.out.keep hb)
        have S13_26 := Lib.hid (S13_25.out.keep hb)
        have HB_26 := Lib.hid (HB_25.out.trans (hb.mono HB_25.out.size))
        clear hb RA_25 RB_25 S5_25 S6_25 S8_25 S9_25 S11_25 S13_25 HB_25
        go_wp2_with fail
        refine (C13.out _).mono ?_
        rintro ex x27 ⟨rfl, hb⟩
        have RA_27 := Lib.hid (RA_26.out.keep hb)
        have RB_27 := Lib.hid (RB_26.out.keep hb)
        have S5_27 := Lib.hid (S5_26.out.keep hb)
        have S6_27 := Lib.hid (S6_26.out.keep hb)
        have S8_27 := Lib.hid (S8_26.out.keep hb)
        have S9_27 := Lib.hid (S9_26.out.keep hb)
        have S11_27 := Lib.hid (S11_26.out.keep hb)
        have S13_27 := Lib.hid (S13_26.out.keep hb)
        have HB_27 := Lib.hid (HB_26.out.trans (hb.mono HB_26.out.size))
        clear hb RA_26 RB_26 S5_26 S6_26 S8_26 S9_26 S11_26 S13_26 HB_26
        go_wp2_with (first | ((with_reducible show wpList _ _ _ (⟨some 15, .alloc 23, _, _, _, _⟩ :: _) _ _); go_must (refine wpList_alloc_row rfl 23 rfl (.agg (zbs 32)) zero23 ?_; intro u28 h1 z1 g1; have H28 := Lib.hid h1; have Z28 := Lib.hid z1; have G28 := Lib.hid g1; clear h1 z1 g1)) | ((with_reducible show wpList _ _ _ (⟨none, .store 23 (.tmp 15) (.tmp 65), _, _, _, _⟩ :: _) _ _); go_must (refine wpList_store_all rfl 23 (.tmp 15) (.tmp 65) rfl (x27.heap.size) rfl (bcs (enc x3)).toArray rfl 23 _ H28.out (by rw [List.size_toArray, bcs_enc_len]; exact size23) (by rw [List.size_toArray, bcs_enc_len]; rfl) (bcs_one _) ?_; intro v28 hh hg hz; have HH28 := Lib.hid hh; have HG28 := Lib.hid hg; clear hh hg hz; have RA_28 := Lib.hid ((RA_27.out.grown G28.out (by simp)).grown HG28.out (by have := RA_27.out.lt; simp; omega)); have RB_28 := Lib.hid ((RB_27.out.grown G28.out (by simp)).grown HG28.out (by have := RB_27.out.lt; simp; omega)); have S5_28 := Lib.hid ((S5_27.out.grown G28.out (by simp)).grown HG28.out (by have := S5_27.out.lt; simp; omega)); have S6_28 := Lib.hid ((S6_27.out.grown G28.out (by simp)).grown HG28.out (by have := S6_27.out.lt; simp; omega)); have S8_28 := Lib.hid ((S8_27.out.grown G28.out (by simp)).grown HG28.out (by have := S8_27.out.lt; simp; omega)); have S9_28 := Lib.hid ((S9_27.out.grown G28.out (by simp)).grown HG28.out (by have := S9_27.out.lt; simp; omega)); have S11_28 := Lib.hid ((S11_27.out.grown G28.out (by simp)).grown HG28.out (by have := S11_27.out.lt; simp; omega)); have S13_28 := Lib.hid ((S13_27.out.grown G28.out (by simp)).grown HG28.out (by have := S13_27.out.lt; simp; omega)); have S15_28 : Hid (NAt v28 x27.heap.size x3) := Lib.hid ⟨23, HH28.out⟩; have HB_28 : Hid (Below w.heap.size w v28) := Lib.hid ((HB_27.out.grown G28.out HB_27.out.size (by simp)).grown HG28.out (by have := HB_27.out.size; have := Z28.out; omega) (fun r hr => by injection hr with hr; have := HB_27.out.size; omega)); clear H28 Z28 G28 HH28 HG28 HB_27 RA_27 RB_27 S5_27 S6_27 S8_27 S9_27 S11_27 S13_27)) | fail)
        generalize x27.heap.size = g15 at *
        refine region_wq (by kernel_rfl) (by kernel_rfl) ?_
        refine wq_load rfl (.tmp 2) rfl (w.heap.size) A rfl RA_28.out ?_
        simp only [Act.put, List.setIfInBounds_toArray, List.set_cons_zero, List.set_cons_succ]
        refine wq_call rfl 17 [.tmp 67] #[23] rfl [vN A] rfl (CF17 _) (.bool false) C5.out ?_
        simp only [Act.put, List.setIfInBounds_toArray, List.set_cons_zero, List.set_cons_succ]
        refine wq_load rfl (.tmp 2) rfl (w.heap.size) A rfl RA_28.out ?_
        simp only [Act.put, List.setIfInBounds_toArray, List.set_cons_zero, List.set_cons_succ]
        refine wq_call rfl 13 [.tmp 69] #[23] rfl [vN A] rfl (CF13 _) (vN n) C6.out ?_
        simp only [Act.put, List.setIfInBounds_toArray, List.set_cons_zero, List.set_cons_succ]
        refine wq_call rfl 17 [.tmp 70] #[23] rfl [vN n] rfl (CF17 _) (.bool true) C14.out ?_
        simp only [Act.put, List.setIfInBounds_toArray, List.set_cons_zero, List.set_cons_succ]
        refine wq_bin (P := Try.prog) rfl .neq 4 4 (.tmp 68) (.tmp 71) rfl (.bool false) (.bool true) (.bool true) rfl rfl (fun _ => rfl) (fun w => (run_neqb (P := Try.prog) false true w).trans rfl) ?_
        simp only [Act.put, List.setIfInBounds_toArray, List.set_cons_zero, List.set_cons_succ]
        refine wq_move rfl (.tmp 72) rfl (.bool true) rfl ?_
        simp only [Act.put, List.setIfInBounds_toArray, List.set_cons_zero, List.set_cons_succ]
        refine wq_move rfl (.tmp 7) rfl (.bool true) rfl ?_
        simp only [Act.put, List.setIfInBounds_toArray, List.set_cons_zero, List.set_cons_succ]
        refine wq_pick rfl (.tmp 73) (.tmp 74) (.const (.bool false)) rfl true rfl (.bool true) rfl ?_
        simp only [Act.put, List.setIfInBounds_toArray, List.set_cons_zero, List.set_cons_succ]
        refine wq_move rfl (.tmp 75) rfl (.bool true) rfl ?_
        simp only [Act.put, List.setIfInBounds_toArray, List.set_cons_zero, List.set_cons_succ]
        refine wq_load rfl (.tmp 6) rfl (g6) ev rfl S6_28.out ?_
        simp only [Act.put, List.setIfInBounds_toArray, List.set_cons_zero, List.set_cons_succ]
        refine wq_load rfl (.tmp 8) rfl (g8) ev rfl S8_28.out ?_
        simp only [Act.put, List.setIfInBounds_toArray, List.set_cons_zero, List.set_cons_succ]
        refine wq_eq rfl (.tmp 77) (.tmp 78) rfl ev ev rfl rfl true (eqN_same _) ?_
        simp only [Act.put, List.setIfInBounds_toArray, List.set_cons_zero, List.set_cons_succ]
        refine wq_pick rfl (.tmp 76) (.tmp 79) (.const (.bool false)) rfl true rfl (.bool true) rfl ?_
        simp only [Act.put, List.setIfInBounds_toArray, List.set_cons_zero, List.set_cons_succ]
        refine wq_move rfl (.tmp 80) rfl (.bool true) rfl ?_
        simp only [Act.put, List.setIfInBounds_toArray, List.set_cons_zero, List.set_cons_succ]
        refine wq_move rfl (.tmp 10) rfl (.bool false) rfl ?_
        simp only [Act.put, List.setIfInBounds_toArray, List.set_cons_zero, List.set_cons_succ]
        refine wq_not rfl 4 (.tmp 82) rfl false rfl ?_
        rw [show (!false) = true from rfl]
        simp only [Act.put, List.setIfInBounds_toArray, List.set_cons_zero, List.set_cons_succ]
        refine wq_pick rfl (.tmp 81) (.tmp 83) (.const (.bool false)) rfl true rfl (.bool true) rfl ?_
        simp only [Act.put, List.setIfInBounds_toArray, List.set_cons_zero, List.set_cons_succ]
        refine wq_move rfl (.tmp 84) rfl (.bool true) rfl ?_
        simp only [Act.put, List.setIfInBounds_toArray, List.set_cons_zero, List.set_cons_succ]
        refine wq_load rfl (.tmp 9) rfl (g9) 0 rfl S9_28.out ?_
        simp only [Act.put, List.setIfInBounds_toArray, List.set_cons_zero, List.set_cons_succ]
        refine wq_zero rfl rfl ?_
        simp only [Act.put, List.setIfInBounds_toArray, List.set_cons_zero, List.set_cons_succ]
        refine wq_eq rfl (.tmp 86) (.tmp 87) rfl 0 0 rfl rfl true (eqN_same _) ?_
        simp only [Act.put, List.setIfInBounds_toArray, List.set_cons_zero, List.set_cons_succ]
        refine wq_pick rfl (.tmp 85) (.tmp 88) (.const (.bool false)) rfl true rfl (.bool true) rfl ?_
        simp only [Act.put, List.setIfInBounds_toArray, List.set_cons_zero, List.set_cons_succ]
        refine wq_move rfl (.tmp 89) rfl (.bool true) rfl ?_
        simp only [Act.put, List.setIfInBounds_toArray, List.set_cons_zero, List.set_cons_succ]
        refine wq_move rfl (.tmp 16) rfl (.bool (kA == kB)) rfl ?_
        simp only [Act.put, List.setIfInBounds_toArray, List.set_cons_zero, List.set_cons_succ]
        refine wq_move rfl (.tmp 12) rfl (.bool kA) rfl ?_
        simp only [Act.put, List.setIfInBounds_toArray, List.set_cons_zero, List.set_cons_succ]
        refine wq_move rfl (.tmp 14) rfl (.bool kB) rfl ?_
        simp only [Act.put, List.setIfInBounds_toArray, List.set_cons_zero, List.set_cons_succ]
        refine wq_eqb (P := Try.prog) rfl (.tmp 92) (.tmp 93) rfl kA kB ((kA == kB)) rfl rfl rfl ?_
        simp only [Act.put, List.setIfInBounds_toArray, List.set_cons_zero, List.set_cons_succ]
        refine wq_eqb (P := Try.prog) rfl (.tmp 91) (.tmp 94) rfl ((kA == kB)) ((kA == kB)) true rfl rfl (beq_self_eq_true _) ?_
        simp only [Act.put, List.setIfInBounds_toArray, List.set_cons_zero, List.set_cons_succ]
        refine wq_pick rfl (.tmp 90) (.tmp 95) (.const (.bool false)) rfl true rfl (.bool true) rfl ?_
        simp only [Act.put, List.setIfInBounds_toArray, List.set_cons_zero, List.set_cons_succ]
        refine wq_assign rfl (.tmp 96) rfl (.bool true) rfl ?_
        simp only [Act.put, List.setIfInBounds_toArray, List.set_cons_zero, List.set_cons_succ]
        refine wq_nil ?_
        intro W hb
        have HBW : Hid (Below w.heap.size w W) := HB_28.out.trans (hb.mono HB_28.out.size)
        clear hb HB_28 RA_28 RB_28 S5_28 S6_28 S8_28 S9_28 S11_28 S13_28 S15_28
        go_wp2
        go_ret
        exact ⟨rfl, HBW.out⟩
      · go_wp2_with (first | ((with_reducible show wpList _ _ _ (⟨_, .load 23 (.tmp 2), _, _, _, _⟩ :: _) _ _); go_must (refine wpList_exec rfl (vN A) (exec_load23 (.tmp 2) rfl (w.heap.size) A rfl RA_20.out) ?_)) | fail)
        refine (C6.out _).mono ?_
        rintro ex x121 ⟨rfl, hb⟩
        have RA_121 := Lib.hid (RA_20.out.keep hb)
        have RB_121 := Lib.hid (RB_20.out.keep hb)
        have S5_121 := Lib.hid (S5_20.out.keep hb)
        have S6_121 := Lib.hid (S6_20.out.keep hb)
        have S8_121 := Lib.hid (S8_20.out.keep hb)
        have HB_121 := Lib.hid (HB_20.out.trans (hb.mono HB_20.out.size))
        clear hb RA_20 RB_20 S5_20 S6_20 S8_20 HB_20
        obtain ⟨t8, ht8⟩ := S8_121.out
        go_wp2_with (first | ((with_reducible show wpList _ _ _ (⟨none, .store 23 (.tmp 8) (.tmp 42), _, _, _, _⟩ :: _) _ _); go_must (refine wpList_store_all rfl 23 (.tmp 8) (.tmp 42) rfl g8 rfl (bcs (enc n)).toArray rfl t8 _ ht8 (by rw [List.size_toArray, bcs_enc_len]; exact size23) (by rw [List.size_toArray, List.size_toArray, bcs_enc_len, bcs_enc_len]) (bcs_one _) ?_; intro v122 hh hg hz; have RA_122 := Lib.hid (RA_121.out.grown hg (by have := HDRA8.out; simp; omega)); have RB_122 := Lib.hid (RB_121.out.grown hg (by have := HDRB8.out; simp; omega)); have S5_122 := Lib.hid (S5_121.out.grown hg (by have := HDS58.out; simp; omega)); have S6_122 := Lib.hid (S6_121.out.grown hg (by have := HDS68.out; simp; omega)); have S8_122 : Hid (NAt v122 g8 ev) := Lib.hid ⟨t8, by rw [← (show n = ev from HEV.out)]; exact hh⟩; have HB_122 : Hid (Below w.heap.size w v122) := Lib.hid (HB_121.out.grown hg HB_121.out.size (fun r hr => by injection hr with hr; have := HDw8.out; omega)); clear hh hg hz ht8 HB_121 RA_121 RB_121 S5_121 S6_121 S8_121)) | fail)
        have HLTwheapsize : Hid (w.heap.size < v122.heap.size) := RA_122.out.lt
        have HLTwheapsizep1 : Hid (w.heap.size + 1 < v122.heap.size) := RB_122.out.lt
        have HLTg5 : Hid (g5 < v122.heap.size) := S5_122.out.lt
        have HLTg6 : Hid (g6 < v122.heap.size) := S6_122.out.lt
        have HLTg8 : Hid (g8 < v122.heap.size) := S8_122.out.lt
        refine region_split (fun a' W => ∃ g9, NAt W (w.heap.size) A ∧ NAt W (w.heap.size + 1) B ∧ NAt W (g5) s ∧ NAt W (g6) ev ∧ NAt W (g8) ev ∧ NAt W g9 0 ∧ Below w.heap.size w W ∧ a' = ⟨#[vN A, vN B, .pointer (some ⟨w.heap.size, 0, none⟩), .pointer (some ⟨w.heap.size + 1, 0, none⟩), .bool false, .pointer (some ⟨g5, 0, none⟩), .pointer (some ⟨g6, 0, none⟩), .bool true, .pointer (some ⟨g8, 0, none⟩), .pointer (some ⟨g9, 0, none⟩), .bool false, undef, undef, undef, undef, undef, undef, .bool true, .bool false, vN A, vN rA, vN 0, .bool false, .bool false, vN B, vN rB, vN 0, .bool false, .bool false, vN A, vN A, vN s, .tuple #[vN ev, .bool true], vN s, .tuple #[vN ev, .bool true], vN ev, .bool true, vN A, vN rA, vN A, .bool true, vN A, vN n, .tuple #[vN 0, .bool false], vN 2, vN s, vN t, .tuple #[vN 0, .bool false], vN 0, .bool false, undef, undef, undef, undef, undef, undef, undef, undef, undef, undef, undef, undef, undef, undef, undef, undef, undef, undef, undef, undef, undef, undef, undef, undef, undef, undef, undef, undef, undef, undef, undef, undef, undef, undef, undef, undef, undef, undef, undef, undef, undef, undef, undef, undef, undef, undef, undef], []⟩) ?_ ?_
        · refine startW (fun j => j == 8) (v122.heap.size) (by kernel_rfl) ?_
          obtain ⟨D1, hD1⟩ : ∃ D, D = v122.drew := ⟨_, rfl⟩
          rw [← hD1]
          have HLD1 : Hid (v122.heap.size ≤ D1.heap.size) := Lib.hid (by rw [hD1]; exact Nat.le_refl _)
          have HBD1 : Hid (Below w.heap.size w D1) := Lib.hid (by rw [hD1]; exact below_drewN' HB_122.out 1)
          have R0D1 : Hid (NAt D1 (w.heap.size) A) := Lib.hid (by rw [hD1]; exact RA_122.out)
          have R1D1 : Hid (NAt D1 (w.heap.size + 1) B) := Lib.hid (by rw [hD1]; exact RB_122.out)
          have R2D1 : Hid (NAt D1 (g5) s) := Lib.hid (by rw [hD1]; exact S5_122.out)
          have R3D1 : Hid (NAt D1 (g6) ev) := Lib.hid (by rw [hD1]; exact S6_122.out)
          have R4D1 : Hid (NAt D1 (g8) ev) := Lib.hid (by rw [hD1]; exact S8_122.out)
          clear hD1
          refine takeT (i := 1) (oi := { dst := some 45, op := Op.load 23 (Operand.tmp 5), type := 23, pos := "law.go:94", after := #[], guard := none }) (vN s) rfl (by kernel_rfl) (by kernel_rfl) (by kernel_rfl) (by kernel_rfl) (by kernel_rfl) (fun _ _ _ h => nomatch h.1) (by rfl) (fun w' hk => exec_load23 (.tmp 5) rfl (g5) s rfl (R2D1.out.below hk HLTg5.out)) ?_
          simp only [Act.put, List.setIfInBounds_toArray, List.set_cons_zero, List.set_cons_succ]
          refine eachW [0, 7] (by kernel_rfl) (by simp) ?_
          intro k hk
          simp only [List.mem_cons, List.not_mem_nil, or_false] at hk
          rcases hk with rfl | rfl
          · refine wpOp_call (i := 0) (oi := { dst := some 44, op := Op.call { callee := Callee.value (Operand.func 14), args := #[Operand.const (Value.int IntKind.u64 2)], argTypes := #[30] }, type := 23, pos := "law.go:94", after := #[], guard := none }) rfl (by rfl) (exec_callL 14 [.const (.int .u64 2)] #[30] rfl [.int .u64 2] rfl (CF14 _)) ((C7.out D1).mono ?_)
            rintro eW2 W2 ⟨rfl, hbW2⟩
            refine ⟨_, rfl, fun _ => hbW2.mono HLD1.out, ?_⟩
            have HBW2 : Hid (Below w.heap.size w W2) := Lib.hid (HBD1.out.trans (hbW2.mono HBD1.out.size))
            have HLW2 : Hid (v122.heap.size ≤ W2.heap.size) := Lib.hid (Nat.le_trans HLD1.out hbW2.size)
            have R0D1_W2 := Lib.hid (R0D1.out.keep hbW2)
            have R1D1_W2 := Lib.hid (R1D1.out.keep hbW2)
            have R2D1_W2 := Lib.hid (R2D1.out.keep hbW2)
            have R3D1_W2 := Lib.hid (R3D1.out.keep hbW2)
            have R4D1_W2 := Lib.hid (R4D1.out.keep hbW2)
            clear hbW2 HBD1 HLD1 R0D1 R1D1 R2D1 R3D1 R4D1
            simp only [Act.put, List.setIfInBounds_toArray, List.set_cons_zero, List.set_cons_succ]
            refine eachW [2, 7] (by kernel_rfl) (by simp) ?_
            intro k hk
            simp only [List.mem_cons, List.not_mem_nil, or_false] at hk
            rcases hk with rfl | rfl
            · refine wpOp_call (i := 2) (oi := { dst := some 46, op := Op.call { callee := Callee.value (Operand.func 28), args := #[Operand.tmp 44, Operand.tmp 45], argTypes := #[23, 23] }, type := 23, pos := "law.go:94", after := #[{ on := 0, ground := Ground.data }, { on := 1, ground := Ground.data }, { on := 0, ground := Ground.chain }], guard := none }) rfl (by rfl) (exec_callL 28 [.tmp 44, .tmp 45] #[23, 23] rfl [vN 2, vN s] rfl (CF28 _)) ((C8.out W2).mono ?_)
              rintro eW3 W3 ⟨rfl, hbW3⟩
              refine ⟨_, rfl, fun _ => hbW3.mono HLW2.out, ?_⟩
              have HBW3 : Hid (Below w.heap.size w W3) := Lib.hid (HBW2.out.trans (hbW3.mono HBW2.out.size))
              have HLW3 : Hid (v122.heap.size ≤ W3.heap.size) := Lib.hid (Nat.le_trans HLW2.out hbW3.size)
              have R0D1_W3 := Lib.hid (R0D1_W2.out.keep hbW3)
              have R1D1_W3 := Lib.hid (R1D1_W2.out.keep hbW3)
              have R2D1_W3 := Lib.hid (R2D1_W2.out.keep hbW3)
              have R3D1_W3 := Lib.hid (R3D1_W2.out.keep hbW3)
              have R4D1_W3 := Lib.hid (R4D1_W2.out.keep hbW3)
              clear hbW3 HBW2 HLW2 R0D1_W2 R1D1_W2 R2D1_W2 R3D1_W2 R4D1_W2
              simp only [Act.put, List.setIfInBounds_toArray, List.set_cons_zero, List.set_cons_succ]
              refine eachW [3, 7] (by kernel_rfl) (by simp) ?_
              intro k hk
              simp only [List.mem_cons, List.not_mem_nil, or_false] at hk
              rcases hk with rfl | rfl
              · refine wpOp_call (i := 3) (oi := { dst := some 47, op := Op.call { callee := Callee.value (Operand.func 9), args := #[Operand.tmp 46], argTypes := #[23] }, type := 24, pos := "law.go:94", after := #[{ on := 2, ground := Ground.data }, { on := 2, ground := Ground.chain }], guard := none }) rfl (by rfl) (exec_callL 9 [.tmp 46] #[23] rfl [vN t] rfl (CF9 _)) ((C9.out W3).mono ?_)
                rintro eW4 W4 ⟨rfl, hbW4⟩
                refine ⟨_, rfl, fun _ => hbW4.mono HLW3.out, ?_⟩
                have HBW4 : Hid (Below w.heap.size w W4) := Lib.hid (HBW3.out.trans (hbW4.mono HBW3.out.size))
                have HLW4 : Hid (v122.heap.size ≤ W4.heap.size) := Lib.hid (Nat.le_trans HLW3.out hbW4.size)
                have R0D1_W4 := Lib.hid (R0D1_W3.out.keep hbW4)
                have R1D1_W4 := Lib.hid (R1D1_W3.out.keep hbW4)
                have R2D1_W4 := Lib.hid (R2D1_W3.out.keep hbW4)
                have R3D1_W4 := Lib.hid (R3D1_W3.out.keep hbW4)
                have R4D1_W4 := Lib.hid (R4D1_W3.out.keep hbW4)
                clear hbW4 HBW3 HLW3 R0D1_W3 R1D1_W3 R2D1_W3 R3D1_W3 R4D1_W3
                simp only [Act.put, List.setIfInBounds_toArray, List.set_cons_zero, List.set_cons_succ]
                refine takeAE (i := 4) (oi := { dst := some 43, op := Op.move (Operand.tmp 47), type := 24, pos := "law.go:94", after := #[{ on := 3, ground := Ground.data }], guard := none }) rfl (by kernel_rfl) (by kernel_rfl) (by kernel_rfl) (fun _ _ _ _ h => nomatch h.1) (by rfl) ?_
                refine ⟨.tuple #[vN 0, .bool false], fun w' => exec_move (.tmp 47) rfl _ rfl, ?_⟩
                simp only [Act.put, List.setIfInBounds_toArray, List.set_cons_zero, List.set_cons_succ]
                refine takeAE (i := 5) (oi := { dst := some 48, op := Op.extract (Operand.tmp 43) 0, type := 23, pos := "law.go:94", after := #[{ on := 4, ground := Ground.data }], guard := none }) rfl (by kernel_rfl) (by kernel_rfl) (by kernel_rfl) (fun _ _ _ _ h => nomatch h.1) (by rfl) ?_
                refine ⟨vN 0, fun w' => exec_extract (.tmp 43) 0 rfl #[vN 0, .bool false] rfl _ rfl, ?_⟩
                simp only [Act.put, List.setIfInBounds_toArray, List.set_cons_zero, List.set_cons_succ]
                refine takeAE (i := 6) (oi := { dst := some 49, op := Op.extract (Operand.tmp 43) 1, type := 4, pos := "law.go:94", after := #[{ on := 4, ground := Ground.data }, { on := 8, ground := Ground.gcOnly Departure.lateStores }], guard := none }) rfl (by kernel_rfl) (by kernel_rfl) (by kernel_rfl) (fun _ _ _ _ h => nomatch h.1) (by rfl) ?_
                refine ⟨.bool false, fun w' => exec_extract (.tmp 43) 1 rfl #[vN 0, .bool false] rfl _ rfl, ?_⟩
                simp only [Act.put, List.setIfInBounds_toArray, List.set_cons_zero, List.set_cons_succ]
                refine opW _ _ (i := 7) (oi := { dst := some 9, op := Op.alloc 23, type := 0, pos := "law.go:94", after := #[], guard := none }) rfl (by kernel_rfl) (by rfl) (exec_alloc 23 rfl (.agg (zbs 32)) zero23 W4) (fun _ => (below_alloc W4 _).mono HLW4.out) ?_
                obtain ⟨W5, hW5, hbW5, hzW5⟩ := alloc_zero W4
                rw [← hW5]
                obtain ⟨gW5, hgW5⟩ : ∃ g, g = W4.heap.size := ⟨_, rfl⟩
                rw [← hgW5] at hzW5 ⊢
                have HGgW5 : Hid (v122.heap.size ≤ gW5) := Lib.hid (by rw [hgW5]; exact HLW4.out)
                have HBW5 : Hid (Below w.heap.size w W5) := Lib.hid (HBW4.out.trans (hbW5.mono HBW4.out.size))
                have HLW5 : Hid (v122.heap.size ≤ W5.heap.size) := Lib.hid (Nat.le_trans HLW4.out hbW5.size)
                have R0D1_W5 := Lib.hid (R0D1_W4.out.keep hbW5)
                have R1D1_W5 := Lib.hid (R1D1_W4.out.keep hbW5)
                have R2D1_W5 := Lib.hid (R2D1_W4.out.keep hbW5)
                have R3D1_W5 := Lib.hid (R3D1_W4.out.keep hbW5)
                have R4D1_W5 := Lib.hid (R4D1_W4.out.keep hbW5)
                have ZAgW5_W5 := Lib.hid hzW5
                clear hbW5 HBW4 HLW4 R0D1_W4 R1D1_W4 R2D1_W4 R3D1_W4 R4D1_W4 hzW5 hgW5 hW5
                simp only [Act.put, List.setIfInBounds_toArray, List.set_cons_zero, List.set_cons_succ]
                refine storeW_all (i := 8) (oi := { dst := none, op := Op.store 23 (Operand.tmp 9) (Operand.tmp 48), type := 0, pos := "law.go:94", after := #[{ on := 7, ground := Ground.data }, { on := 5, ground := Ground.data }, { on := 3, ground := Ground.chain }, { on := 0, ground := Ground.phase }, { on := 1, ground := Ground.phase }, { on := 2, ground := Ground.phase }, { on := 3, ground := Ground.phase }, { on := 4, ground := Ground.phase }, { on := 5, ground := Ground.phase }, { on := 6, ground := Ground.textOnly Departure.lateStores }, { on := 7, ground := Ground.phase }], guard := none }) rfl (by kernel_rfl) (by rfl) 23 (.tmp 9) (.tmp 48) rfl (gW5) rfl (bcs (enc 0)).toArray rfl 23 _ ZAgW5_W5.out (by rw [List.size_toArray, bcs_enc_len]; exact size23) (by rw [List.size_toArray, bcs_enc_len]; rfl) (bcs_one _) rfl ?_
                intro W6 hhW6 hgW6 hzW6
                simp only [Act.put, List.setIfInBounds_toArray, List.set_cons_zero, List.set_cons_succ]
                have R0D1_W6 := Lib.hid (R0D1_W5.out.grown hgW6 (by have := HGgW5.out; have := HLTwheapsize.out; simp; omega))
                have R1D1_W6 := Lib.hid (R1D1_W5.out.grown hgW6 (by have := HGgW5.out; have := HLTwheapsizep1.out; simp; omega))
                have R2D1_W6 := Lib.hid (R2D1_W5.out.grown hgW6 (by have := HGgW5.out; have := HLTg5.out; simp; omega))
                have R3D1_W6 := Lib.hid (R3D1_W5.out.grown hgW6 (by have := HGgW5.out; have := HLTg6.out; simp; omega))
                have R4D1_W6 := Lib.hid (R4D1_W5.out.grown hgW6 (by have := HGgW5.out; have := HLTg8.out; simp; omega))
                have SgW5_W6 : Hid (NAt W6 (gW5) 0) := Lib.hid ⟨23, hhW6⟩
                have HBW6 : Hid (Below w.heap.size w W6) := Lib.hid (HBW5.out.grown hgW6 HBW5.out.size (fun r hr => by injection hr with hr; have := HGgW5.out; have := HB_122.out.size; omega))
                have HLW6 : Hid (v122.heap.size ≤ W6.heap.size) := Lib.hid (Nat.le_trans HLW5.out hgW6.size)
                clear hhW6 hgW6 hzW6 HBW5 HLW5 R0D1_W5 R1D1_W5 R2D1_W5 R3D1_W5 R4D1_W5 ZAgW5_W5
                refine takeAE (i := 9) (oi := { dst := some 10, op := Op.assign (Operand.tmp 49), type := 4, pos := "law.go:94", after := #[{ on := 6, ground := Ground.data }, { on := 8, ground := Ground.chain }, { on := 0, ground := Ground.phase }, { on := 1, ground := Ground.phase }, { on := 2, ground := Ground.phase }, { on := 3, ground := Ground.phase }, { on := 4, ground := Ground.phase }, { on := 5, ground := Ground.phase }, { on := 6, ground := Ground.phase }, { on := 7, ground := Ground.phase }, { on := 8, ground := Ground.phase }], guard := none }) rfl (by kernel_rfl) (by kernel_rfl) (by kernel_rfl) (fun _ _ _ _ h => nomatch h.1) (by rfl) ?_
                refine ⟨.bool false, fun w' => exec_moveA (.tmp 49) rfl _ rfl, ?_⟩
                simp only [Act.put, List.setIfInBounds_toArray, List.set_cons_zero, List.set_cons_succ]
                refine doneW (by kernel_rfl) ⟨rfl, ?_⟩ _
                exact ⟨gW5, R0D1_W6.out, R1D1_W6.out, R2D1_W6.out, R3D1_W6.out, R4D1_W6.out, SgW5_W6.out, HBW6.out, rfl⟩
              · refine wpOp_value (i := 7) (oi := { dst := some 9, op := Op.alloc 23, type := 0, pos := "law.go:94", after := #[], guard := none }) rfl (by rfl) (exec_alloc 23 rfl (.agg (zbs 32)) zero23 W3) ⟨fun _ => (below_alloc W3 _).mono HLW3.out, ?_⟩
                obtain ⟨W7, hW7, hbW7, hzW7⟩ := alloc_zero W3
                rw [← hW7]
                obtain ⟨gW7, hgW7⟩ : ∃ g, g = W3.heap.size := ⟨_, rfl⟩
                rw [← hgW7] at hzW7 ⊢
                have HGgW7 : Hid (v122.heap.size ≤ gW7) := Lib.hid (by rw [hgW7]; exact HLW3.out)
                have HBW7 : Hid (Below w.heap.size w W7) := Lib.hid (HBW3.out.trans (hbW7.mono HBW3.out.size))
                have HLW7 : Hid (v122.heap.size ≤ W7.heap.size) := Lib.hid (Nat.le_trans HLW3.out hbW7.size)
                have R0D1_W7 := Lib.hid (R0D1_W3.out.keep hbW7)
                have R1D1_W7 := Lib.hid (R1D1_W3.out.keep hbW7)
                have R2D1_W7 := Lib.hid (R2D1_W3.out.keep hbW7)
                have R3D1_W7 := Lib.hid (R3D1_W3.out.keep hbW7)
                have R4D1_W7 := Lib.hid (R4D1_W3.out.keep hbW7)
                have ZAgW7_W7 := Lib.hid hzW7
                clear hbW7 HBW3 HLW3 R0D1_W3 R1D1_W3 R2D1_W3 R3D1_W3 R4D1_W3 hzW7 hgW7 hW7
                simp only [Act.put, List.setIfInBounds_toArray, List.set_cons_zero, List.set_cons_succ]
                refine callW (i := 3) (oi := { dst := some 47, op := Op.call { callee := Callee.value (Operand.func 9), args := #[Operand.tmp 46], argTypes := #[23] }, type := 24, pos := "law.go:94", after := #[{ on := 2, ground := Ground.data }, { on := 2, ground := Ground.chain }], guard := none }) rfl (by kernel_rfl) (by rfl) (exec_callL 9 [.tmp 46] #[23] rfl [vN t] rfl (CF9 _)) ((C9.out W7).mono ?_)
                rintro eW8 W8 ⟨rfl, hbW8⟩
                refine ⟨_, rfl, fun _ => hbW8.mono HLW7.out, ?_⟩
                have HBW8 : Hid (Below w.heap.size w W8) := Lib.hid (HBW7.out.trans (hbW8.mono HBW7.out.size))
                have HLW8 : Hid (v122.heap.size ≤ W8.heap.size) := Lib.hid (Nat.le_trans HLW7.out hbW8.size)
                have R0D1_W8 := Lib.hid (R0D1_W7.out.keep hbW8)
                have R1D1_W8 := Lib.hid (R1D1_W7.out.keep hbW8)
                have R2D1_W8 := Lib.hid (R2D1_W7.out.keep hbW8)
                have R3D1_W8 := Lib.hid (R3D1_W7.out.keep hbW8)
                have R4D1_W8 := Lib.hid (R4D1_W7.out.keep hbW8)
                have ZAgW7_W8 := Lib.hid (ZAgW7_W7.out.keep hbW8)
                clear hbW8 HBW7 HLW7 R0D1_W7 R1D1_W7 R2D1_W7 R3D1_W7 R4D1_W7 ZAgW7_W7
                simp only [Act.put, List.setIfInBounds_toArray, List.set_cons_zero, List.set_cons_succ]
                refine takeAE (i := 4) (oi := { dst := some 43, op := Op.move (Operand.tmp 47), type := 24, pos := "law.go:94", after := #[{ on := 3, ground := Ground.data }], guard := none }) rfl (by kernel_rfl) (by kernel_rfl) (by kernel_rfl) (fun _ _ _ _ h => nomatch h.1) (by rfl) ?_
                refine ⟨.tuple #[vN 0, .bool false], fun w' => exec_move (.tmp 47) rfl _ rfl, ?_⟩
                simp only [Act.put, List.setIfInBounds_toArray, List.set_cons_zero, List.set_cons_succ]
                refine takeAE (i := 5) (oi := { dst := some 48, op := Op.extract (Operand.tmp 43) 0, type := 23, pos := "law.go:94", after := #[{ on := 4, ground := Ground.data }], guard := none }) rfl (by kernel_rfl) (by kernel_rfl) (by kernel_rfl) (fun _ _ _ _ h => nomatch h.1) (by rfl) ?_
                refine ⟨vN 0, fun w' => exec_extract (.tmp 43) 0 rfl #[vN 0, .bool false] rfl _ rfl, ?_⟩
                simp only [Act.put, List.setIfInBounds_toArray, List.set_cons_zero, List.set_cons_succ]
                refine takeAE (i := 6) (oi := { dst := some 49, op := Op.extract (Operand.tmp 43) 1, type := 4, pos := "law.go:94", after := #[{ on := 4, ground := Ground.data }, { on := 8, ground := Ground.gcOnly Departure.lateStores }], guard := none }) rfl (by kernel_rfl) (by kernel_rfl) (by kernel_rfl) (fun _ _ _ _ h => nomatch h.1) (by rfl) ?_
                refine ⟨.bool false, fun w' => exec_extract (.tmp 43) 1 rfl #[vN 0, .bool false] rfl _ rfl, ?_⟩
                simp only [Act.put, List.setIfInBounds_toArray, List.set_cons_zero, List.set_cons_succ]
                refine storeW_all (i := 8) (oi := { dst := none, op := Op.store 23 (Operand.tmp 9) (Operand.tmp 48), type := 0, pos := "law.go:94", after := #[{ on := 7, ground := Ground.data }, { on := 5, ground := Ground.data }, { on := 3, ground := Ground.chain }, { on := 0, ground := Ground.phase }, { on := 1, ground := Ground.phase }, { on := 2, ground := Ground.phase }, { on := 3, ground := Ground.phase }, { on := 4, ground := Ground.phase }, { on := 5, ground := Ground.phase }, { on := 6, ground := Ground.textOnly Departure.lateStores }, { on := 7, ground := Ground.phase }], guard := none }) rfl (by kernel_rfl) (by rfl) 23 (.tmp 9) (.tmp 48) rfl (gW7) rfl (bcs (enc 0)).toArray rfl 23 _ ZAgW7_W8.out (by rw [List.size_toArray, bcs_enc_len]; exact size23) (by rw [List.size_toArray, bcs_enc_len]; rfl) (bcs_one _) rfl ?_
                intro W9 hhW9 hgW9 hzW9
                simp only [Act.put, List.setIfInBounds_toArray, List.set_cons_zero, List.set_cons_succ]
                have R0D1_W9 := Lib.hid (R0D1_W8.out.grown hgW9 (by have := HGgW7.out; have := HLTwheapsize.out; simp; omega))
                have R1D1_W9 := Lib.hid (R1D1_W8.out.grown hgW9 (by have := HGgW7.out; have := HLTwheapsizep1.out; simp; omega))
                have R2D1_W9 := Lib.hid (R2D1_W8.out.grown hgW9 (by have := HGgW7.out; have := HLTg5.out; simp; omega))
                have R3D1_W9 := Lib.hid (R3D1_W8.out.grown hgW9 (by have := HGgW7.out; have := HLTg6.out; simp; omega))
                have R4D1_W9 := Lib.hid (R4D1_W8.out.grown hgW9 (by have := HGgW7.out; have := HLTg8.out; simp; omega))
                have SgW7_W9 : Hid (NAt W9 (gW7) 0) := Lib.hid ⟨23, hhW9⟩
                have HBW9 : Hid (Below w.heap.size w W9) := Lib.hid (HBW8.out.grown hgW9 HBW8.out.size (fun r hr => by injection hr with hr; have := HGgW7.out; have := HB_122.out.size; omega))
                have HLW9 : Hid (v122.heap.size ≤ W9.heap.size) := Lib.hid (Nat.le_trans HLW8.out hgW9.size)
                clear hhW9 hgW9 hzW9 HBW8 HLW8 R0D1_W8 R1D1_W8 R2D1_W8 R3D1_W8 R4D1_W8 ZAgW7_W8
                refine takeAE (i := 9) (oi := { dst := some 10, op := Op.assign (Operand.tmp 49), type := 4, pos := "law.go:94", after := #[{ on := 6, ground := Ground.data }, { on := 8, ground := Ground.chain }, { on := 0, ground := Ground.phase }, { on := 1, ground := Ground.phase }, { on := 2, ground := Ground.phase }, { on := 3, ground := Ground.phase }, { on := 4, ground := Ground.phase }, { on := 5, ground := Ground.phase }, { on := 6, ground := Ground.phase }, { on := 7, ground := Ground.phase }, { on := 8, ground := Ground.phase }], guard := none }) rfl (by kernel_rfl) (by kernel_rfl) (by kernel_rfl) (fun _ _ _ _ h => nomatch h.1) (by rfl) ?_
                refine ⟨.bool false, fun w' => exec_moveA (.tmp 49) rfl _ rfl, ?_⟩
                simp only [Act.put, List.setIfInBounds_toArray, List.set_cons_zero, List.set_cons_succ]
                refine doneW (by kernel_rfl) ⟨rfl, ?_⟩ _
                exact ⟨gW7, R0D1_W9.out, R1D1_W9.out, R2D1_W9.out, R3D1_W9.out, R4D1_W9.out, SgW7_W9.out, HBW9.out, rfl⟩
            · refine wpOp_value (i := 7) (oi := { dst := some 9, op := Op.alloc 23, type := 0, pos := "law.go:94", after := #[], guard := none }) rfl (by rfl) (exec_alloc 23 rfl (.agg (zbs 32)) zero23 W2) ⟨fun _ => (below_alloc W2 _).mono HLW2.out, ?_⟩
              obtain ⟨W10, hW10, hbW10, hzW10⟩ := alloc_zero W2
              rw [← hW10]
              obtain ⟨gW10, hgW10⟩ : ∃ g, g = W2.heap.size := ⟨_, rfl⟩
              rw [← hgW10] at hzW10 ⊢
              have HGgW10 : Hid (v122.heap.size ≤ gW10) := Lib.hid (by rw [hgW10]; exact HLW2.out)
              have HBW10 : Hid (Below w.heap.size w W10) := Lib.hid (HBW2.out.trans (hbW10.mono HBW2.out.size))
              have HLW10 : Hid (v122.heap.size ≤ W10.heap.size) := Lib.hid (Nat.le_trans HLW2.out hbW10.size)
              have R0D1_W10 := Lib.hid (R0D1_W2.out.keep hbW10)
              have R1D1_W10 := Lib.hid (R1D1_W2.out.keep hbW10)
              have R2D1_W10 := Lib.hid (R2D1_W2.out.keep hbW10)
              have R3D1_W10 := Lib.hid (R3D1_W2.out.keep hbW10)
              have R4D1_W10 := Lib.hid (R4D1_W2.out.keep hbW10)
              have ZAgW10_W10 := Lib.hid hzW10
              clear hbW10 HBW2 HLW2 R0D1_W2 R1D1_W2 R2D1_W2 R3D1_W2 R4D1_W2 hzW10 hgW10 hW10
              simp only [Act.put, List.setIfInBounds_toArray, List.set_cons_zero, List.set_cons_succ]
              refine callW (i := 2) (oi := { dst := some 46, op := Op.call { callee := Callee.value (Operand.func 28), args := #[Operand.tmp 44, Operand.tmp 45], argTypes := #[23, 23] }, type := 23, pos := "law.go:94", after := #[{ on := 0, ground := Ground.data }, { on := 1, ground := Ground.data }, { on := 0, ground := Ground.chain }], guard := none }) rfl (by kernel_rfl) (by rfl) (exec_callL 28 [.tmp 44, .tmp 45] #[23, 23] rfl [vN 2, vN s] rfl (CF28 _)) ((C8.out W10).mono ?_)
              rintro eW11 W11 ⟨rfl, hbW11⟩
              refine ⟨_, rfl, fun _ => hbW11.mono HLW10.out, ?_⟩
              have HBW11 : Hid (Below w.heap.size w W11) := Lib.hid (HBW10.out.trans (hbW11.mono HBW10.out.size))
              have HLW11 : Hid (v122.heap.size ≤ W11.heap.size) := Lib.hid (Nat.le_trans HLW10.out hbW11.size)
              have R0D1_W11 := Lib.hid (R0D1_W10.out.keep hbW11)
              have R1D1_W11 := Lib.hid (R1D1_W10.out.keep hbW11)
              have R2D1_W11 := Lib.hid (R2D1_W10.out.keep hbW11)
              have R3D1_W11 := Lib.hid (R3D1_W10.out.keep hbW11)
              have R4D1_W11 := Lib.hid (R4D1_W10.out.keep hbW11)
              have ZAgW10_W11 := Lib.hid (ZAgW10_W10.out.keep hbW11)
              clear hbW11 HBW10 HLW10 R0D1_W10 R1D1_W10 R2D1_W10 R3D1_W10 R4D1_W10 ZAgW10_W10
              simp only [Act.put, List.setIfInBounds_toArray, List.set_cons_zero, List.set_cons_succ]
              refine callW (i := 3) (oi := { dst := some 47, op := Op.call { callee := Callee.value (Operand.func 9), args := #[Operand.tmp 46], argTypes := #[23] }, type := 24, pos := "law.go:94", after := #[{ on := 2, ground := Ground.data }, { on := 2, ground := Ground.chain }], guard := none }) rfl (by kernel_rfl) (by rfl) (exec_callL 9 [.tmp 46] #[23] rfl [vN t] rfl (CF9 _)) ((C9.out W11).mono ?_)
              rintro eW12 W12 ⟨rfl, hbW12⟩
              refine ⟨_, rfl, fun _ => hbW12.mono HLW11.out, ?_⟩
              have HBW12 : Hid (Below w.heap.size w W12) := Lib.hid (HBW11.out.trans (hbW12.mono HBW11.out.size))
              have HLW12 : Hid (v122.heap.size ≤ W12.heap.size) := Lib.hid (Nat.le_trans HLW11.out hbW12.size)
              have R0D1_W12 := Lib.hid (R0D1_W11.out.keep hbW12)
              have R1D1_W12 := Lib.hid (R1D1_W11.out.keep hbW12)
              have R2D1_W12 := Lib.hid (R2D1_W11.out.keep hbW12)
              have R3D1_W12 := Lib.hid (R3D1_W11.out.keep hbW12)
              have R4D1_W12 := Lib.hid (R4D1_W11.out.keep hbW12)
              have ZAgW10_W12 := Lib.hid (ZAgW10_W11.out.keep hbW12)
              clear hbW12 HBW11 HLW11 R0D1_W11 R1D1_W11 R2D1_W11 R3D1_W11 R4D1_W11 ZAgW10_W11
              simp only [Act.put, List.setIfInBounds_toArray, List.set_cons_zero, List.set_cons_succ]
              refine takeAE (i := 4) (oi := { dst := some 43, op := Op.move (Operand.tmp 47), type := 24, pos := "law.go:94", after := #[{ on := 3, ground := Ground.data }], guard := none }) rfl (by kernel_rfl) (by kernel_rfl) (by kernel_rfl) (fun _ _ _ _ h => nomatch h.1) (by rfl) ?_
              refine ⟨.tuple #[vN 0, .bool false], fun w' => exec_move (.tmp 47) rfl _ rfl, ?_⟩
              simp only [Act.put, List.setIfInBounds_toArray, List.set_cons_zero, List.set_cons_succ]
              refine takeAE (i := 5) (oi := { dst := some 48, op := Op.extract (Operand.tmp 43) 0, type := 23, pos := "law.go:94", after := #[{ on := 4, ground := Ground.data }], guard := none }) rfl (by kernel_rfl) (by kernel_rfl) (by kernel_rfl) (fun _ _ _ _ h => nomatch h.1) (by rfl) ?_
              refine ⟨vN 0, fun w' => exec_extract (.tmp 43) 0 rfl #[vN 0, .bool false] rfl _ rfl, ?_⟩
              simp only [Act.put, List.setIfInBounds_toArray, List.set_cons_zero, List.set_cons_succ]
              refine takeAE (i := 6) (oi := { dst := some 49, op := Op.extract (Operand.tmp 43) 1, type := 4, pos := "law.go:94", after := #[{ on := 4, ground := Ground.data }, { on := 8, ground := Ground.gcOnly Departure.lateStores }], guard := none }) rfl (by kernel_rfl) (by kernel_rfl) (by kernel_rfl) (fun _ _ _ _ h => nomatch h.1) (by rfl) ?_
              refine ⟨.bool false, fun w' => exec_extract (.tmp 43) 1 rfl #[vN 0, .bool false] rfl _ rfl, ?_⟩
              simp only [Act.put, List.setIfInBounds_toArray, List.set_cons_zero, List.set_cons_succ]
              refine storeW_all (i := 8) (oi := { dst := none, op := Op.store 23 (Operand.tmp 9) (Operand.tmp 48), type := 0, pos := "law.go:94", after := #[{ on := 7, ground := Ground.data }, { on := 5, ground := Ground.data }, { on := 3, ground := Ground.chain }, { on := 0, ground := Ground.phase }, { on := 1, ground := Ground.phase }, { on := 2, ground := Ground.phase }, { on := 3, ground := Ground.phase }, { on := 4, ground := Ground.phase }, { on := 5, ground := Ground.phase }, { on := 6, ground := Ground.textOnly Departure.lateStores }, { on := 7, ground := Ground.phase }], guard := none }) rfl (by kernel_rfl) (by rfl) 23 (.tmp 9) (.tmp 48) rfl (gW10) rfl (bcs (enc 0)).toArray rfl 23 _ ZAgW10_W12.out (by rw [List.size_toArray, bcs_enc_len]; exact size23) (by rw [List.size_toArray, bcs_enc_len]; rfl) (bcs_one _) rfl ?_
              intro W13 hhW13 hgW13 hzW13
              simp only [Act.put, List.setIfInBounds_toArray, List.set_cons_zero, List.set_cons_succ]
              have R0D1_W13 := Lib.hid (R0D1_W12.out.grown hgW13 (by have := HGgW10.out; have := HLTwheapsize.out; simp; omega))
              have R1D1_W13 := Lib.hid (R1D1_W12.out.grown hgW13 (by have := HGgW10.out; have := HLTwheapsizep1.out; simp; omega))
              have R2D1_W13 := Lib.hid (R2D1_W12.out.grown hgW13 (by have := HGgW10.out; have := HLTg5.out; simp; omega))
              have R3D1_W13 := Lib.hid (R3D1_W12.out.grown hgW13 (by have := HGgW10.out; have := HLTg6.out; simp; omega))
              have R4D1_W13 := Lib.hid (R4D1_W12.out.grown hgW13 (by have := HGgW10.out; have := HLTg8.out; simp; omega))
              have SgW10_W13 : Hid (NAt W13 (gW10) 0) := Lib.hid ⟨23, hhW13⟩
              have HBW13 : Hid (Below w.heap.size w W13) := Lib.hid (HBW12.out.grown hgW13 HBW12.out.size (fun r hr => by injection hr with hr; have := HGgW10.out; have := HB_122.out.size; omega))
              have HLW13 : Hid (v122.heap.size ≤ W13.heap.size) := Lib.hid (Nat.le_trans HLW12.out hgW13.size)
              clear hhW13 hgW13 hzW13 HBW12 HLW12 R0D1_W12 R1D1_W12 R2D1_W12 R3D1_W12 R4D1_W12 ZAgW10_W12
              refine takeAE (i := 9) (oi := { dst := some 10, op := Op.assign (Operand.tmp 49), type := 4, pos := "law.go:94", after := #[{ on := 6, ground := Ground.data }, { on := 8, ground := Ground.chain }, { on := 0, ground := Ground.phase }, { on := 1, ground := Ground.phase }, { on := 2, ground := Ground.phase }, { on := 3, ground := Ground.phase }, { on := 4, ground := Ground.phase }, { on := 5, ground := Ground.phase }, { on := 6, ground := Ground.phase }, { on := 7, ground := Ground.phase }, { on := 8, ground := Ground.phase }], guard := none }) rfl (by kernel_rfl) (by kernel_rfl) (by kernel_rfl) (fun _ _ _ _ h => nomatch h.1) (by rfl) ?_
              refine ⟨.bool false, fun w' => exec_moveA (.tmp 49) rfl _ rfl, ?_⟩
              simp only [Act.put, List.setIfInBounds_toArray, List.set_cons_zero, List.set_cons_succ]
              refine doneW (by kernel_rfl) ⟨rfl, ?_⟩ _
              exact ⟨gW10, R0D1_W13.out, R1D1_W13.out, R2D1_W13.out, R3D1_W13.out, R4D1_W13.out, SgW10_W13.out, HBW13.out, rfl⟩
          · refine wpOp_value (i := 7) (oi := { dst := some 9, op := Op.alloc 23, type := 0, pos := "law.go:94", after := #[], guard := none }) rfl (by rfl) (exec_alloc 23 rfl (.agg (zbs 32)) zero23 D1) ⟨fun _ => (below_alloc D1 _).mono HLD1.out, ?_⟩
            obtain ⟨W14, hW14, hbW14, hzW14⟩ := alloc_zero D1
            rw [← hW14]
            obtain ⟨gW14, hgW14⟩ : ∃ g, g = D1.heap.size := ⟨_, rfl⟩
            rw [← hgW14] at hzW14 ⊢
            have HGgW14 : Hid (v122.heap.size ≤ gW14) := Lib.hid (by rw [hgW14]; exact HLD1.out)
            have HBW14 : Hid (Below w.heap.size w W14) := Lib.hid (HBD1.out.trans (hbW14.mono HBD1.out.size))
            have HLW14 : Hid (v122.heap.size ≤ W14.heap.size) := Lib.hid (Nat.le_trans HLD1.out hbW14.size)
            have R0D1_W14 := Lib.hid (R0D1.out.keep hbW14)
            have R1D1_W14 := Lib.hid (R1D1.out.keep hbW14)
            have R2D1_W14 := Lib.hid (R2D1.out.keep hbW14)
            have R3D1_W14 := Lib.hid (R3D1.out.keep hbW14)
            have R4D1_W14 := Lib.hid (R4D1.out.keep hbW14)
            have ZAgW14_W14 := Lib.hid hzW14
            clear hbW14 HBD1 HLD1 R0D1 R1D1 R2D1 R3D1 R4D1 hzW14 hgW14 hW14
            simp only [Act.put, List.setIfInBounds_toArray, List.set_cons_zero, List.set_cons_succ]
            refine callW (i := 0) (oi := { dst := some 44, op := Op.call { callee := Callee.value (Operand.func 14), args := #[Operand.const (Value.int IntKind.u64 2)], argTypes := #[30] }, type := 23, pos := "law.go:94", after := #[], guard := none }) rfl (by kernel_rfl) (by rfl) (exec_callL 14 [.const (.int .u64 2)] #[30] rfl [.int .u64 2] rfl (CF14 _)) ((C7.out W14).mono ?_)
            rintro eW15 W15 ⟨rfl, hbW15⟩
            refine ⟨_, rfl, fun _ => hbW15.mono HLW14.out, ?_⟩
            have HBW15 : Hid (Below w.heap.size w W15) := Lib.hid (HBW14.out.trans (hbW15.mono HBW14.out.size))
            have HLW15 : Hid (v122.heap.size ≤ W15.heap.size) := Lib.hid (Nat.le_trans HLW14.out hbW15.size)
            have R0D1_W15 := Lib.hid (R0D1_W14.out.keep hbW15)
            have R1D1_W15 := Lib.hid (R1D1_W14.out.keep hbW15)
            have R2D1_W15 := Lib.hid (R2D1_W14.out.keep hbW15)
            have R3D1_W15 := Lib.hid (R3D1_W14.out.keep hbW15)
            have R4D1_W15 := Lib.hid (R4D1_W14.out.keep hbW15)
            have ZAgW14_W15 := Lib.hid (ZAgW14_W14.out.keep hbW15)
            clear hbW15 HBW14 HLW14 R0D1_W14 R1D1_W14 R2D1_W14 R3D1_W14 R4D1_W14 ZAgW14_W14
            simp only [Act.put, List.setIfInBounds_toArray, List.set_cons_zero, List.set_cons_succ]
            refine callW (i := 2) (oi := { dst := some 46, op := Op.call { callee := Callee.value (Operand.func 28), args := #[Operand.tmp 44, Operand.tmp 45], argTypes := #[23, 23] }, type := 23, pos := "law.go:94", after := #[{ on := 0, ground := Ground.data }, { on := 1, ground := Ground.data }, { on := 0, ground := Ground.chain }], guard := none }) rfl (by kernel_rfl) (by rfl) (exec_callL 28 [.tmp 44, .tmp 45] #[23, 23] rfl [vN 2, vN s] rfl (CF28 _)) ((C8.out W15).mono ?_)
            rintro eW16 W16 ⟨rfl, hbW16⟩
            refine ⟨_, rfl, fun _ => hbW16.mono HLW15.out, ?_⟩
            have HBW16 : Hid (Below w.heap.size w W16) := Lib.hid (HBW15.out.trans (hbW16.mono HBW15.out.size))
            have HLW16 : Hid (v122.heap.size ≤ W16.heap.size) := Lib.hid (Nat.le_trans HLW15.out hbW16.size)
            have R0D1_W16 := Lib.hid (R0D1_W15.out.keep hbW16)
            have R1D1_W16 := Lib.hid (R1D1_W15.out.keep hbW16)
            have R2D1_W16 := Lib.hid (R2D1_W15.out.keep hbW16)
            have R3D1_W16 := Lib.hid (R3D1_W15.out.keep hbW16)
            have R4D1_W16 := Lib.hid (R4D1_W15.out.keep hbW16)
            have ZAgW14_W16 := Lib.hid (ZAgW14_W15.out.keep hbW16)
            clear hbW16 HBW15 HLW15 R0D1_W15 R1D1_W15 R2D1_W15 R3D1_W15 R4D1_W15 ZAgW14_W15
            simp only [Act.put, List.setIfInBounds_toArray, List.set_cons_zero, List.set_cons_succ]
            refine callW (i := 3) (oi := { dst := some 47, op := Op.call { callee := Callee.value (Operand.func 9), args := #[Operand.tmp 46], argTypes := #[23] }, type := 24, pos := "law.go:94", after := #[{ on := 2, ground := Ground.data }, { on := 2, ground := Ground.chain }], guard := none }) rfl (by kernel_rfl) (by rfl) (exec_callL 9 [.tmp 46] #[23] rfl [vN t] rfl (CF9 _)) ((C9.out W16).mono ?_)
            rintro eW17 W17 ⟨rfl, hbW17⟩
            refine ⟨_, rfl, fun _ => hbW17.mono HLW16.out, ?_⟩
            have HBW17 : Hid (Below w.heap.size w W17) := Lib.hid (HBW16.out.trans (hbW17.mono HBW16.out.size))
            have HLW17 : Hid (v122.heap.size ≤ W17.heap.size) := Lib.hid (Nat.le_trans HLW16.out hbW17.size)
            have R0D1_W17 := Lib.hid (R0D1_W16.out.keep hbW17)
            have R1D1_W17 := Lib.hid (R1D1_W16.out.keep hbW17)
            have R2D1_W17 := Lib.hid (R2D1_W16.out.keep hbW17)
            have R3D1_W17 := Lib.hid (R3D1_W16.out.keep hbW17)
            have R4D1_W17 := Lib.hid (R4D1_W16.out.keep hbW17)
            have ZAgW14_W17 := Lib.hid (ZAgW14_W16.out.keep hbW17)
            clear hbW17 HBW16 HLW16 R0D1_W16 R1D1_W16 R2D1_W16 R3D1_W16 R4D1_W16 ZAgW14_W16
            simp only [Act.put, List.setIfInBounds_toArray, List.set_cons_zero, List.set_cons_succ]
            refine takeAE (i := 4) (oi := { dst := some 43, op := Op.move (Operand.tmp 47), type := 24, pos := "law.go:94", after := #[{ on := 3, ground := Ground.data }], guard := none }) rfl (by kernel_rfl) (by kernel_rfl) (by kernel_rfl) (fun _ _ _ _ h => nomatch h.1) (by rfl) ?_
            refine ⟨.tuple #[vN 0, .bool false], fun w' => exec_move (.tmp 47) rfl _ rfl, ?_⟩
            simp only [Act.put, List.setIfInBounds_toArray, List.set_cons_zero, List.set_cons_succ]
            refine takeAE (i := 5) (oi := { dst := some 48, op := Op.extract (Operand.tmp 43) 0, type := 23, pos := "law.go:94", after := #[{ on := 4, ground := Ground.data }], guard := none }) rfl (by kernel_rfl) (by kernel_rfl) (by kernel_rfl) (fun _ _ _ _ h => nomatch h.1) (by rfl) ?_
            refine ⟨vN 0, fun w' => exec_extract (.tmp 43) 0 rfl #[vN 0, .bool false] rfl _ rfl, ?_⟩
            simp only [Act.put, List.setIfInBounds_toArray, List.set_cons_zero, List.set_cons_succ]
            refine takeAE (i := 6) (oi := { dst := some 49, op := Op.extract (Operand.tmp 43) 1, type := 4, pos := "law.go:94", after := #[{ on := 4, ground := Ground.data }, { on := 8, ground := Ground.gcOnly Departure.lateStores }], guard := none }) rfl (by kernel_rfl) (by kernel_rfl) (by kernel_rfl) (fun _ _ _ _ h => nomatch h.1) (by rfl) ?_
            refine ⟨.bool false, fun w' => exec_extract (.tmp 43) 1 rfl #[vN 0, .bool false] rfl _ rfl, ?_⟩
            simp only [Act.put, List.setIfInBounds_toArray, List.set_cons_zero, List.set_cons_succ]
            refine storeW_all (i := 8) (oi := { dst := none, op := Op.store 23 (Operand.tmp 9) (Operand.tmp 48), type := 0, pos := "law.go:94", after := #[{ on := 7, ground := Ground.data }, { on := 5, ground := Ground.data }, { on := 3, ground := Ground.chain }, { on := 0, ground := Ground.phase }, { on := 1, ground := Ground.phase }, { on := 2, ground := Ground.phase }, { on := 3, ground := Ground.phase }, { on := 4, ground := Ground.phase }, { on := 5, ground := Ground.phase }, { on := 6, ground := Ground.textOnly Departure.lateStores }, { on := 7, ground := Ground.phase }], guard := none }) rfl (by kernel_rfl) (by rfl) 23 (.tmp 9) (.tmp 48) rfl (gW14) rfl (bcs (enc 0)).toArray rfl 23 _ ZAgW14_W17.out (by rw [List.size_toArray, bcs_enc_len]; exact size23) (by rw [List.size_toArray, bcs_enc_len]; rfl) (bcs_one _) rfl ?_
            intro W18 hhW18 hgW18 hzW18
            simp only [Act.put, List.setIfInBounds_toArray, List.set_cons_zero, List.set_cons_succ]
            have R0D1_W18 := Lib.hid (R0D1_W17.out.grown hgW18 (by have := HGgW14.out; have := HLTwheapsize.out; simp; omega))
            have R1D1_W18 := Lib.hid (R1D1_W17.out.grown hgW18 (by have := HGgW14.out; have := HLTwheapsizep1.out; simp; omega))
            have R2D1_W18 := Lib.hid (R2D1_W17.out.grown hgW18 (by have := HGgW14.out; have := HLTg5.out; simp; omega))
            have R3D1_W18 := Lib.hid (R3D1_W17.out.grown hgW18 (by have := HGgW14.out; have := HLTg6.out; simp; omega))
            have R4D1_W18 := Lib.hid (R4D1_W17.out.grown hgW18 (by have := HGgW14.out; have := HLTg8.out; simp; omega))
            have SgW14_W18 : Hid (NAt W18 (gW14) 0) := Lib.hid ⟨23, hhW18⟩
            have HBW18 : Hid (Below w.heap.size w W18) := Lib.hid (HBW17.out.grown hgW18 HBW17.out.size (fun r hr => by injection hr with hr; have := HGgW14.out; have := HB_122.out.size; omega))
            have HLW18 : Hid (v122.heap.size ≤ W18.heap.size) := Lib.hid (Nat.le_trans HLW17.out hgW18.size)
            clear hhW18 hgW18 hzW18 HBW17 HLW17 R0D1_W17 R1D1_W17 R2D1_W17 R3D1_W17 R4D1_W17 ZAgW14_W17
            refine takeAE (i := 9) (oi := { dst := some 10, op := Op.assign (Operand.tmp 49), type := 4, pos := "law.go:94", after := #[{ on := 6, ground := Ground.data }, { on := 8, ground := Ground.chain }, { on := 0, ground := Ground.phase }, { on := 1, ground := Ground.phase }, { on := 2, ground := Ground.phase }, { on := 3, ground := Ground.phase }, { on := 4, ground := Ground.phase }, { on := 5, ground := Ground.phase }, { on := 6, ground := Ground.phase }, { on := 7, ground := Ground.phase }, { on := 8, ground := Ground.phase }], guard := none }) rfl (by kernel_rfl) (by kernel_rfl) (by kernel_rfl) (fun _ _ _ _ h => nomatch h.1) (by rfl) ?_
            refine ⟨.bool false, fun w' => exec_moveA (.tmp 49) rfl _ rfl, ?_⟩
            simp only [Act.put, List.setIfInBounds_toArray, List.set_cons_zero, List.set_cons_succ]
            refine doneW (by kernel_rfl) ⟨rfl, ?_⟩ _
            exact ⟨gW14, R0D1_W18.out, R1D1_W18.out, R2D1_W18.out, R3D1_W18.out, R4D1_W18.out, SgW14_W18.out, HBW18.out, rfl⟩
        rintro a' yt ⟨g9, h1, h2, h3, h4, h5, h6, h7, rfl⟩
        have RA_yt := Lib.hid h1
        have RB_yt := Lib.hid h2
        have S5_yt := Lib.hid h3
        have S6_yt := Lib.hid h4
        have S8_yt := Lib.hid h5
        have S9_yt := Lib.hid h6
        have HB_yt := Lib.hid h7
        clear h1 h2 h3 h4 h5 h6 h7 RA_122 RB_122 S5_122 S6_122 S8_122 HB_122 HLTwheapsize HLTwheapsizep1 HLTg5 HLTg6 HLTg8
        go_wp2_with (first | ((with_reducible show wpList _ _ _ (⟨_, .load 23 (.tmp 2), _, _, _, _⟩ :: _) _ _); go_must (refine wpList_exec rfl (vN A) (exec_load23 (.tmp 2) rfl (w.heap.size) A rfl RA_yt.out) ?_)) | fail)
        refine (C10.out _).mono ?_
        rintro ex x123 ⟨rfl, hb⟩
        have RA_123 := Lib.hid (RA_yt.out.keep hb)
        have RB_123 := Lib.hid (RB_yt.out.keep hb)
        have S5_123 := Lib.hid (S5_yt.out.keep hb)
        have S6_123 := Lib.hid (S6_yt.out.keep hb)
        have S8_123 := Lib.hid (S8_yt.out.keep hb)
        have S9_123 := Lib.hid (S9_yt.out.keep hb)
        have HB_123 := Lib.hid (HB_yt.out.trans (hb.mono HB_yt.out.size))
        clear hb RA_yt RB_yt S5_yt S6_yt S8_yt S9_yt HB_yt
        go_wp2_with (first | ((with_reducible show wpList _ _ _ (⟨some 11, .alloc 23, _, _, _, _⟩ :: _) _ _); go_must (refine wpList_alloc_row rfl 23 rfl (.agg (zbs 32)) zero23 ?_; intro u124 h1 z1 g1; have H124 := Lib.hid h1; have Z124 := Lib.hid z1; have G124 := Lib.hid g1; clear h1 z1 g1)) | ((with_reducible show wpList _ _ _ (⟨none, .store 23 (.tmp 11) (.tmp 53), _, _, _, _⟩ :: _) _ _); go_must (refine wpList_store_all rfl 23 (.tmp 11) (.tmp 53) rfl (x123.heap.size) rfl (bcs (enc x1)).toArray rfl 23 _ H124.out (by rw [List.size_toArray, bcs_enc_len]; exact size23) (by rw [List.size_toArray, bcs_enc_len]; rfl) (bcs_one _) ?_; intro v124 hh hg hz; have HH124 := Lib.hid hh; have HG124 := Lib.hid hg; clear hh hg hz; have RA_124 := Lib.hid ((RA_123.out.grown G124.out (by simp)).grown HG124.out (by have := RA_123.out.lt; simp; omega)); have RB_124 := Lib.hid ((RB_123.out.grown G124.out (by simp)).grown HG124.out (by have := RB_123.out.lt; simp; omega)); have S5_124 := Lib.hid ((S5_123.out.grown G124.out (by simp)).grown HG124.out (by have := S5_123.out.lt; simp; omega)); have S6_124 := Lib.hid ((S6_123.out.grown G124.out (by simp)).grown HG124.out (by have := S6_123.out.lt; simp; omega)); have S8_124 := Lib.hid ((S8_123.out.grown G124.out (by simp)).grown HG124.out (by have := S8_123.out.lt; simp; omega)); have S9_124 := Lib.hid ((S9_123.out.grown G124.out (by simp)).grown HG124.out (by have := S9_123.out.lt; simp; omega)); have S11_124 : Hid (NAt v124 x123.heap.size x1) := Lib.hid ⟨23, HH124.out⟩; have HB_124 : Hid (Below w.heap.size w v124) := Lib.hid ((HB_123.out.grown G124.out HB_123.out.size (by simp)).grown HG124.out (by have := HB_123.out.size; have := Z124.out; omega) (fun r hr => by injection hr with hr; have := HB_123.out.size; omega)); clear H124 Z124 G124 HH124 HG124 HB_123 RA_123 RB_123 S5_123 S6_123 S8_123 S9_123)) | ((with_reducible show wpList _ _ _ (⟨_, .load 23 (.tmp 3), _, _, _, _⟩ :: _) _ _); go_must (refine wpList_exec rfl (vN B) (exec_load23 (.tmp 3) rfl (w.heap.size + 1) B rfl RB_124.out) ?_)) | fail)
        generalize x123.heap.size = g11 at *
        refine (C11.out _).mono ?_
        rintro ex x125 ⟨rfl, hb⟩
        have RA_125 := Lib.hid (RA_124.out.keep hb)
        have RB_125 := Lib.hid (RB_124.out.keep hb)
        have S5_125 := Lib.hid (S5_124.out.keep hb)
        have S6_125 := Lib.hid (S6_124.out.keep hb)
        have S8_125 := Lib.hid (S8_124.out.keep hb)
        have S9_125 := Lib.hid (S9_124.out.keep hb)
        have S11_125 := Lib.hid (S11_124.out.keep hb)
        have HB_125 := Lib.hid (HB_124.out.trans (hb.mono HB_124.out.size))
        clear hb RA_124 RB_124 S5_124 S6_124 S8_124 S9_124 S11_124 HB_124
        go_wp2_with (first | ((with_reducible show wpList _ _ _ (⟨some 13, .alloc 23, _, _, _, _⟩ :: _) _ _); go_must (refine wpList_alloc_row rfl 23 rfl (.agg (zbs 32)) zero23 ?_; intro u126 h1 z1 g1; have H126 := Lib.hid h1; have Z126 := Lib.hid z1; have G126 := Lib.hid g1; clear h1 z1 g1)) | ((with_reducible show wpList _ _ _ (⟨none, .store 23 (.tmp 13) (.tmp 58), _, _, _, _⟩ :: _) _ _); go_must (refine wpList_store_all rfl 23 (.tmp 13) (.tmp 58) rfl (x125.heap.size) rfl (bcs (enc x2)).toArray rfl 23 _ H126.out (by rw [List.size_toArray, bcs_enc_len]; exact size23) (by rw [List.size_toArray, bcs_enc_len]; rfl) (bcs_one _) ?_; intro v126 hh hg hz; have HH126 := Lib.hid hh; have HG126 := Lib.hid hg; clear hh hg hz; have RA_126 := Lib.hid ((RA_125.out.grown G126.out (by simp)).grown HG126.out (by have := RA_125.out.lt; simp; omega)); have RB_126 := Lib.hid ((RB_125.out.grown G126.out (by simp)).grown HG126.out (by have := RB_125.out.lt; simp; omega)); have S5_126 := Lib.hid ((S5_125.out.grown G126.out (by simp)).grown HG126.out (by have := S5_125.out.lt; simp; omega)); have S6_126 := Lib.hid ((S6_125.out.grown G126.out (by simp)).grown HG126.out (by have := S6_125.out.lt; simp; omega)); have S8_126 := Lib.hid ((S8_125.out.grown G126.out (by simp)).grown HG126.out (by have := S8_125.out.lt; simp; omega)); have S9_126 := Lib.hid ((S9_125.out.grown G126.out (by simp)).grown HG126.out (by have := S9_125.out.lt; simp; omega)); have S11_126 := Lib.hid ((S11_125.out.grown G126.out (by simp)).grown HG126.out (by have := S11_125.out.lt; simp; omega)); have S13_126 : Hid (NAt v126 x125.heap.size x2) := Lib.hid ⟨23, HH126.out⟩; have HB_126 : Hid (Below w.heap.size w v126) := Lib.hid ((HB_125.out.grown G126.out HB_125.out.size (by simp)).grown HG126.out (by have := HB_125.out.size; have := Z126.out; omega) (fun r hr => by injection hr with hr; have := HB_125.out.size; omega)); clear H126 Z126 G126 HH126 HG126 HB_125 RA_125 RB_125 S5_125 S6_125 S8_125 S9_125 S11_125)) | ((with_reducible show wpList _ _ _ (⟨_, .load 23 (.tmp 2), _, _, _, _⟩ :: _) _ _); go_must (refine wpList_exec rfl (vN A) (exec_load23 (.tmp 2) rfl (w.heap.size) A rfl RA_126.out) ?_)) | ((with_reducible show wpList _ _ _ (⟨_, .load 23 (.tmp 3), _, _, _, _⟩ :: _) _ _); go_must (refine wpList_exec rfl (vN B) (exec_load23 (.tmp 3) rfl (w.heap.size + 1) B rfl RB_126.out) ?_)) | fail)
        generalize x125.heap.size = g13 at *
        refine (C12.out _).mono ?_
        rintro ex x127 ⟨rfl, hb⟩
        have RA_127 := Lib.hid (RA_126.out.keep hb)
        have RB_127 := Lib.hid (RB_126.out.keep hb)
        have S5_127 := Lib.hid (S5_126.out.keep hb)
        have S6_127 := Lib.hid (S6_126.out.keep hb)
        have S8_127 := Lib.hid (S8_126.out.keep hb)
        have S9_127 := Lib.hid (S9_126.out.keep hb)
        have S11_127 := Lib.hid (S11_126.out.keep hb)
        have S13_127 := Lib.hid (S13_126.out.keep hb)
        have HB_127 := Lib.hid (HB_126.out.trans (hb.mono HB_126.out.size))
        clear hb RA_126 RB_126 S5_126 S6_126 S8_126 S9_126 S11_126 S13_126 HB_126
        go_wp2_with fail
        refine (C13.out _).mono ?_
        rintro ex x128 ⟨rfl, hb⟩
        have RA_128 := Lib.hid (RA_127.out.keep hb)
        have RB_128 := Lib.hid (RB_127.out.keep hb)
        have S5_128 := Lib.hid (S5_127.out.keep hb)
        have S6_128 := Lib.hid (S6_127.out.keep hb)
        have S8_128 := Lib.hid (S8_127.out.keep hb)
        have S9_128 := Lib.hid (S9_127.out.keep hb)
        have S11_128 := Lib.hid (S11_127.out.keep hb)
        have S13_128 := Lib.hid (S13_127.out.keep hb)
        have HB_128 := Lib.hid (HB_127.out.trans (hb.mono HB_127.out.size))
        clear hb RA_127 RB_127 S5_127 S6_127 S8_127 S9_127 S11_127 S13_127 HB_127
        go_wp2_with (first | ((with_reducible show wpList _ _ _ (⟨some 15, .alloc 23, _, _, _, _⟩ :: _) _ _); go_must (refine wpList_alloc_row rfl 23 rfl (.agg (zbs 32)) zero23 ?_; intro u129 h1 z1 g1; have H129 := Lib.hid h1; have Z129 := Lib.hid z1; have G129 := Lib.hid g1; clear h1 z1 g1)) | ((with_reducible show wpList _ _ _ (⟨none, .store 23 (.tmp 15) (.tmp 65), _, _, _, _⟩ :: _) _ _); go_must (refine wpList_store_all rfl 23 (.tmp 15) (.tmp 65) rfl (x128.heap.size) rfl (bcs (enc x3)).toArray rfl 23 _ H129.out (by rw [List.size_toArray, bcs_enc_len]; exact size23) (by rw [List.size_toArray, bcs_enc_len]; rfl) (bcs_one _) ?_; intro v129 hh hg hz; have HH129 := Lib.hid hh; have HG129 := Lib.hid hg; clear hh hg hz; have RA_129 := Lib.hid ((RA_128.out.grown G129.out (by simp)).grown HG129.out (by have := RA_128.out.lt; simp; omega)); have RB_129 := Lib.hid ((RB_128.out.grown G129.out (by simp)).grown HG129.out (by have := RB_128.out.lt; simp; omega)); have S5_129 := Lib.hid ((S5_128.out.grown G129.out (by simp)).grown HG129.out (by have := S5_128.out.lt; simp; omega)); have S6_129 := Lib.hid ((S6_128.out.grown G129.out (by simp)).grown HG129.out (by have := S6_128.out.lt; simp; omega)); have S8_129 := Lib.hid ((S8_128.out.grown G129.out (by simp)).grown HG129.out (by have := S8_128.out.lt; simp; omega)); have S9_129 := Lib.hid ((S9_128.out.grown G129.out (by simp)).grown HG129.out (by have := S9_128.out.lt; simp; omega)); have S11_129 := Lib.hid ((S11_128.out.grown G129.out (by simp)).grown HG129.out (by have := S11_128.out.lt; simp; omega)); have S13_129 := Lib.hid ((S13_128.out.grown G129.out (by simp)).grown HG129.out (by have := S13_128.out.lt; simp; omega)); have S15_129 : Hid (NAt v129 x128.heap.size x3) := Lib.hid ⟨23, HH129.out⟩; have HB_129 : Hid (Below w.heap.size w v129) := Lib.hid ((HB_128.out.grown G129.out HB_128.out.size (by simp)).grown HG129.out (by have := HB_128.out.size; have := Z129.out; omega) (fun r hr => by injection hr with hr; have := HB_128.out.size; omega)); clear H129 Z129 G129 HH129 HG129 HB_128 RA_128 RB_128 S5_128 S6_128 S8_128 S9_128 S11_128 S13_128)) | fail)
        generalize x128.heap.size = g15 at *
        refine region_wq (by kernel_rfl) (by kernel_rfl) ?_
        refine wq_load rfl (.tmp 2) rfl (w.heap.size) A rfl RA_129.out ?_
        simp only [Act.put, List.setIfInBounds_toArray, List.set_cons_zero, List.set_cons_succ]
        refine wq_call rfl 17 [.tmp 67] #[23] rfl [vN A] rfl (CF17 _) (.bool true) C5.out ?_
        simp only [Act.put, List.setIfInBounds_toArray, List.set_cons_zero, List.set_cons_succ]
        refine wq_load rfl (.tmp 2) rfl (w.heap.size) A rfl RA_129.out ?_
        simp only [Act.put, List.setIfInBounds_toArray, List.set_cons_zero, List.set_cons_succ]
        refine wq_call rfl 13 [.tmp 69] #[23] rfl [vN A] rfl (CF13 _) (vN n) C6.out ?_
        simp only [Act.put, List.setIfInBounds_toArray, List.set_cons_zero, List.set_cons_succ]
        refine wq_call rfl 17 [.tmp 70] #[23] rfl [vN n] rfl (CF17 _) (.bool false) C14.out ?_
        simp only [Act.put, List.setIfInBounds_toArray, List.set_cons_zero, List.set_cons_succ]
        refine wq_bin (P := Try.prog) rfl .neq 4 4 (.tmp 68) (.tmp 71) rfl (.bool true) (.bool false) (.bool true) rfl rfl (fun _ => rfl) (fun w => (run_neqb (P := Try.prog) true false w).trans rfl) ?_
        simp only [Act.put, List.setIfInBounds_toArray, List.set_cons_zero, List.set_cons_succ]
        refine wq_move rfl (.tmp 72) rfl (.bool true) rfl ?_
        simp only [Act.put, List.setIfInBounds_toArray, List.set_cons_zero, List.set_cons_succ]
        refine wq_move rfl (.tmp 7) rfl (.bool true) rfl ?_
        simp only [Act.put, List.setIfInBounds_toArray, List.set_cons_zero, List.set_cons_succ]
        refine wq_pick rfl (.tmp 73) (.tmp 74) (.const (.bool false)) rfl true rfl (.bool true) rfl ?_
        simp only [Act.put, List.setIfInBounds_toArray, List.set_cons_zero, List.set_cons_succ]
        refine wq_move rfl (.tmp 75) rfl (.bool true) rfl ?_
        simp only [Act.put, List.setIfInBounds_toArray, List.set_cons_zero, List.set_cons_succ]
        refine wq_load rfl (.tmp 6) rfl (g6) ev rfl S6_129.out ?_
        simp only [Act.put, List.setIfInBounds_toArray, List.set_cons_zero, List.set_cons_succ]
        refine wq_load rfl (.tmp 8) rfl (g8) ev rfl S8_129.out ?_
        simp only [Act.put, List.setIfInBounds_toArray, List.set_cons_zero, List.set_cons_succ]
        refine wq_eq rfl (.tmp 77) (.tmp 78) rfl ev ev rfl rfl true (eqN_same _) ?_
        simp only [Act.put, List.setIfInBounds_toArray, List.set_cons_zero, List.set_cons_succ]
        refine wq_pick rfl (.tmp 76) (.tmp 79) (.const (.bool false)) rfl true rfl (.bool true) rfl ?_
        simp only [Act.put, List.setIfInBounds_toArray, List.set_cons_zero, List.set_cons_succ]
        refine wq_move rfl (.tmp 80) rfl (.bool true) rfl ?_
        simp only [Act.put, List.setIfInBounds_toArray, List.set_cons_zero, List.set_cons_succ]
        refine wq_move rfl (.tmp 10) rfl (.bool false) rfl ?_
        simp only [Act.put, List.setIfInBounds_toArray, List.set_cons_zero, List.set_cons_succ]
        refine wq_not rfl 4 (.tmp 82) rfl false rfl ?_
        rw [show (!false) = true from rfl]
        simp only [Act.put, List.setIfInBounds_toArray, List.set_cons_zero, List.set_cons_succ]
        refine wq_pick rfl (.tmp 81) (.tmp 83) (.const (.bool false)) rfl true rfl (.bool true) rfl ?_
        simp only [Act.put, List.setIfInBounds_toArray, List.set_cons_zero, List.set_cons_succ]
        refine wq_move rfl (.tmp 84) rfl (.bool true) rfl ?_
        simp only [Act.put, List.setIfInBounds_toArray, List.set_cons_zero, List.set_cons_succ]
        refine wq_load rfl (.tmp 9) rfl (g9) 0 rfl S9_129.out ?_
        simp only [Act.put, List.setIfInBounds_toArray, List.set_cons_zero, List.set_cons_succ]
        refine wq_zero rfl rfl ?_
        simp only [Act.put, List.setIfInBounds_toArray, List.set_cons_zero, List.set_cons_succ]
        refine wq_eq rfl (.tmp 86) (.tmp 87) rfl 0 0 rfl rfl true (eqN_same _) ?_
        simp only [Act.put, List.setIfInBounds_toArray, List.set_cons_zero, List.set_cons_succ]
        refine wq_pick rfl (.tmp 85) (.tmp 88) (.const (.bool false)) rfl true rfl (.bool true) rfl ?_
        simp only [Act.put, List.setIfInBounds_toArray, List.set_cons_zero, List.set_cons_succ]
        refine wq_move rfl (.tmp 89) rfl (.bool true) rfl ?_
        simp only [Act.put, List.setIfInBounds_toArray, List.set_cons_zero, List.set_cons_succ]
        refine wq_move rfl (.tmp 16) rfl (.bool (kA == kB)) rfl ?_
        simp only [Act.put, List.setIfInBounds_toArray, List.set_cons_zero, List.set_cons_succ]
        refine wq_move rfl (.tmp 12) rfl (.bool kA) rfl ?_
        simp only [Act.put, List.setIfInBounds_toArray, List.set_cons_zero, List.set_cons_succ]
        refine wq_move rfl (.tmp 14) rfl (.bool kB) rfl ?_
        simp only [Act.put, List.setIfInBounds_toArray, List.set_cons_zero, List.set_cons_succ]
        refine wq_eqb (P := Try.prog) rfl (.tmp 92) (.tmp 93) rfl kA kB ((kA == kB)) rfl rfl rfl ?_
        simp only [Act.put, List.setIfInBounds_toArray, List.set_cons_zero, List.set_cons_succ]
        refine wq_eqb (P := Try.prog) rfl (.tmp 91) (.tmp 94) rfl ((kA == kB)) ((kA == kB)) true rfl rfl (beq_self_eq_true _) ?_
        simp only [Act.put, List.setIfInBounds_toArray, List.set_cons_zero, List.set_cons_succ]
        refine wq_pick rfl (.tmp 90) (.tmp 95) (.const (.bool false)) rfl true rfl (.bool true) rfl ?_
        simp only [Act.put, List.setIfInBounds_toArray, List.set_cons_zero, List.set_cons_succ]
        refine wq_assign rfl (.tmp 96) rfl (.bool true) rfl ?_
        simp only [Act.put, List.setIfInBounds_toArray, List.set_cons_zero, List.set_cons_succ]
        refine wq_nil ?_
        intro W hb
        have HBW : Hid (Below w.heap.size w W) := HB_129.out.trans (hb.mono HB_129.out.size)
        clear hb HB_129 RA_129 RB_129 S5_129 S6_129 S8_129 S9_129 S11_129 S13_129 S15_129
        go_wp2
        go_ret
        exact ⟨rfl, HBW.out⟩
    · go_wp2_with (first | ((with_reducible show wpList _ _ _ (⟨_, .build 23 _, _, _, _, _⟩ :: _) _ _); go_must (refine wpList_exec rfl (vN 0) (exec_build0 rfl) ?_)) | ((with_reducible show wpList _ _ _ (⟨_, .binOp .eql 23 (.tmp 25) (.tmp 26) 23, _, _, _, _⟩ :: _) _ _); go_must (refine wpList_exec rfl (.bool true) (exec_eq23 (.tmp 25) (.tmp 26) rfl rfl rfl (HZB.out _)) ?_)) | fail)
      go_ret
      exact ⟨rfl, HB_13.out⟩
  · go_wp2_with (first | ((with_reducible show wpList _ _ _ (⟨_, .build 23 _, _, _, _, _⟩ :: _) _ _); go_must (refine wpList_exec rfl (vN 0) (exec_build0 rfl) ?_)) | ((with_reducible show wpList _ _ _ (⟨_, .binOp .eql 23 (.tmp 20) (.tmp 21) 23, _, _, _, _⟩ :: _) _ _); go_must (refine wpList_exec rfl (.bool true) (exec_eq23 (.tmp 20) (.tmp 21) rfl rfl rfl (HZA.out _)) ?_)) | fail)
    go_ret
    exact ⟨rfl, HB_12.out⟩

theorem gives_eq {f : FuncId} {args : Array Value} {x y : Value} {w : World} (e : x = y) (h : Calls Try.prog f args w (Gives x w)) : Calls Try.prog f args w (Gives y w) := e ▸ h
theorem zT : 0 < TT := by unfold TT; omega
theorem bnot (x : Nat) (b : Bool) (h : (x ≠ 0) → b = false) (hz : decide (x = 0) = false) : b = false := h (by simpa using hz)

theorem walkN (A B : Nat) (hA : A < TT) (hB : B < TT) (w : World) : Calls Try.prog 7 #[vN A, vN B] w (Gives (.bool true) w) := by
  obtain ⟨k, hk⟩ := k_ex
  have hsT : A * A % PP < TT := modT _
  have hRs := Root_any k hk (A * A % PP) hsT
  have hRt := Root_any k hk (2 * (A * A % PP) % PP) (modT _)
  have hRA := Root_any k hk A hA
  have hRB := Root_any k hk B hB
  have hRp := Root_any k hk (A * B % PP) (modT _)
  have nA : decide (A % PP = 0) = false → ¬ PP ∣ A := fun h hd => by
    rw [decide_eq_false_iff_not] at h
    exact h (Nat.mod_eq_zero_of_dvd hd)
  have nB : decide (B % PP = 0) = false → ¬ PP ∣ B := fun h hd => by
    rw [decide_eq_false_iff_not] at h
    exact h (Nat.mod_eq_zero_of_dvd hd)
  have e1 : decide (A % PP = 0) = false → rt PP k (A * A % PP) = (evn PP (A % PP), true) := fun h => rt_square prP hk (htwo k hk) A (nA h)
  have e2 : decide (A % PP = 0) = false → rt PP k (2 * (A * A % PP) % PP) = (0, false) := fun h => rt_double prP hk (htwo k hk) A (nA h)
  have e3 : decide (A % PP = 0) = false → decide (B % PP = 0) = false → (rt PP k (A * B % PP)).2 = ((rt PP k A).2 == (rt PP k B).2) := fun h h' => rt_mul prP hk A B (nA h) (nB h')
  have c3 : ∀ w, Calls Try.prog 9 #[vN (A * A % PP)] w (Gives (.tuple #[vN (rt PP k (A * A % PP)).1, .bool (rt PP k (A * A % PP)).2]) w) := hRs
  have hE : decide (A % PP = 0) = false → (if decide (A % PP % 2 = 1) = true then (PP - A % PP) % PP else A % PP) = evn PP (A % PP) := fun _ => by
    unfold evn
    by_cases h : A % PP % 2 = 1
    · simp [h]
    · simp [h]
  have hOn : decide (A % PP = 0) = false → ∀ w, Calls Try.prog 17 #[vN ((PP - A % PP) % PP)] w (Gives (.bool (!decide (A % PP % 2 = 1))) w) := fun h w => by
    refine gives_eq ?_ (Odd_any ((PP - A % PP) % PP) (modT _) w)
    rw [decide_eq_false_iff_not] at h
    have h1 := modP A
    rw [Nat.mod_mod, Nat.mod_eq_of_lt (show PP - A % PP < PP by omega)]
    congr 1
    rw [Bool.eq_iff_iff]
    simp only [decide_eq_true_eq, Bool.not_eq_true', decide_eq_false_iff_not]
    omega
  generalize hk1 : rt PP k (A * A % PP) = r1 at *
  generalize hk2 : rt PP k (2 * (A * A % PP) % PP) = r2 at *
  generalize hk3 : rt PP k (A * B % PP) = r3 at *
  generalize rt PP k A = ra at *
  generalize rt PP k B = rb at *
  clear hk1 hk2 hk3
  refine roots_core A B (A % PP) (B % PP) (A * A % PP) (evn PP (A % PP)) ((PP - A % PP) % PP) (2 * (A * A % PP) % PP) ra.1 rb.1 r3.1 (A * B % PP) (decide (A % PP = 0)) (decide (B % PP = 0)) (decide (A % PP % 2 = 1)) ra.2 rb.2 w
    (Lib.hid lives_any) (Lib.hid fun w => Rest_any A hA w) (Lib.hid fun w => Rest_any B hB w) (Lib.hid fun _ _ w => Mul_any A A hA hA w) (Lib.hid fun h _ w => ?_) (Lib.hid fun _ _ w => Odd_any A hA w) (Lib.hid fun _ _ w => Neg_any A hA w) (Lib.hid fun _ _ w => Of_any 2 (by omega) w)
    (Lib.hid fun _ _ w => Mul_any 2 _ (by unfold TT; omega) hsT w) (Lib.hid fun h _ w => ?_) (Lib.hid fun _ _ w => hRA w) (Lib.hid fun _ _ w => hRB w) (Lib.hid fun _ _ w => Mul_any A B hA hB w) (Lib.hid fun h h' w => ?_) (Lib.hid fun h _ w => hOn h w)
    (Lib.hid fun w => eqN _ _ (modT A) zT w) (Lib.hid fun w => eqN _ _ (modT B) zT w) (Lib.hid fun h _ => hE h)
  · exact gives_eq (by rw [e1 h]) (hRs w)
  · exact gives_eq (by rw [e2 h]) (hRt w)
  · exact gives_eq (by rw [e3 h h']) (hRp w)

theorem walk (z0 z1 : List UInt8) (w : World) (w0 : z0.length = 32) (w1 : z1.length = 32) :
    Calls Try.prog 7 #[.agg (bcs z0).toArray, .agg (bcs z1).toArray] w fun e w' => e = .returned (.bool true) ∧ Below w.heap.size w w' := by
  obtain ⟨A, hA, eA⟩ := bytes_num z0 w0
  obtain ⟨B, hB, eB⟩ := bytes_num z1 w1
  rw [eA, eB]
  exact walkN A B hA hB w

set_option maxRecDepth 100000 in
theorem lifted (os : Os) (started : os.Started) (H : Type) (enc : TypeId × Value → H) :
    ReturnsInHanded {} Try.checked os 7 .any (Rows.fieldRootsSpec.pre6 enc Try.prog Try.f7 Rows.fieldRootsRow.domain false) (Rows.fieldRootsSpec.post enc Try.prog Try.f7 false true false false) := by
  refine returnsInHanded_of_change (C := Try.checked) own started (by kernel_rfl) Try.func7
    (ChangeSpec.witness6 (enc := enc) (C := Try.checked) false ⟨#[], #[.agg (Array.replicate 32 (.int .u8 0)), .agg (Array.replicate 32 (.int .u8 0))], []⟩ 8 (by kernel_rfl) (by kernel_rfl) (by kernel_rfl) (by kernel_rfl)) ?_
  intro W base args ds gs before hval0 hW hcnd _
  have hval : ∀ (j : Nat) t v, Try.f7.params[j]? = some t → args[j]? = some v → Value.okWide Try.prog W .any base t v := hval0
  have hW' := hW
  obtain ⟨p, q, hA0, hV, rfl, hfz, hnd⟩ := hW
  have hA : DataW.TrodAll enc Try.prog W 0 (fun _ => true) true Try.f7.params.toList args.toList ds p := hA0
  rw [Try.params7] at hA hval
  obtain ⟨v0, vs0, d0, ds0, p0, q0, hargs, rfl, rfl, h0, r0⟩ := trodAll_cons hA
  obtain ⟨v1, vs1, d1, ds1, p1, q1, rfl, rfl, rfl, h1, r1⟩ := trodAll_cons r0
  obtain ⟨rfl, rfl, rfl⟩ := trodAll_nil r1
  obtain rfl : args = #[v0, v1] := by cases args; simp_all
  obtain ⟨rfl, rfl⟩ := trodVars_none hV
  have k0 := h0
  have lt0 : ∀ x ∈ p0, x.block < W.heap.size := by obtain ⟨m, hm⟩ := k0; exact DataW.trod_lt m _ _ _ hm
  obtain ⟨z0, w0, rfl⟩ := open_arr Try.underlying23 Try.underlying5 (by kernel_rfl) (by kernel_rfl) (hval 0 23 v0 rfl rfl) h0
  have k1 := h1
  have lt1 : ∀ x ∈ p1, x.block < W.heap.size := by obtain ⟨m, hm⟩ := k1; exact DataW.trod_lt m _ _ _ hm
  obtain ⟨z1, w1, rfl⟩ := open_arr Try.underlying23 Try.underlying5 (by kernel_rfl) (by kernel_rfl) (hval 1 23 v1 rfl rfl) h1
  clear hA0 hval0
  refine (walk z0 z1 W w0 w1).mono fun e W' ⟨he, bel⟩ => ?_
  subst he
  exact ⟨_, rfl, _, _, _, [], _, [], hW', trodAll_mk1 (shut_bool Try.underlying4 _), (trodAll_cons_mk (Below.trod laidOut (by kernel_rfl) (of_decide_eq_true (by kernel_rfl)) k0 bel lt0) (trodAll_cons_mk (Below.trod laidOut (by kernel_rfl) (of_decide_eq_true (by kernel_rfl)) k1 bel lt1) trodAll_mk0)), rfl, bel.frame _, fun h => by cases h⟩

theorem over : Rows.fieldRootsRow.holds Try.pinned (OpenSpec.ofChange Rows.fieldRootsSpec) :=
  OpenClaim.holds_of_wide 7 Try.f7 rfl rfl rfl rfl rfl rfl rfl ⟨rfl, rfl, rfl, rfl, rfl⟩ rfl rfl rfl rfl rfl (by kernel_rfl) Try.func7 (by kernel_rfl)
    (of_decide_eq_true (by kernel_rfl)) (by unfold Func.isWrapper; first | (rw [if_pos (by decide +kernel)]; kernel_rfl) | (rw [if_neg (by decide +kernel)]; exact ⟨rfl, rfl⟩))
    (fun os started H enc _ => lifted os started H enc)

/-- The statement. -/
theorem proved : Rows.FieldRootsSaid := over
#print axioms proved
end Go.Proofs.Ytlkjengcmlfknaa.fieldRoots
