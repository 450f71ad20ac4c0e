/- It is proved that CurveNames returns true: the examples of the chapter have the results that it states. Conditions: none. -/
import Derived.Test.YtgdimnbdnepbgaaRows
import Derived.Test.YtgdimnbdnepbgaaN8
import Derived.ProofKit
import Derived.OpenShut
import Derived.ChangeOld
namespace Go.Proofs.Ytgdimnbdnepbgaa.curveNames
open Go.ChangeShapes Go.WideShapes Go.ChangeAt Go.RowKit
set_option linter.unusedVariables false
set_option linter.unusedSimpArgs false

theorem own : ownKnob Try.prog.godebug = none := by kernel_rfl
theorem laidOut : laidOutB Try.prog = true := by kernel_rfl

def nineN : Nat := 57443731770074831323412168344153766786583156455220123566449660816425654157549

set_option maxHeartbeats 8000000 in
set_option maxRecDepth 100000 in
theorem names_core (bx by1 ell dd pp n0 : Nat) (w : World)
    (C0 : Hid (∀ w, Calls Try.prog 38 #[] w (Gives (.bool true) w)))
    (C1 : Hid (∀ w, Calls Try.prog 39 #[] w (Gives (vR [0, 1]) w)))
    (C2 : Hid (∀ w, Calls Try.prog 40 #[vR [0, 0]] w (Gives (.int .i64 2) w)))
    (C3 : Hid (∀ w, Calls Try.prog 42 #[] w (Gives (vR [bx, by1]) w)))
    (C4 : Hid (∀ w, Calls Try.prog 41 #[vN ell, vR [bx, by1]] w (Gives (vR [0, 1]) w)))
    (C5 : Hid (∀ w, Calls Try.prog 43 #[vR [0, 1]] w (Gives (.bool true) w)))
    (C6 : Hid (∀ w, Calls Try.prog 43 #[vR [bx, by1]] w (Gives (.bool false) w)))
    (C7 : Hid (∀ w, Calls Try.prog 43 #[vR [0, 0]] w (Gives (.bool false) w)))
    (C8 : Hid (∀ w, Calls Try.prog 44 #[vR [0, 0], vR [bx, by1]] w (Gives (vR [0, 1]) w)))
    (C9 : Hid (∀ w, Calls Try.prog 45 #[] w (Gives (vN dd) w)))
    (C10 : Hid (∀ w, Calls Try.prog 46 #[] w (Gives (vN dd) w)))
    (C11 : Hid (∀ w, Calls Try.prog 35 #[vN 1] w (Gives (.tuple #[vR [0, 1], .int .i64 0]) w)))
    (C12 : Hid (∀ w, Calls Try.prog 35 #[vN pp] w (Gives (.tuple #[vR [0, 0], .int .i64 4]) w)))
    (C13 : Hid (∀ w, Calls Try.prog 36 #[vR [0, 0]] w (Gives (.tuple #[vN 0, .int .i64 2]) w)))
    (C14 : Hid (∀ w, Calls Try.prog 37 #[] w (Gives (vN ell) w)))
    (HNN : Hid (vN nineN = vN n0)) (HN0 : Hid ((enc n0).getD 0 0 = 237)) (HN31 : Hid ((enc n0).getD 31 0 = 127)) (HEND : Hid (∀ l : List UInt8, l.length = 32 → l.getD 0 0 = 237 → l.getD 31 0 = 127 → (∀ j, 1 ≤ j → j < 31 → l.getD j 0 = 255) → l = enc pp)) :
    Calls Try.prog 4 #[] w (Gives (.bool true) w) := by
  have HF_0 : Hid (Below w.heap.size w w) := Lib.hid (Below.refl _ _)
  go_enter Try.func4, Try.ntmps4
  go_wp2_with (first | ((with_reducible show wpList _ _ _ (⟨some 11, .build 22 _, _, _, _, _⟩ :: _) _ _); go_must (refine wpList_exec rfl (vN 1) (exec_buildc rfl (by kernel_rfl)) ?_)) | fail)
  refine (C11.out _).mono ?_
  rintro e10 x10 ⟨rfl, hb10⟩
  have HF_10 := fTq HF_0 hb10
  clear hb10 HF_0
  go_wp2_with (first | ((with_reducible show wpList _ _ _ (⟨some 1, .alloc 35, _, _, _, _⟩ :: _) _ _); go_must (refine wpList_alloc_row rfl 35 rfl (.agg (zbs 64)) zero35 ?_; intro u11 ha11 hza11 hga11; have HA11 := Lib.hid ha11; have HZA11 := Lib.hid hza11; have HGA11 := Lib.hid hga11; clear ha11 hza11 hga11)) | ((with_reducible show wpList _ _ _ (⟨none, .store 35 (.tmp 1) (.tmp 13), _, _, _, _⟩ :: _) _ _); go_must (refine wpList_storeP rfl (.tmp 1) (.tmp 13) rfl (x10.heap.size) [0, 0] 0 1 rfl rfl (zrow (k := 2) HA11.out) rfl ?_; intro y11 hr11 hg11 hz11; have Ng1_11 : Hid (RAt y11 x10.heap.size [0, 1]) := Lib.hid hr11; have HF_11 : Hid (Below w.heap.size w y11) := Lib.hid ((HF_10.out.grown HGA11.out HF_10.out.size (by simp)).grown hg11 (by have := HF_10.out.size; have := HZA11.out; omega) (fun r hr => by injection hr with hr; have := HF_10.out.size; omega)); have HGE11 : Hid (w.heap.size ≤ x10.heap.size) := Lib.hid HF_10.out.size; clear hr11 hg11 hz11 HA11 HZA11 HGA11 HF_10)) | ((with_reducible show wpList _ _ _ (⟨some 3, .alloc 22, _, _, _, _⟩ :: _) _ _); go_must (refine wpList_alloc_row rfl 22 rfl (.agg (zbs 32)) zero22 ?_; intro u12 ha12 hza12 hga12; have HA12 := Lib.hid ha12; have HZA12 := Lib.hid hza12; have HGA12 := Lib.hid hga12; clear ha12 hza12 hga12)) | ((with_reducible show wpList _ _ _ (⟨none, .store 22 (.tmp 3) (.tmp 15), _, _, _, _⟩ :: _) _ _); go_must (refine wpList_store22 rfl (.tmp 3) (.tmp 15) rfl (y11.heap.size) 0 0 rfl [0] n0 rfl rfl (zrow (k := 1) HA12.out) (show 0 < 1 by omega) ?_; intro y12 hr12 hg12 hz12; have Ng1_12 := Lib.hid ((Ng1_11.out.grown HGA12.out (by simp)).grown hg12 (by have := Ng1_11.out.lt; simp; omega)); have Ng3_12 : Hid (RAt y12 y11.heap.size [n0]) := Lib.hid hr12; have HF_12 : Hid (Below w.heap.size w y12) := Lib.hid ((HF_11.out.grown HGA12.out HF_11.out.size (by simp)).grown hg12 (by have := HF_11.out.size; have := HZA12.out; omega) (fun r hr => by injection hr with hr; have := HF_11.out.size; omega)); have HNE12_0 : Hid (x10.heap.size ≠ y11.heap.size) := Lib.hid (by have := Ng1_11.out.lt; omega); have HGE12 : Hid (w.heap.size ≤ y11.heap.size) := Lib.hid HF_11.out.size; clear hr12 hg12 hz12 HA12 HZA12 HGA12 Ng1_11 HF_11)) | ((with_reducible show wpList _ _ _ (⟨some 15, .build 22 _, _, _, _, _⟩ :: _) _ _); go_must (refine wpList_exec rfl (vN n0) (exec_buildc rfl (by rw [← HNN.out]; kernel_rfl)) ?_)) | fail)
  generalize x10.heap.size = g1 at *
  generalize y11.heap.size = g3 at *
  have HB3 : Hid (BAt _ g3 (enc n0)) := Lib.hid (by obtain ⟨t3, ht3⟩ := Ng3_12.out.num; exact ⟨enc_len _, t3, ht3⟩)
  go_loopw [4] (fun i wr => ∃ (n : Nat) (l : List UInt8), n ≤ 31 ∧ i = .int .i64 n ∧ 1 ≤ n ∧ l.length = 32 ∧ l.getD 0 0 = 237 ∧ l.getD 31 0 = 127 ∧ (∀ j, 1 ≤ j → j < n → l.getD j 0 = 255) ∧ BAt wr g3 l ∧ RAt wr g1 [0, 1] ∧ Below w.heap.size w wr) (fun i _ => 31 - (intOf i).toNat)
  case atStart => exact ⟨1, _, by omega, rfl, by omega, enc_len _, HN0.out, HN31.out, fun j a b => absurd b (by omega), HB3.out, Ng1_12.out, HF_12.out⟩
  case round =>
    obtain ⟨n, l, hn, rfl, hn1, hll, hl0, hl31, hall, hb, hr, hf⟩ := hrel
    have HLL := Lib.hid hll
    have HL0 := Lib.hid hl0
    have HL31 := Lib.hid hl31
    have HAll := Lib.hid hall
    have HBB := Lib.hid hb
    have HRR := Lib.hid hr
    have HFF := Lib.hid hf
    clear hll hl0 hl31 hall hb hr hf HB3 Ng1_12 Ng3_12 HF_12
    obtain ⟨t, ht⟩ := HBB.out.2
    have HT := Lib.hid ht
    clear ht
    by_cases hlt : n < 31
    · have hni : (n : Int) < 31 := by omega
      go_wp2_with (first | ((with_reducible show wpList _ _ _ (⟨none, .store 5 (.tmp 21) _, _, _, _, _⟩ :: _) _ _); go_must (refine wpList_store_one rfl 5 (.tmp 21) (.const (.int .u8 255)) rfl g3 n rfl .u8 _ rfl t _ HT.out size5 (by simp only [List.size_toArray, bcs_len]; have := HLL.out; omega) ?_; intro x5 hh hg hz; have HH := Lib.hid hh; have HG := Lib.hid hg; clear hh hg hz)) | fail)
      have hh := HH.out
      rw [show Value.int IntKind.u8 255 = bc 255 from rfl, bcs_put] at hh
      refine ⟨⟨n + 1, l.set n 255, by omega, by go_num, by omega, by rw [List.length_set]; exact HLL.out, by rw [getD_set_ne8 _ _ _ _ (by omega)]; exact HL0.out, by rw [getD_set_ne8 _ _ _ _ (by omega)]; exact HL31.out, fun j ha hb => ?_, ⟨by rw [List.length_set]; exact HLL.out, t, hh⟩, HRR.out.grown HG.out (by have := HNE12_0.out; simp; omega), HFF.out.grown HG.out HFF.out.size (fun r hr => by have := HGE12.out; injection hr with hr; omega)⟩, by simp [intOf]; omega⟩
      by_cases e : n = j
      · subst e
        exact getD_set_eq8 _ _ _ (by have := HLL.out; omega)
      · rw [getD_set_ne8 _ _ _ _ e]
        exact HAll.out j ha (by omega)
    · obtain rfl : n = 31 := by omega
      have HPP : Hid (RAt wr g3 [pp]) := Lib.hid (by
        have e : l = enc pp := HEND.out l HLL.out HL0.out HL31.out HAll.out
        rw [e] at HT
        exact NAt.row ⟨t, HT.out⟩)
      clear HT HBB HAll HL0 HL31
      go_wp2_with (first | ((with_reducible show wpList _ _ _ (⟨_, .load 22 (.tmp 3), _, _, _, _⟩ :: _) _ _); go_must (refine wpList_exec rfl (vN pp) (exec_load22 (.tmp 3) rfl (g3) 0 0 rfl [pp] pp rfl HPP.out rfl) ?_)) | fail)
      refine (C12.out _).mono ?_
      rintro e13 x13 ⟨rfl, hb13⟩
      have HRR_13 := hKq HRR hb13
      have HPP_13 := hKq HPP hb13
      have HF_13 := fTq HFF hb13
      clear hb13 HRR HPP HFF
      go_wp2_with (first | ((with_reducible show wpList _ _ _ (⟨some 5, .alloc 35, _, _, _, _⟩ :: _) _ _); go_must (refine wpList_alloc_row rfl 35 rfl (.agg (zbs 64)) zero35 ?_; intro u14 ha14 hza14 hga14; have HA14 := Lib.hid ha14; have HZA14 := Lib.hid hza14; have HGA14 := Lib.hid hga14; clear ha14 hza14 hga14)) | ((with_reducible show wpList _ _ _ (⟨none, .store 35 (.tmp 5) (.tmp 25), _, _, _, _⟩ :: _) _ _); go_must (refine wpList_storeP rfl (.tmp 5) (.tmp 25) rfl (x13.heap.size) [0, 0] 0 0 rfl rfl (zrow (k := 2) HA14.out) rfl ?_; intro y14 hr14 hg14 hz14; have HRR_14 := Lib.hid ((HRR_13.out.grown HGA14.out (by simp)).grown hg14 (by have := HRR_13.out.lt; simp; omega)); have HPP_14 := Lib.hid ((HPP_13.out.grown HGA14.out (by simp)).grown hg14 (by have := HPP_13.out.lt; simp; omega)); have Ng5_14 : Hid (RAt y14 x13.heap.size [0, 0]) := Lib.hid hr14; have HF_14 : Hid (Below w.heap.size w y14) := Lib.hid ((HF_13.out.grown HGA14.out HF_13.out.size (by simp)).grown hg14 (by have := HF_13.out.size; have := HZA14.out; omega) (fun r hr => by injection hr with hr; have := HF_13.out.size; omega)); have HNE14_1 : Hid (g1 ≠ x13.heap.size) := Lib.hid (by have := HRR_13.out.lt; omega); have HNE14_2 : Hid (g3 ≠ x13.heap.size) := Lib.hid (by have := HPP_13.out.lt; omega); have HGE14 : Hid (w.heap.size ≤ x13.heap.size) := Lib.hid HF_13.out.size; clear hr14 hg14 hz14 HA14 HZA14 HGA14 HRR_13 HPP_13 HF_13)) | ((with_reducible show wpList _ _ _ (⟨some 28, .build 35 #[], _, _, _, _⟩ :: _) _ _); go_must (refine wpList_exec rfl (vR [0, 0]) (exec_buildc rfl (by kernel_rfl)) ?_)) | fail)
      generalize x13.heap.size = g5 at *
      refine (C13.out _).mono ?_
      rintro e15 x15 ⟨rfl, hb15⟩
      have HRR_15 := hKq HRR_14 hb15
      have HPP_15 := hKq HPP_14 hb15
      have Ng5_15 := hKq Ng5_14 hb15
      have HF_15 := fTq HF_14 hb15
      clear hb15 HRR_14 HPP_14 Ng5_14 HF_14
      go_wp2_with (first | ((with_reducible show wpList _ _ _ (⟨some 7, .alloc 22, _, _, _, _⟩ :: _) _ _); go_must (refine wpList_alloc_row rfl 22 rfl (.agg (zbs 32)) zero22 ?_; intro u16 ha16 hza16 hga16; have HA16 := Lib.hid ha16; have HZA16 := Lib.hid hza16; have HGA16 := Lib.hid hga16; clear ha16 hza16 hga16)) | ((with_reducible show wpList _ _ _ (⟨none, .store 22 (.tmp 7) (.tmp 30), _, _, _, _⟩ :: _) _ _); go_must (refine wpList_store22 rfl (.tmp 7) (.tmp 30) rfl (x15.heap.size) 0 0 rfl [0] 0 rfl rfl (zrow (k := 1) HA16.out) (show 0 < 1 by omega) ?_; intro y16 hr16 hg16 hz16; have HRR_16 := Lib.hid ((HRR_15.out.grown HGA16.out (by simp)).grown hg16 (by have := HRR_15.out.lt; simp; omega)); have HPP_16 := Lib.hid ((HPP_15.out.grown HGA16.out (by simp)).grown hg16 (by have := HPP_15.out.lt; simp; omega)); have Ng5_16 := Lib.hid ((Ng5_15.out.grown HGA16.out (by simp)).grown hg16 (by have := Ng5_15.out.lt; simp; omega)); have Ng7_16 : Hid (RAt y16 x15.heap.size [0]) := Lib.hid hr16; have HF_16 : Hid (Below w.heap.size w y16) := Lib.hid ((HF_15.out.grown HGA16.out HF_15.out.size (by simp)).grown hg16 (by have := HF_15.out.size; have := HZA16.out; omega) (fun r hr => by injection hr with hr; have := HF_15.out.size; omega)); have HNE16_3 : Hid (g1 ≠ x15.heap.size) := Lib.hid (by have := HRR_15.out.lt; omega); have HNE16_4 : Hid (g3 ≠ x15.heap.size) := Lib.hid (by have := HPP_15.out.lt; omega); have HNE16_5 : Hid (g5 ≠ x15.heap.size) := Lib.hid (by have := Ng5_15.out.lt; omega); have HGE16 : Hid (w.heap.size ≤ x15.heap.size) := Lib.hid HF_15.out.size; clear hr16 hg16 hz16 HA16 HZA16 HGA16 HRR_15 HPP_15 Ng5_15 HF_15)) | fail)
      generalize x15.heap.size = g7 at *
      refine (C14.out _).mono ?_
      rintro e17 x17 ⟨rfl, hb17⟩
      have HRR_17 := hKq HRR_16 hb17
      have HPP_17 := hKq HPP_16 hb17
      have Ng5_17 := hKq Ng5_16 hb17
      have Ng7_17 := hKq Ng7_16 hb17
      have HF_17 := fTq HF_16 hb17
      clear hb17 HRR_16 HPP_16 Ng5_16 Ng7_16 HF_16
      go_wp2_with (first | ((with_reducible show wpList _ _ _ (⟨some 9, .alloc 23, _, _, _, _⟩ :: _) _ _); go_must (refine wpList_alloc_row rfl 23 rfl (.agg (zbs 32)) zero23 ?_; intro u18 ha18 hza18 hga18; have HA18 := Lib.hid ha18; have HZA18 := Lib.hid hza18; have HGA18 := Lib.hid hga18; clear ha18 hza18 hga18)) | ((with_reducible show wpList _ _ _ (⟨none, .store 23 (.tmp 9) (.tmp 32), _, _, _, _⟩ :: _) _ _); go_must (refine wpList_storeF rfl (.tmp 9) (.tmp 32) rfl (x17.heap.size) 0 0 rfl [0] ell rfl rfl (zrow (k := 1) HA18.out) (show 0 < 1 by omega) ?_; intro y18 hr18 hg18 hz18; have HRR_18 := Lib.hid ((HRR_17.out.grown HGA18.out (by simp)).grown hg18 (by have := HRR_17.out.lt; simp; omega)); have HPP_18 := Lib.hid ((HPP_17.out.grown HGA18.out (by simp)).grown hg18 (by have := HPP_17.out.lt; simp; omega)); have Ng5_18 := Lib.hid ((Ng5_17.out.grown HGA18.out (by simp)).grown hg18 (by have := Ng5_17.out.lt; simp; omega)); have Ng7_18 := Lib.hid ((Ng7_17.out.grown HGA18.out (by simp)).grown hg18 (by have := Ng7_17.out.lt; simp; omega)); have Ng9_18 : Hid (RAt y18 x17.heap.size [ell]) := Lib.hid hr18; have HF_18 : Hid (Below w.heap.size w y18) := Lib.hid ((HF_17.out.grown HGA18.out HF_17.out.size (by simp)).grown hg18 (by have := HF_17.out.size; have := HZA18.out; omega) (fun r hr => by injection hr with hr; have := HF_17.out.size; omega)); have HNE18_6 : Hid (g1 ≠ x17.heap.size) := Lib.hid (by have := HRR_17.out.lt; omega); have HNE18_7 : Hid (g3 ≠ x17.heap.size) := Lib.hid (by have := HPP_17.out.lt; omega); have HNE18_8 : Hid (g5 ≠ x17.heap.size) := Lib.hid (by have := Ng5_17.out.lt; omega); have HNE18_9 : Hid (g7 ≠ x17.heap.size) := Lib.hid (by have := Ng7_17.out.lt; omega); have HGE18 : Hid (w.heap.size ≤ x17.heap.size) := Lib.hid HF_17.out.size; clear hr18 hg18 hz18 HA18 HZA18 HGA18 HRR_17 HPP_17 Ng5_17 Ng7_17 HF_17)) | fail)
      generalize x17.heap.size = g9 at *
      refine region_wq2 (by kernel_rfl) (by kernel_rfl) (by kernel_rfl) ?_
      refine wq_call rfl 38 [] #[] rfl [] rfl (CG38 _) (.bool true) C0.out ?_
      simp only [Act.put, zA, zB, zC]
      refine wq_move rfl (.tmp 33) rfl (.bool true) rfl ?_
      simp only [Act.put, zA, zB, zC]
      refine wq_move rfl (.tmp 2) rfl (.int .i64 0) rfl ?_
      simp only [Act.put, zA, zB, zC]
      refine wq_bin (P := Try.prog) rfl .eql 36 36 (.tmp 35) (.const (.int .i64 0)) rfl (.int .i64 0) (.int .i64 0) (.bool true) rfl rfl (fun _ => rfl) (run_eq36 0 0 true rfl) ?_
      simp only [Act.put, zA, zB, zC]
      refine wq_pick rfl (.tmp 34) (.tmp 36) (.const (.bool false)) rfl true rfl (.bool true) rfl ?_
      simp only [Act.put, zA, zB, zC]
      refine wq_move rfl (.tmp 37) rfl (.bool true) rfl ?_
      simp only [Act.put, zA, zB, zC]
      refine wq_loadP rfl (.tmp 1) rfl (g1) 0 1 rfl HRR_18.out ?_
      simp only [Act.put, zA, zB, zC]
      refine wq_call rfl 39 [] #[] rfl [] rfl (CG39 _) (vR [0, 1]) C1.out ?_
      simp only [Act.put, zA, zB, zC]
      refine wq_eqP rfl (.tmp 39) (.tmp 40) rfl 0 1 0 1 rfl rfl true (eqP_same _ _) ?_
      simp only [Act.put, zA, zB, zC]
      refine wq_pick rfl (.tmp 38) (.tmp 41) (.const (.bool false)) rfl true rfl (.bool true) rfl ?_
      simp only [Act.put, zA, zB, zC]
      refine wq_move rfl (.tmp 42) rfl (.bool true) rfl ?_
      simp only [Act.put, zA, zB, zC]
      refine wq_move rfl (.tmp 6) rfl (.int .i64 4) rfl ?_
      simp only [Act.put, zA, zB, zC]
      refine wq_bin (P := Try.prog) rfl .eql 36 36 (.tmp 44) (.const (.int .i64 4)) rfl (.int .i64 4) (.int .i64 4) (.bool true) rfl rfl (fun _ => rfl) (run_eq36 4 4 true rfl) ?_
      simp only [Act.put, zA, zB, zC]
      refine wq_pick rfl (.tmp 43) (.tmp 45) (.const (.bool false)) rfl true rfl (.bool true) rfl ?_
      simp only [Act.put, zA, zB, zC]
      refine wq_move rfl (.tmp 46) rfl (.bool true) rfl ?_
      simp only [Act.put, zA, zB, zC]
      refine wq_move rfl (.tmp 8) rfl (.int .i64 2) rfl ?_
      simp only [Act.put, zA, zB, zC]
      refine wq_bin (P := Try.prog) rfl .eql 36 36 (.tmp 48) (.const (.int .i64 2)) rfl (.int .i64 2) (.int .i64 2) (.bool true) rfl rfl (fun _ => rfl) (run_eq36 2 2 true rfl) ?_
      simp only [Act.put, zA, zB, zC]
      refine wq_pick rfl (.tmp 47) (.tmp 49) (.const (.bool false)) rfl true rfl (.bool true) rfl ?_
      simp only [Act.put, zA, zB, zC]
      refine wq_move rfl (.tmp 50) rfl (.bool true) rfl ?_
      simp only [Act.put, zA, zB, zC]
      refine wq_buildc rfl 35 _ (vR [0, 0]) rfl (fun w => by kernel_rfl) ?_
      simp only [Act.put, zA, zB, zC]
      refine wq_call rfl 40 [.tmp 52] #[35] rfl [vR [0, 0]] rfl (CG40 _) (.int .i64 2) C2.out ?_
      simp only [Act.put, zA, zB, zC]
      refine wq_bin (P := Try.prog) rfl .eql 36 36 (.tmp 53) (.const (.int .i64 2)) rfl (.int .i64 2) (.int .i64 2) (.bool true) rfl rfl (fun _ => rfl) (run_eq36 2 2 true rfl) ?_
      simp only [Act.put, zA, zB, zC]
      refine wq_pick rfl (.tmp 51) (.tmp 54) (.const (.bool false)) rfl true rfl (.bool true) rfl ?_
      simp only [Act.put, zA, zB, zC]
      refine wq_move rfl (.tmp 55) rfl (.bool true) rfl ?_
      simp only [Act.put, zA, zB, zC]
      refine wq_loadF rfl (.tmp 9) rfl (g9) 0 0 rfl [ell] ell rfl Ng9_18.out rfl ?_
      simp only [Act.put, zA, zB, zC]
      as_aux_lemma =>
        refine wq_call rfl 42 [] #[] rfl [] rfl (CG42 _) (vR [bx, by1]) C3.out ?_
        simp only [Act.put, zA, zB, zC]
        refine wq_call rfl 41 [.tmp 57, .tmp 58] #[23, 35] rfl [vN ell, vR [bx, by1]] rfl (CG41 _) (vR [0, 1]) C4.out ?_
        simp only [Act.put, zA, zB, zC]
        refine wq_call rfl 39 [] #[] rfl [] rfl (CG39 _) (vR [0, 1]) C1.out ?_
        simp only [Act.put, zA, zB, zC]
        refine wq_eqP rfl (.tmp 59) (.tmp 60) rfl 0 1 0 1 rfl rfl true (eqP_same _ _) ?_
        simp only [Act.put, zA, zB, zC]
        refine wq_pick rfl (.tmp 56) (.tmp 61) (.const (.bool false)) rfl true rfl (.bool true) rfl ?_
        simp only [Act.put, zA, zB, zC]
        refine wq_move rfl (.tmp 62) rfl (.bool true) rfl ?_
        simp only [Act.put, zA, zB, zC]
        refine wq_call rfl 39 [] #[] rfl [] rfl (CG39 _) (vR [0, 1]) C1.out ?_
        simp only [Act.put, zA, zB, zC]
        refine wq_call rfl 43 [.tmp 64] #[35] rfl [vR [0, 1]] rfl (CG43 _) (.bool true) C5.out ?_
        simp only [Act.put, zA, zB, zC]
        refine wq_pick rfl (.tmp 63) (.tmp 65) (.const (.bool false)) rfl true rfl (.bool true) rfl ?_
        simp only [Act.put, zA, zB, zC]
        refine wq_move rfl (.tmp 66) rfl (.bool true) rfl ?_
        simp only [Act.put, zA, zB, zC]
        refine wq_call rfl 42 [] #[] rfl [] rfl (CG42 _) (vR [bx, by1]) C3.out ?_
        simp only [Act.put, zA, zB, zC]
        refine wq_call rfl 43 [.tmp 68] #[35] rfl [vR [bx, by1]] rfl (CG43 _) (.bool false) C6.out ?_
        simp only [Act.put, zA, zB, zC]
        refine wq_not rfl 4 (.tmp 69) rfl false rfl ?_
        rw [show (!false) = true from rfl]
        simp only [Act.put, zA, zB, zC]
        refine wq_pick rfl (.tmp 67) (.tmp 70) (.const (.bool false)) rfl true rfl (.bool true) rfl ?_
        simp only [Act.put, zA, zB, zC]
        refine wq_move rfl (.tmp 71) rfl (.bool true) rfl ?_
        simp only [Act.put, zA, zB, zC]
        refine wq_buildc rfl 35 _ (vR [0, 0]) rfl (fun w => by kernel_rfl) ?_
        simp only [Act.put, zA, zB, zC]
        refine wq_call rfl 43 [.tmp 73] #[35] rfl [vR [0, 0]] rfl (CG43 _) (.bool false) C7.out ?_
        simp only [Act.put, zA, zB, zC]
        refine wq_not rfl 4 (.tmp 74) rfl false rfl ?_
        rw [show (!false) = true from rfl]
        simp only [Act.put, zA, zB, zC]
        refine wq_pick rfl (.tmp 72) (.tmp 75) (.const (.bool false)) rfl true rfl (.bool true) rfl ?_
        simp only [Act.put, zA, zB, zC]
        refine wq_move rfl (.tmp 76) rfl (.bool true) rfl ?_
        simp only [Act.put, zA, zB, zC]
        refine wq_buildc rfl 35 _ (vR [0, 0]) rfl (fun w => by kernel_rfl) ?_
        simp only [Act.put, zA, zB, zC]
        refine wq_call rfl 42 [] #[] rfl [] rfl (CG42 _) (vR [bx, by1]) C3.out ?_
        simp only [Act.put, zA, zB, zC]
        refine wq_call rfl 44 [.tmp 78, .tmp 79] #[35, 35] rfl [vR [0, 0], vR [bx, by1]] rfl (CG44 _) (vR [0, 1]) C8.out ?_
        simp only [Act.put, zA, zB, zC]
        refine wq_call rfl 39 [] #[] rfl [] rfl (CG39 _) (vR [0, 1]) C1.out ?_
        simp only [Act.put, zA, zB, zC]
        refine wq_eqP rfl (.tmp 80) (.tmp 81) rfl 0 1 0 1 rfl rfl true (eqP_same _ _) ?_
        simp only [Act.put, zA, zB, zC]
        as_aux_lemma =>
          refine wq_pick rfl (.tmp 77) (.tmp 82) (.const (.bool false)) rfl true rfl (.bool true) rfl ?_
          simp only [Act.put, zA, zB, zC]
          refine wq_move rfl (.tmp 83) rfl (.bool true) rfl ?_
          simp only [Act.put, zA, zB, zC]
          refine wq_call rfl 45 [] #[] rfl [] rfl (CG45 _) (vN dd) C9.out ?_
          simp only [Act.put, zA, zB, zC]
          refine wq_call rfl 46 [] #[] rfl [] rfl (CG46 _) (vN dd) C10.out ?_
          simp only [Act.put, zA, zB, zC]
          refine wq_eq rfl (.tmp 85) (.tmp 86) rfl dd dd rfl rfl true (eqN_same _) ?_
          simp only [Act.put, zA, zB, zC]
          refine wq_pick rfl (.tmp 84) (.tmp 87) (.const (.bool false)) rfl true rfl (.bool true) rfl ?_
          simp only [Act.put, zA, zB, zC]
          refine wq_assign rfl (.tmp 88) rfl (.bool true) rfl ?_
          simp only [Act.put, zA, zB, zC]
          refine wq_nil ?_
          intro W hb
          have HBW : Hid (Below w.heap.size w W) := HF_18.out.trans (hb.mono HF_18.out.size)
          clear hb HF_18 HRR_18 HPP_18 Ng5_18 Ng7_18 Ng9_18
          go_wp2
          go_ret
          exact ⟨rfl, HBW.out⟩

theorem end_is (l : List UInt8) (hl : l.length = 32) (h0 : l.getD 0 0 = 237) (h31 : l.getD 31 0 = 127) (h : ∀ j, 1 ≤ j → j < 31 → l.getD j 0 = 255) : l = enc PP := by
  have e := tops 0 (by omega)
  rw [Nat.add_zero] at e
  rw [e]
  apply List.ext_getElem
  · rw [hl]; rfl
  · intro i h1 h2
    have hg : (l.getD i 0) = l[i] := by rw [List.getD_eq_getElem?_getD, List.getElem?_eq_getElem h1]; rfl
    rw [← hg]
    by_cases e0 : i = 0
    · subst e0
      rw [h0, List.getElem_cons_zero]
      rfl
    · by_cases e31 : i = 31
      · subst e31
        rw [h31]
        rfl
      · rw [h i (by omega) (by omega)]
        obtain ⟨j, rfl⟩ : ∃ j, i = j + 1 := ⟨i - 1, by omega⟩
        rw [List.getElem_cons_succ, List.getElem_append_left (by rw [List.length_replicate]; omega), List.getElem_replicate]
theorem chk00 : chk 0 0 = 2 := by decide +kernel
theorem walk (w : World) : Calls Try.prog 4 #[] w fun e w' => e = .returned (.bool true) ∧ Below w.heap.size w w' := by
  obtain ⟨k, hk⟩ := k_ex
  have zT : 0 < TT := by unfold TT; omega
  have hc : ∀ w, Calls Try.prog 40 #[vR [0, 0]] w (Gives (.int .i64 2) w) := fun w => by
    have h := Check_any 0 0 zT zT w
    rw [chk00] at h
    exact h
  have hm : ∀ w, Calls Try.prog 41 #[vN lN, vR [bxN, byN]] w (Gives (vR [0, 1]) w) := fun w => by
    have h := pMul lN (by unfold lN TT; omega) bP w
    rw [sm_L, vZ] at h
    exact h
  have hs0 : ∀ w, Calls Try.prog 43 #[vR [0, 1]] w (Gives (.bool true) w) := fun w => by
    have h := pSmall EC.zero w
    rw [EC.sm_zero, decide_eq_true rfl, vZ] at h
    exact h
  have hs1 : ∀ w, Calls Try.prog 43 #[vR [bxN, byN]] w (Gives (.bool false) w) := fun w => by
    have h := pSmall bP w
    rw [decide_eq_false sm_8] at h
    exact h
  have hr1 : ∀ w, Calls Try.prog 35 #[vN 1] w (Gives (.tuple #[vR [0, 1], .int .i64 0]) w) := fun w => by
    have h := pRead EC.zero w
    rw [vZ, show bts EC.zero.1.1 EC.zero.1.2 = 1 from v1] at h
    exact h
  have hr2 : ∀ w, Calls Try.prog 35 #[vN PP] w (Gives (.tuple #[vR [0, 0], .int .i64 4]) w) := fun w => by
    have h := read_low k hk PP PH false w 0 0 4
    refine h ?_
    rw [decide_eq_false (by rw [Nat.mod_self]; unfold PP; omega)]
    simp
  exact names_core bxN byN lN dN PP nineN w (Lib.hid clives_any) (Lib.hid Zero_any) (Lib.hid hc) (Lib.hid Base_any) (Lib.hid hm) (Lib.hid hs0) (Lib.hid hs1) (Lib.hid (fun w => Small_bad 0 0 w (Lib.hid hc))) (Lib.hid (fun w => PAdd_bad1 0 0 bxN byN w (Lib.hid hc) (Lib.hid Zero_any))) (Lib.hid D_any) (Lib.hid rD_any) (Lib.hid hr1) (Lib.hid hr2) (Lib.hid (fun w => Bytes_bad 0 0 w (Lib.hid hc))) (Lib.hid rL_any) (Lib.hid rfl) (Lib.hid (by decide +kernel)) (Lib.hid (by decide +kernel)) (Lib.hid end_is)

set_option maxRecDepth 100000 in
theorem lifted (os : Os) (started : os.Started) (H : Type) (enc : TypeId × Value → H) :
    ReturnsInHanded {} Try.checked os 4 .any (Rows.curveNamesSpec.pre6 enc Try.prog Try.f4 Rows.curveNamesRow.domain false) (Rows.curveNamesSpec.post enc Try.prog Try.f4 false true false false) := by
  refine returnsInHanded_of_change (C := Try.checked) own started (by kernel_rfl) Try.func4
    (ChangeSpec.witness6 (enc := enc) (C := Try.checked) false ⟨#[], #[], []⟩ 8 (by kernel_rfl) (by kernel_rfl) (by kernel_rfl) (by kernel_rfl)) ?_
  intro W base args ds gs before hval0 hW hcnd _
  have hval : ∀ (j : Nat) t v, Try.f4.params[j]? = some t → args[j]? = some v → Value.okWide Try.prog W .any base t v := hval0
  have hW' := hW
  obtain ⟨p, q, hA0, hV, rfl, hfz, hnd⟩ := hW
  have hA : DataW.TrodAll enc Try.prog W 0 (fun _ => true) true Try.f4.params.toList args.toList ds p := hA0
  rw [Try.params4] at hA hval
  obtain ⟨hargs, rfl, rfl⟩ := trodAll_nil hA
  obtain rfl : args = #[] := by cases args; simp_all
  obtain ⟨rfl, rfl⟩ := trodVars_none hV
  clear hA0 hval0
  refine (walk W).mono fun e W' ⟨he, bel⟩ => ?_
  subst he
  exact ⟨_, rfl, _, _, _, [], _, [], hW', trodAll_mk1 (shut_bool Try.underlying4 _), trodAll_mk0, rfl, bel.frame _, fun h => by cases h⟩

theorem over : Rows.curveNamesRow.holds Try.pinned (OpenSpec.ofChange Rows.curveNamesSpec) :=
  OpenClaim.holds_of_wide 4 Try.f4 rfl rfl rfl rfl rfl rfl rfl ⟨rfl, rfl, rfl, rfl, rfl⟩ rfl rfl rfl rfl rfl (by kernel_rfl) Try.func4 (by kernel_rfl)
    (of_decide_eq_true (by kernel_rfl)) (by unfold Func.isWrapper; first | (rw [if_pos (by decide +kernel)]; kernel_rfl) | (rw [if_neg (by decide +kernel)]; exact ⟨rfl, rfl⟩))
    (fun os started H enc _ => lifted os started H enc)

/-- The statement. -/
theorem proved : Rows.CurveNamesSaid := over
#print axioms proved
end Go.Proofs.Ytgdimnbdnepbgaa.curveNames
