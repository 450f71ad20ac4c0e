/- It is proved that CurveBack returns true for any point, valid or not, and any 32 bytes: a point is determined by its bytes, and no other bytes are those of a point. Conditions: none. -/
import Derived.Test.YtgdimnbdnepbgaaRows
import Derived.Test.YtgdimnbdnepbgaaE4
import Derived.ProofKit
import Derived.OpenShut
import Derived.ChangeOld
namespace Go.Proofs.Ytgdimnbdnepbgaa.curveBack
open Go.ChangeShapes Go.WideShapes Go.ChangeAt Go.RowKit
set_option linter.unusedVariables false
set_option linter.unusedSimpArgs false

theorem own : ownKnob Try.prog.godebug = none := by kernel_rfl
theorem laidOut : laidOutB Try.prog = true := by kernel_rfl

theorem eqN22_same (n : Nat) (w : World) : (Op.equalIn 10000 22 (vN n) (vN n)).run Try.prog w = .ok true w := by
  have h := eq22 (enc n) (enc n) (enc_len n) (enc_len n) w
  rw [decide_eq_true rfl] at h
  exact h

set_option maxHeartbeats 8000000 in
set_option maxRecDepth 100000 in
theorem back_ok_bad (px py n ax ay b b2 t u mx my : Nat) (w : World)
    (C0 : Hid (∀ w, Calls Try.prog 38 #[] w (Gives (.bool true) w)))
    (C1 : Hid (∀ w, Calls Try.prog 35 #[vN n] w (Gives (.tuple #[vR [ax, ay], .int .i64 0]) w)))
    (C2 : Hid (∀ w, Calls Try.prog 36 #[vR [ax, ay]] w (Gives (.tuple #[vN n, .int .i64 0]) w)))
    (C3 : Hid (∀ w, Calls Try.prog 40 #[vR [ax, ay]] w (Gives (.int .i64 0) w)))
    (C4 : Hid (∀ w, Calls Try.prog 16 #[vN ay] w (Gives (.bool true) w)))
    (C5 : Hid (∀ w, Calls Try.prog 36 #[vR [px, py]] w (Gives (.tuple #[vN 0, .int .i64 2]) w)))
    (C6 : Hid (∀ w, Calls Try.prog 40 #[vR [px, py]] w (Gives (.int .i64 2) w))) :
    Calls Try.prog 8 #[vR [px, py], vN n] w (Gives (.bool true) w) := by
  have HF_0 : Hid (Below w.heap.size w w) := Lib.hid (Below.refl _ _)
  go_enter Try.func8, Try.ntmps8
  go_wp2_with (first | ((with_reducible show wpList _ _ _ (⟨some 2, .box 35 (.tmp 0), _, _, _, _⟩ :: _) _ _); go_must (refine wpList_box_row rfl 35 (.tmp 0) rfl (bcs (encs [px, py])).toArray rfl ?_; intro u1 ha1 hza1 hga1; have Ngp_1 : Hid (RAt u1 w.heap.size [px, py]) := Lib.hid (⟨_, ha1⟩); have HF_1 : Hid (Below w.heap.size w u1) := Lib.hid (HF_0.out.grown hga1 HF_0.out.size (by simp)); have HGE1 : Hid (w.heap.size ≤ w.heap.size) := Lib.hid HF_0.out.size; clear ha1 hza1 hga1 HF_0)) | ((with_reducible show wpList _ _ _ (⟨some 3, .box 22 (.tmp 1), _, _, _, _⟩ :: _) _ _); go_must (refine wpList_box_row rfl 22 (.tmp 1) rfl (bcs (enc n)).toArray rfl ?_; intro u2 ha2 hza2 hga2; have Ngp_2 := Lib.hid (Ngp_1.out.grown hga2 (by simp)); have Ngn_2 : Hid (RAt u2 u1.heap.size [n]) := Lib.hid (NAt.row ⟨_, ha2⟩); have HF_2 : Hid (Below w.heap.size w u2) := Lib.hid (HF_1.out.grown hga2 HF_1.out.size (by simp)); have HNE2_0 : Hid (w.heap.size ≠ u1.heap.size) := Lib.hid (by have := Ngp_1.out.lt; omega); have HGE2 : Hid (w.heap.size ≤ u1.heap.size) := Lib.hid HF_1.out.size; clear ha2 hza2 hga2 Ngp_1 HF_1)) | fail)
  generalize u1.heap.size = gn at *
  refine (C0.out _).mono ?_
  rintro e3 x3 ⟨rfl, hb3⟩
  have Ngp_3 := Lib.hid (Ngp_2.out.keep hb3)
  have Ngn_3 := Lib.hid (Ngn_2.out.keep hb3)
  have HF_3 : Hid (Below w.heap.size w x3) := Lib.hid (HF_2.out.trans (hb3.mono HF_2.out.size))
  clear hb3 Ngp_2 Ngn_2 HF_2
  go_wp2_with (first | ((with_reducible show wpList _ _ _ (⟨_, .load 22 (.tmp 3), _, _, _, _⟩ :: _) _ _); go_must (refine wpList_exec rfl (vN n) (exec_load22 (.tmp 3) rfl (gn) 0 0 rfl [n] n rfl Ngn_3.out rfl) ?_)) | fail)
  refine (C1.out _).mono ?_
  rintro e4 x4 ⟨rfl, hb4⟩
  have Ngp_4 := Lib.hid (Ngp_3.out.keep hb4)
  have Ngn_4 := Lib.hid (Ngn_3.out.keep hb4)
  have HF_4 : Hid (Below w.heap.size w x4) := Lib.hid (HF_3.out.trans (hb4.mono HF_3.out.size))
  clear hb4 Ngp_3 Ngn_3 HF_3
  go_wp2_with (first | ((with_reducible show wpList _ _ _ (⟨some 5, .alloc 35, _, _, _, _⟩ :: _) _ _); go_must (refine wpList_alloc_row rfl 35 rfl (.agg (zbs 64)) zero35 ?_; intro u5 ha5 hza5 hga5; have HA5 := Lib.hid ha5; have HZA5 := Lib.hid hza5; have HGA5 := Lib.hid hga5; clear ha5 hza5 hga5)) | ((with_reducible show wpList _ _ _ (⟨none, .store 35 (.tmp 5) (.tmp 19), _, _, _, _⟩ :: _) _ _); go_must (refine wpList_storeP rfl (.tmp 5) (.tmp 19) rfl (x4.heap.size) [0, 0] ax ay rfl rfl (zrow (k := 2) HA5.out) rfl ?_; intro y5 hr5 hg5 hz5; have Ngp_5 := Lib.hid ((Ngp_4.out.grown HGA5.out (by simp)).grown hg5 (by have := Ngp_4.out.lt; simp; omega)); have Ngn_5 := Lib.hid ((Ngn_4.out.grown HGA5.out (by simp)).grown hg5 (by have := Ngn_4.out.lt; simp; omega)); have Nga_5 : Hid (RAt y5 x4.heap.size [ax, ay]) := Lib.hid hr5; have HF_5 : Hid (Below w.heap.size w y5) := Lib.hid ((HF_4.out.grown HGA5.out HF_4.out.size (by simp)).grown hg5 (by have := HF_4.out.size; have := HZA5.out; omega) (fun r hr => by injection hr with hr; have := HF_4.out.size; omega)); have HNE5_1 : Hid (w.heap.size ≠ x4.heap.size) := Lib.hid (by have := Ngp_4.out.lt; omega); have HNE5_2 : Hid (gn ≠ x4.heap.size) := Lib.hid (by have := Ngn_4.out.lt; omega); have HGE5 : Hid (w.heap.size ≤ x4.heap.size) := Lib.hid HF_4.out.size; clear hr5 hg5 hz5 HA5 HZA5 HGA5 Ngp_4 Ngn_4 HF_4)) | ((with_reducible show wpList _ _ _ (⟨_, .load 35 (.tmp 5), _, _, _, _⟩ :: _) _ _); go_must (refine wpList_exec rfl (vR [ax, ay]) (exec_loadP (.tmp 5) rfl (x4.heap.size) ax ay rfl Nga_5.out) ?_)) | fail)
  generalize x4.heap.size = ga at *
  refine (C2.out _).mono ?_
  rintro e6 x6 ⟨rfl, hb6⟩
  have Ngp_6 := Lib.hid (Ngp_5.out.keep hb6)
  have Ngn_6 := Lib.hid (Ngn_5.out.keep hb6)
  have Nga_6 := Lib.hid (Nga_5.out.keep hb6)
  have HF_6 : Hid (Below w.heap.size w x6) := Lib.hid (HF_5.out.trans (hb6.mono HF_5.out.size))
  clear hb6 Ngp_5 Ngn_5 Nga_5 HF_5
  go_wp2_with (first | ((with_reducible show wpList _ _ _ (⟨some 7, .alloc 22, _, _, _, _⟩ :: _) _ _); go_must (refine wpList_alloc_row rfl 22 rfl (.agg (zbs 32)) zero22 ?_; intro u7 ha7 hza7 hga7; have HA7 := Lib.hid ha7; have HZA7 := Lib.hid hza7; have HGA7 := Lib.hid hga7; clear ha7 hza7 hga7)) | ((with_reducible show wpList _ _ _ (⟨none, .store 22 (.tmp 7) (.tmp 26), _, _, _, _⟩ :: _) _ _); go_must (refine wpList_store22 rfl (.tmp 7) (.tmp 26) rfl (x6.heap.size) 0 0 rfl [0] n rfl rfl (zrow (k := 1) HA7.out) (show 0 < 1 by omega) ?_; intro y7 hr7 hg7 hz7; have Ngp_7 := Lib.hid ((Ngp_6.out.grown HGA7.out (by simp)).grown hg7 (by have := Ngp_6.out.lt; simp; omega)); have Ngn_7 := Lib.hid ((Ngn_6.out.grown HGA7.out (by simp)).grown hg7 (by have := Ngn_6.out.lt; simp; omega)); have Nga_7 := Lib.hid ((Nga_6.out.grown HGA7.out (by simp)).grown hg7 (by have := Nga_6.out.lt; simp; omega)); have Ngb_7 : Hid (RAt y7 x6.heap.size [n]) := Lib.hid hr7; have HF_7 : Hid (Below w.heap.size w y7) := Lib.hid ((HF_6.out.grown HGA7.out HF_6.out.size (by simp)).grown hg7 (by have := HF_6.out.size; have := HZA7.out; omega) (fun r hr => by injection hr with hr; have := HF_6.out.size; omega)); have HNE7_3 : Hid (w.heap.size ≠ x6.heap.size) := Lib.hid (by have := Ngp_6.out.lt; omega); have HNE7_4 : Hid (gn ≠ x6.heap.size) := Lib.hid (by have := Ngn_6.out.lt; omega); have HNE7_5 : Hid (ga ≠ x6.heap.size) := Lib.hid (by have := Nga_6.out.lt; omega); have HGE7 : Hid (w.heap.size ≤ x6.heap.size) := Lib.hid HF_6.out.size; clear hr7 hg7 hz7 HA7 HZA7 HGA7 Ngp_6 Ngn_6 Nga_6 HF_6)) | ((with_reducible show wpList _ _ _ (⟨_, .load 22 (.tmp 7), _, _, _, _⟩ :: _) _ _); go_must (refine wpList_exec rfl (vN n) (exec_load22 (.tmp 7) rfl (x6.heap.size) 0 0 rfl [n] n rfl Ngb_7.out rfl) ?_)) | ((with_reducible show wpList _ _ _ (⟨_, .load 22 (.tmp 3), _, _, _, _⟩ :: _) _ _); go_must (refine wpList_exec rfl (vN n) (exec_load22 (.tmp 3) rfl (gn) 0 0 rfl [n] n rfl Ngn_7.out rfl) ?_)) | ((with_reducible show wpList _ _ _ (⟨_, .binOp .neq 22 (.tmp 31) (.tmp 32) 22, _, _, _, _⟩ :: _) _ _); go_must (refine wpList_exec rfl (.bool (!true)) (exec_neq22 (m := n) (n := n) (.tmp 31) (.tmp 32) rfl rfl rfl (eqN22_same n _)) ?_)) | ((with_reducible show wpList _ _ _ (⟨_, .load 35 (.tmp 5), _, _, _, _⟩ :: _) _ _); go_must (refine wpList_exec rfl (vR [ax, ay]) (exec_loadP (.tmp 5) rfl (ga) ax ay rfl Nga_7.out) ?_)) | fail)
  generalize x6.heap.size = gb at *
  refine (C3.out _).mono ?_
  rintro e8 x8 ⟨rfl, hb8⟩
  have Ngp_8 := Lib.hid (Ngp_7.out.keep hb8)
  have Ngn_8 := Lib.hid (Ngn_7.out.keep hb8)
  have Nga_8 := Lib.hid (Nga_7.out.keep hb8)
  have Ngb_8 := Lib.hid (Ngb_7.out.keep hb8)
  have HF_8 : Hid (Below w.heap.size w x8) := Lib.hid (HF_7.out.trans (hb8.mono HF_7.out.size))
  clear hb8 Ngp_7 Ngn_7 Nga_7 Ngb_7 HF_7
  go_wp2_with (first | ((with_reducible show wpList _ _ _ (⟨_, .load 23 (.tmp 41), _, _, _, _⟩ :: _) _ _); go_must (refine wpList_exec rfl (vN ay) (exec_loadF (.tmp 41) rfl (ga) 1 32 rfl [ax, ay] ay rfl Nga_8.out rfl) ?_)) | fail)
  refine (C4.out _).mono ?_
  rintro e9 x9 ⟨rfl, hb9⟩
  have Ngp_9 := Lib.hid (Ngp_8.out.keep hb9)
  have Ngn_9 := Lib.hid (Ngn_8.out.keep hb9)
  have Nga_9 := Lib.hid (Nga_8.out.keep hb9)
  have Ngb_9 := Lib.hid (Ngb_8.out.keep hb9)
  have HF_9 : Hid (Below w.heap.size w x9) := Lib.hid (HF_8.out.trans (hb9.mono HF_8.out.size))
  clear hb9 Ngp_8 Ngn_8 Nga_8 Ngb_8 HF_8
  go_wp2_with (first | ((with_reducible show wpList _ _ _ (⟨_, .load 35 (.tmp 2), _, _, _, _⟩ :: _) _ _); go_must (refine wpList_exec rfl (vR [px, py]) (exec_loadP (.tmp 2) rfl (w.heap.size) px py rfl Ngp_9.out) ?_)) | fail)
  refine (C5.out _).mono ?_
  rintro e10 x10 ⟨rfl, hb10⟩
  have Ngp_10 := Lib.hid (Ngp_9.out.keep hb10)
  have Ngn_10 := Lib.hid (Ngn_9.out.keep hb10)
  have Nga_10 := Lib.hid (Nga_9.out.keep hb10)
  have Ngb_10 := Lib.hid (Ngb_9.out.keep hb10)
  have HF_10 : Hid (Below w.heap.size w x10) := Lib.hid (HF_9.out.trans (hb10.mono HF_9.out.size))
  clear hb10 Ngp_9 Ngn_9 Nga_9 Ngb_9 HF_9
  go_wp2_with (first | ((with_reducible show wpList _ _ _ (⟨some 9, .alloc 22, _, _, _, _⟩ :: _) _ _); go_must (refine wpList_alloc_row rfl 22 rfl (.agg (zbs 32)) zero22 ?_; intro u11 ha11 hza11 hga11; have HA11 := Lib.hid ha11; have HZA11 := Lib.hid hza11; have HGA11 := Lib.hid hga11; clear ha11 hza11 hga11)) | ((with_reducible show wpList _ _ _ (⟨none, .store 22 (.tmp 9) (.tmp 49), _, _, _, _⟩ :: _) _ _); go_must (refine wpList_store22 rfl (.tmp 9) (.tmp 49) rfl (x10.heap.size) 0 0 rfl [0] 0 rfl rfl (zrow (k := 1) HA11.out) (show 0 < 1 by omega) ?_; intro y11 hr11 hg11 hz11; have Ngp_11 := Lib.hid ((Ngp_10.out.grown HGA11.out (by simp)).grown hg11 (by have := Ngp_10.out.lt; simp; omega)); have Ngn_11 := Lib.hid ((Ngn_10.out.grown HGA11.out (by simp)).grown hg11 (by have := Ngn_10.out.lt; simp; omega)); have Nga_11 := Lib.hid ((Nga_10.out.grown HGA11.out (by simp)).grown hg11 (by have := Nga_10.out.lt; simp; omega)); have Ngb_11 := Lib.hid ((Ngb_10.out.grown HGA11.out (by simp)).grown hg11 (by have := Ngb_10.out.lt; simp; omega)); have Ngc_11 : Hid (RAt y11 x10.heap.size [0]) := Lib.hid hr11; have HF_11 : Hid (Below w.heap.size w y11) := Lib.hid ((HF_10.out.grown HGA11.out HF_10.out.size (by simp)).grown hg11 (by have := HF_10.out.size; have := HZA11.out; omega) (fun r hr => by injection hr with hr; have := HF_10.out.size; omega)); have HNE11_6 : Hid (w.heap.size ≠ x10.heap.size) := Lib.hid (by have := Ngp_10.out.lt; omega); have HNE11_7 : Hid (gn ≠ x10.heap.size) := Lib.hid (by have := Ngn_10.out.lt; omega); have HNE11_8 : Hid (ga ≠ x10.heap.size) := Lib.hid (by have := Nga_10.out.lt; omega); have HNE11_9 : Hid (gb ≠ x10.heap.size) := Lib.hid (by have := Ngb_10.out.lt; omega); have HGE11 : Hid (w.heap.size ≤ x10.heap.size) := Lib.hid HF_10.out.size; clear hr11 hg11 hz11 HA11 HZA11 HGA11 Ngp_10 Ngn_10 Nga_10 Ngb_10 HF_10)) | ((with_reducible show wpList _ _ _ (⟨_, .load 35 (.tmp 2), _, _, _, _⟩ :: _) _ _); go_must (refine wpList_exec rfl (vR [px, py]) (exec_loadP (.tmp 2) rfl (w.heap.size) px py rfl Ngp_11.out) ?_)) | fail)
  generalize x10.heap.size = gc at *
  refine (C6.out _).mono ?_
  rintro e12 x12 ⟨rfl, hb12⟩
  have Ngp_12 := Lib.hid (Ngp_11.out.keep hb12)
  have Ngn_12 := Lib.hid (Ngn_11.out.keep hb12)
  have Nga_12 := Lib.hid (Nga_11.out.keep hb12)
  have Ngb_12 := Lib.hid (Ngb_11.out.keep hb12)
  have Ngc_12 := Lib.hid (Ngc_11.out.keep hb12)
  have HF_12 : Hid (Below w.heap.size w x12) := Lib.hid (HF_11.out.trans (hb12.mono HF_11.out.size))
  clear hb12 Ngp_11 Ngn_11 Nga_11 Ngb_11 Ngc_11 HF_11
  go_wp2_with (first | ((with_reducible show wpList _ _ _ (⟨_, .load 22 (.tmp 9), _, _, _, _⟩ :: _) _ _); go_must (refine wpList_exec rfl (vN 0) (exec_load22 (.tmp 9) rfl (gc) 0 0 rfl [0] 0 rfl Ngc_12.out rfl) ?_)) | ((with_reducible show wpList _ _ _ (⟨_, .build 22 #[], _, _, _, _⟩ :: _) _ _); go_must (refine wpList_exec rfl (vN 0) (exec_buildc rfl (by kernel_rfl)) ?_)) | ((with_reducible show wpList _ _ _ (⟨_, .binOp .eql 22 (.tmp 58) (.tmp 59) 22, _, _, _, _⟩ :: _) _ _); go_must (refine wpList_exec rfl (.bool true) (exec_eq22 (m := 0) (n := 0) (.tmp 58) (.tmp 59) rfl rfl rfl (eqN22_same 0 _)) ?_)) | fail)
  go_ret
  exact ⟨rfl, HF_12.out⟩

set_option maxHeartbeats 8000000 in
set_option maxRecDepth 100000 in
theorem back_ok_zero (px py n ax ay b b2 t u mx my : Nat) (w : World)
    (C0 : Hid (∀ w, Calls Try.prog 38 #[] w (Gives (.bool true) w)))
    (C1 : Hid (∀ w, Calls Try.prog 35 #[vN n] w (Gives (.tuple #[vR [ax, ay], .int .i64 0]) w)))
    (C2 : Hid (∀ w, Calls Try.prog 36 #[vR [ax, ay]] w (Gives (.tuple #[vN n, .int .i64 0]) w)))
    (C3 : Hid (∀ w, Calls Try.prog 40 #[vR [ax, ay]] w (Gives (.int .i64 0) w)))
    (C4 : Hid (∀ w, Calls Try.prog 16 #[vN ay] w (Gives (.bool true) w)))
    (C5 : Hid (∀ w, Calls Try.prog 36 #[vR [px, py]] w (Gives (.tuple #[vN b, .int .i64 0]) w)))
    (C6 : Hid (∀ w, Calls Try.prog 35 #[vN b] w (Gives (.tuple #[vR [px, py], .int .i64 0]) w)))
    (C7 : Hid (∀ w, Calls Try.prog 35 #[vN b2] w (Gives (.tuple #[vR [0, 0], .int .i64 4]) w)))
    (HZ : Hid (∀ w, (Op.equalIn 10000 23 (vN px) (vN 0)).run Try.prog w = .ok true w))
    (HT : Hid (((enc b).getD 31 0).toNat = t)) (HU : Hid (bits .xor .u8 (t : Int) 128 = ((u : Nat) : Int))) (HU2 : Hid (u < 256)) (HS : Hid ((enc b).set 31 (UInt8.ofNat u) = enc b2)) :
    Calls Try.prog 8 #[vR [px, py], vN n] w (Gives (.bool true) w) := by
  have HF_0 : Hid (Below w.heap.size w w) := Lib.hid (Below.refl _ _)
  go_enter Try.func8, Try.ntmps8
  go_wp2_with (first | ((with_reducible show wpList _ _ _ (⟨some 2, .box 35 (.tmp 0), _, _, _, _⟩ :: _) _ _); go_must (refine wpList_box_row rfl 35 (.tmp 0) rfl (bcs (encs [px, py])).toArray rfl ?_; intro u13 ha13 hza13 hga13; have Ngp_13 : Hid (RAt u13 w.heap.size [px, py]) := Lib.hid (⟨_, ha13⟩); have HF_13 : Hid (Below w.heap.size w u13) := Lib.hid (HF_0.out.grown hga13 HF_0.out.size (by simp)); have HGE13 : Hid (w.heap.size ≤ w.heap.size) := Lib.hid HF_0.out.size; clear ha13 hza13 hga13 HF_0)) | ((with_reducible show wpList _ _ _ (⟨some 3, .box 22 (.tmp 1), _, _, _, _⟩ :: _) _ _); go_must (refine wpList_box_row rfl 22 (.tmp 1) rfl (bcs (enc n)).toArray rfl ?_; intro u14 ha14 hza14 hga14; have Ngp_14 := Lib.hid (Ngp_13.out.grown hga14 (by simp)); have Ngn_14 : Hid (RAt u14 u13.heap.size [n]) := Lib.hid (NAt.row ⟨_, ha14⟩); have HF_14 : Hid (Below w.heap.size w u14) := Lib.hid (HF_13.out.grown hga14 HF_13.out.size (by simp)); have HNE14_0 : Hid (w.heap.size ≠ u13.heap.size) := Lib.hid (by have := Ngp_13.out.lt; omega); have HGE14 : Hid (w.heap.size ≤ u13.heap.size) := Lib.hid HF_13.out.size; clear ha14 hza14 hga14 Ngp_13 HF_13)) | fail)
  generalize u13.heap.size = gn at *
  refine (C0.out _).mono ?_
  rintro e15 x15 ⟨rfl, hb15⟩
  have Ngp_15 := Lib.hid (Ngp_14.out.keep hb15)
  have Ngn_15 := Lib.hid (Ngn_14.out.keep hb15)
  have HF_15 : Hid (Below w.heap.size w x15) := Lib.hid (HF_14.out.trans (hb15.mono HF_14.out.size))
  clear hb15 Ngp_14 Ngn_14 HF_14
  go_wp2_with (first | ((with_reducible show wpList _ _ _ (⟨_, .load 22 (.tmp 3), _, _, _, _⟩ :: _) _ _); go_must (refine wpList_exec rfl (vN n) (exec_load22 (.tmp 3) rfl (gn) 0 0 rfl [n] n rfl Ngn_15.out rfl) ?_)) | fail)
  refine (C1.out _).mono ?_
  rintro e16 x16 ⟨rfl, hb16⟩
  have Ngp_16 := Lib.hid (Ngp_15.out.keep hb16)
  have Ngn_16 := Lib.hid (Ngn_15.out.keep hb16)
  have HF_16 : Hid (Below w.heap.size w x16) := Lib.hid (HF_15.out.trans (hb16.mono HF_15.out.size))
  clear hb16 Ngp_15 Ngn_15 HF_15
  go_wp2_with (first | ((with_reducible show wpList _ _ _ (⟨some 5, .alloc 35, _, _, _, _⟩ :: _) _ _); go_must (refine wpList_alloc_row rfl 35 rfl (.agg (zbs 64)) zero35 ?_; intro u17 ha17 hza17 hga17; have HA17 := Lib.hid ha17; have HZA17 := Lib.hid hza17; have HGA17 := Lib.hid hga17; clear ha17 hza17 hga17)) | ((with_reducible show wpList _ _ _ (⟨none, .store 35 (.tmp 5) (.tmp 19), _, _, _, _⟩ :: _) _ _); go_must (refine wpList_storeP rfl (.tmp 5) (.tmp 19) rfl (x16.heap.size) [0, 0] ax ay rfl rfl (zrow (k := 2) HA17.out) rfl ?_; intro y17 hr17 hg17 hz17; have Ngp_17 := Lib.hid ((Ngp_16.out.grown HGA17.out (by simp)).grown hg17 (by have := Ngp_16.out.lt; simp; omega)); have Ngn_17 := Lib.hid ((Ngn_16.out.grown HGA17.out (by simp)).grown hg17 (by have := Ngn_16.out.lt; simp; omega)); have Nga_17 : Hid (RAt y17 x16.heap.size [ax, ay]) := Lib.hid hr17; have HF_17 : Hid (Below w.heap.size w y17) := Lib.hid ((HF_16.out.grown HGA17.out HF_16.out.size (by simp)).grown hg17 (by have := HF_16.out.size; have := HZA17.out; omega) (fun r hr => by injection hr with hr; have := HF_16.out.size; omega)); have HNE17_1 : Hid (w.heap.size ≠ x16.heap.size) := Lib.hid (by have := Ngp_16.out.lt; omega); have HNE17_2 : Hid (gn ≠ x16.heap.size) := Lib.hid (by have := Ngn_16.out.lt; omega); have HGE17 : Hid (w.heap.size ≤ x16.heap.size) := Lib.hid HF_16.out.size; clear hr17 hg17 hz17 HA17 HZA17 HGA17 Ngp_16 Ngn_16 HF_16)) | ((with_reducible show wpList _ _ _ (⟨_, .load 35 (.tmp 5), _, _, _, _⟩ :: _) _ _); go_must (refine wpList_exec rfl (vR [ax, ay]) (exec_loadP (.tmp 5) rfl (x16.heap.size) ax ay rfl Nga_17.out) ?_)) | fail)
  generalize x16.heap.size = ga at *
  refine (C2.out _).mono ?_
  rintro e18 x18 ⟨rfl, hb18⟩
  have Ngp_18 := Lib.hid (Ngp_17.out.keep hb18)
  have Ngn_18 := Lib.hid (Ngn_17.out.keep hb18)
  have Nga_18 := Lib.hid (Nga_17.out.keep hb18)
  have HF_18 : Hid (Below w.heap.size w x18) := Lib.hid (HF_17.out.trans (hb18.mono HF_17.out.size))
  clear hb18 Ngp_17 Ngn_17 Nga_17 HF_17
  go_wp2_with (first | ((with_reducible show wpList _ _ _ (⟨some 7, .alloc 22, _, _, _, _⟩ :: _) _ _); go_must (refine wpList_alloc_row rfl 22 rfl (.agg (zbs 32)) zero22 ?_; intro u19 ha19 hza19 hga19; have HA19 := Lib.hid ha19; have HZA19 := Lib.hid hza19; have HGA19 := Lib.hid hga19; clear ha19 hza19 hga19)) | ((with_reducible show wpList _ _ _ (⟨none, .store 22 (.tmp 7) (.tmp 26), _, _, _, _⟩ :: _) _ _); go_must (refine wpList_store22 rfl (.tmp 7) (.tmp 26) rfl (x18.heap.size) 0 0 rfl [0] n rfl rfl (zrow (k := 1) HA19.out) (show 0 < 1 by omega) ?_; intro y19 hr19 hg19 hz19; have Ngp_19 := Lib.hid ((Ngp_18.out.grown HGA19.out (by simp)).grown hg19 (by have := Ngp_18.out.lt; simp; omega)); have Ngn_19 := Lib.hid ((Ngn_18.out.grown HGA19.out (by simp)).grown hg19 (by have := Ngn_18.out.lt; simp; omega)); have Nga_19 := Lib.hid ((Nga_18.out.grown HGA19.out (by simp)).grown hg19 (by have := Nga_18.out.lt; simp; omega)); have Ngb_19 : Hid (RAt y19 x18.heap.size [n]) := Lib.hid hr19; have HF_19 : Hid (Below w.heap.size w y19) := Lib.hid ((HF_18.out.grown HGA19.out HF_18.out.size (by simp)).grown hg19 (by have := HF_18.out.size; have := HZA19.out; omega) (fun r hr => by injection hr with hr; have := HF_18.out.size; omega)); have HNE19_3 : Hid (w.heap.size ≠ x18.heap.size) := Lib.hid (by have := Ngp_18.out.lt; omega); have HNE19_4 : Hid (gn ≠ x18.heap.size) := Lib.hid (by have := Ngn_18.out.lt; omega); have HNE19_5 : Hid (ga ≠ x18.heap.size) := Lib.hid (by have := Nga_18.out.lt; omega); have HGE19 : Hid (w.heap.size ≤ x18.heap.size) := Lib.hid HF_18.out.size; clear hr19 hg19 hz19 HA19 HZA19 HGA19 Ngp_18 Ngn_18 Nga_18 HF_18)) | ((with_reducible show wpList _ _ _ (⟨_, .load 22 (.tmp 7), _, _, _, _⟩ :: _) _ _); go_must (refine wpList_exec rfl (vN n) (exec_load22 (.tmp 7) rfl (x18.heap.size) 0 0 rfl [n] n rfl Ngb_19.out rfl) ?_)) | ((with_reducible show wpList _ _ _ (⟨_, .load 22 (.tmp 3), _, _, _, _⟩ :: _) _ _); go_must (refine wpList_exec rfl (vN n) (exec_load22 (.tmp 3) rfl (gn) 0 0 rfl [n] n rfl Ngn_19.out rfl) ?_)) | ((with_reducible show wpList _ _ _ (⟨_, .binOp .neq 22 (.tmp 31) (.tmp 32) 22, _, _, _, _⟩ :: _) _ _); go_must (refine wpList_exec rfl (.bool (!true)) (exec_neq22 (m := n) (n := n) (.tmp 31) (.tmp 32) rfl rfl rfl (eqN22_same n _)) ?_)) | ((with_reducible show wpList _ _ _ (⟨_, .load 35 (.tmp 5), _, _, _, _⟩ :: _) _ _); go_must (refine wpList_exec rfl (vR [ax, ay]) (exec_loadP (.tmp 5) rfl (ga) ax ay rfl Nga_19.out) ?_)) | fail)
  generalize x18.heap.size = gb at *
  refine (C3.out _).mono ?_
  rintro e20 x20 ⟨rfl, hb20⟩
  have Ngp_20 := Lib.hid (Ngp_19.out.keep hb20)
  have Ngn_20 := Lib.hid (Ngn_19.out.keep hb20)
  have Nga_20 := Lib.hid (Nga_19.out.keep hb20)
  have Ngb_20 := Lib.hid (Ngb_19.out.keep hb20)
  have HF_20 : Hid (Below w.heap.size w x20) := Lib.hid (HF_19.out.trans (hb20.mono HF_19.out.size))
  clear hb20 Ngp_19 Ngn_19 Nga_19 Ngb_19 HF_19
  go_wp2_with (first | ((with_reducible show wpList _ _ _ (⟨_, .load 23 (.tmp 41), _, _, _, _⟩ :: _) _ _); go_must (refine wpList_exec rfl (vN ay) (exec_loadF (.tmp 41) rfl (ga) 1 32 rfl [ax, ay] ay rfl Nga_20.out rfl) ?_)) | fail)
  refine (C4.out _).mono ?_
  rintro e21 x21 ⟨rfl, hb21⟩
  have Ngp_21 := Lib.hid (Ngp_20.out.keep hb21)
  have Ngn_21 := Lib.hid (Ngn_20.out.keep hb21)
  have Nga_21 := Lib.hid (Nga_20.out.keep hb21)
  have Ngb_21 := Lib.hid (Ngb_20.out.keep hb21)
  have HF_21 : Hid (Below w.heap.size w x21) := Lib.hid (HF_20.out.trans (hb21.mono HF_20.out.size))
  clear hb21 Ngp_20 Ngn_20 Nga_20 Ngb_20 HF_20
  go_wp2_with (first | ((with_reducible show wpList _ _ _ (⟨_, .load 35 (.tmp 2), _, _, _, _⟩ :: _) _ _); go_must (refine wpList_exec rfl (vR [px, py]) (exec_loadP (.tmp 2) rfl (w.heap.size) px py rfl Ngp_21.out) ?_)) | fail)
  refine (C5.out _).mono ?_
  rintro e22 x22 ⟨rfl, hb22⟩
  have Ngp_22 := Lib.hid (Ngp_21.out.keep hb22)
  have Ngn_22 := Lib.hid (Ngn_21.out.keep hb22)
  have Nga_22 := Lib.hid (Nga_21.out.keep hb22)
  have Ngb_22 := Lib.hid (Ngb_21.out.keep hb22)
  have HF_22 : Hid (Below w.heap.size w x22) := Lib.hid (HF_21.out.trans (hb22.mono HF_21.out.size))
  clear hb22 Ngp_21 Ngn_21 Nga_21 Ngb_21 HF_21
  go_wp2_with (first | ((with_reducible show wpList _ _ _ (⟨some 9, .alloc 22, _, _, _, _⟩ :: _) _ _); go_must (refine wpList_alloc_row rfl 22 rfl (.agg (zbs 32)) zero22 ?_; intro u23 ha23 hza23 hga23; have HA23 := Lib.hid ha23; have HZA23 := Lib.hid hza23; have HGA23 := Lib.hid hga23; clear ha23 hza23 hga23)) | ((with_reducible show wpList _ _ _ (⟨none, .store 22 (.tmp 9) (.tmp 49), _, _, _, _⟩ :: _) _ _); go_must (refine wpList_store22 rfl (.tmp 9) (.tmp 49) rfl (x22.heap.size) 0 0 rfl [0] b rfl rfl (zrow (k := 1) HA23.out) (show 0 < 1 by omega) ?_; intro y23 hr23 hg23 hz23; have Ngp_23 := Lib.hid ((Ngp_22.out.grown HGA23.out (by simp)).grown hg23 (by have := Ngp_22.out.lt; simp; omega)); have Ngn_23 := Lib.hid ((Ngn_22.out.grown HGA23.out (by simp)).grown hg23 (by have := Ngn_22.out.lt; simp; omega)); have Nga_23 := Lib.hid ((Nga_22.out.grown HGA23.out (by simp)).grown hg23 (by have := Nga_22.out.lt; simp; omega)); have Ngb_23 := Lib.hid ((Ngb_22.out.grown HGA23.out (by simp)).grown hg23 (by have := Ngb_22.out.lt; simp; omega)); have Ngc_23 : Hid (RAt y23 x22.heap.size [b]) := Lib.hid hr23; have HF_23 : Hid (Below w.heap.size w y23) := Lib.hid ((HF_22.out.grown HGA23.out HF_22.out.size (by simp)).grown hg23 (by have := HF_22.out.size; have := HZA23.out; omega) (fun r hr => by injection hr with hr; have := HF_22.out.size; omega)); have HNE23_6 : Hid (w.heap.size ≠ x22.heap.size) := Lib.hid (by have := Ngp_22.out.lt; omega); have HNE23_7 : Hid (gn ≠ x22.heap.size) := Lib.hid (by have := Ngn_22.out.lt; omega); have HNE23_8 : Hid (ga ≠ x22.heap.size) := Lib.hid (by have := Nga_22.out.lt; omega); have HNE23_9 : Hid (gb ≠ x22.heap.size) := Lib.hid (by have := Ngb_22.out.lt; omega); have HGE23 : Hid (w.heap.size ≤ x22.heap.size) := Lib.hid HF_22.out.size; clear hr23 hg23 hz23 HA23 HZA23 HGA23 Ngp_22 Ngn_22 Nga_22 Ngb_22 HF_22)) | ((with_reducible show wpList _ _ _ (⟨_, .load 22 (.tmp 9), _, _, _, _⟩ :: _) _ _); go_must (refine wpList_exec rfl (vN b) (exec_load22 (.tmp 9) rfl (x22.heap.size) 0 0 rfl [b] b rfl Ngc_23.out rfl) ?_)) | fail)
  generalize x22.heap.size = gc at *
  refine (C6.out _).mono ?_
  rintro e24 x24 ⟨rfl, hb24⟩
  have Ngp_24 := Lib.hid (Ngp_23.out.keep hb24)
  have Ngn_24 := Lib.hid (Ngn_23.out.keep hb24)
  have Nga_24 := Lib.hid (Nga_23.out.keep hb24)
  have Ngb_24 := Lib.hid (Ngb_23.out.keep hb24)
  have Ngc_24 := Lib.hid (Ngc_23.out.keep hb24)
  have HF_24 : Hid (Below w.heap.size w x24) := Lib.hid (HF_23.out.trans (hb24.mono HF_23.out.size))
  clear hb24 Ngp_23 Ngn_23 Nga_23 Ngb_23 Ngc_23 HF_23
  go_wp2_with (first | ((with_reducible show wpList _ _ _ (⟨some 10, .alloc 35, _, _, _, _⟩ :: _) _ _); go_must (refine wpList_alloc_row rfl 35 rfl (.agg (zbs 64)) zero35 ?_; intro u25 ha25 hza25 hga25; have HA25 := Lib.hid ha25; have HZA25 := Lib.hid hza25; have HGA25 := Lib.hid hga25; clear ha25 hza25 hga25)) | ((with_reducible show wpList _ _ _ (⟨none, .store 35 (.tmp 10) (.tmp 65), _, _, _, _⟩ :: _) _ _); go_must (refine wpList_storeP rfl (.tmp 10) (.tmp 65) rfl (x24.heap.size) [0, 0] px py rfl rfl (zrow (k := 2) HA25.out) rfl ?_; intro y25 hr25 hg25 hz25; have Ngp_25 := Lib.hid ((Ngp_24.out.grown HGA25.out (by simp)).grown hg25 (by have := Ngp_24.out.lt; simp; omega)); have Ngn_25 := Lib.hid ((Ngn_24.out.grown HGA25.out (by simp)).grown hg25 (by have := Ngn_24.out.lt; simp; omega)); have Nga_25 := Lib.hid ((Nga_24.out.grown HGA25.out (by simp)).grown hg25 (by have := Nga_24.out.lt; simp; omega)); have Ngb_25 := Lib.hid ((Ngb_24.out.grown HGA25.out (by simp)).grown hg25 (by have := Ngb_24.out.lt; simp; omega)); have Ngc_25 := Lib.hid ((Ngc_24.out.grown HGA25.out (by simp)).grown hg25 (by have := Ngc_24.out.lt; simp; omega)); have Ngd_25 : Hid (RAt y25 x24.heap.size [px, py]) := Lib.hid hr25; have HF_25 : Hid (Below w.heap.size w y25) := Lib.hid ((HF_24.out.grown HGA25.out HF_24.out.size (by simp)).grown hg25 (by have := HF_24.out.size; have := HZA25.out; omega) (fun r hr => by injection hr with hr; have := HF_24.out.size; omega)); have HNE25_10 : Hid (w.heap.size ≠ x24.heap.size) := Lib.hid (by have := Ngp_24.out.lt; omega); have HNE25_11 : Hid (gn ≠ x24.heap.size) := Lib.hid (by have := Ngn_24.out.lt; omega); have HNE25_12 : Hid (ga ≠ x24.heap.size) := Lib.hid (by have := Nga_24.out.lt; omega); have HNE25_13 : Hid (gb ≠ x24.heap.size) := Lib.hid (by have := Ngb_24.out.lt; omega); have HNE25_14 : Hid (gc ≠ x24.heap.size) := Lib.hid (by have := Ngc_24.out.lt; omega); have HGE25 : Hid (w.heap.size ≤ x24.heap.size) := Lib.hid HF_24.out.size; have cb := (show BAt _ gc (enc b) from ⟨enc_len b, Ngc_25.out.num⟩).cell 31 (by omega); rw [HT.out] at cb; clear hr25 hg25 hz25 HA25 HZA25 HGA25 Ngp_24 Ngn_24 Nga_24 Ngb_24 Ngc_24 HF_24)) | ((with_reducible show wpList _ _ _ (⟨none, .store 5 (.tmp 70) (.tmp 69), _, _, _, _⟩ :: _) _ _); go_must (obtain ⟨tb26, htb26⟩ := Ngc_25.out.num; refine wpList_store_one rfl 5 (.tmp 70) (.tmp 69) rfl gc 31 rfl .u8 _ rfl tb26 _ htb26 size5 (by simp only [List.size_toArray, bcs_enc_len]; omega) ?_; intro y26 hh26 hg26 hz26; rw [HU.out, byte_val u HU2.out, bcs_put, HS.out] at hh26; have hr26 : RAt y26 gc [b2] := NAt.row ⟨_, hh26⟩; have Ngp_26 := Lib.hid (Ngp_25.out.grown hg26 (by have := HNE23_6.out; simp; omega)); have Ngn_26 := Lib.hid (Ngn_25.out.grown hg26 (by have := HNE23_7.out; simp; omega)); have Nga_26 := Lib.hid (Nga_25.out.grown hg26 (by have := HNE23_8.out; simp; omega)); have Ngb_26 := Lib.hid (Ngb_25.out.grown hg26 (by have := HNE23_9.out; simp; omega)); have Ngc_26 : Hid (RAt y26 gc [b2]) := Lib.hid hr26; have Ngd_26 := Lib.hid (Ngd_25.out.grown hg26 (by have := HNE25_14.out; simp; omega)); have HF_26 : Hid (Below w.heap.size w y26) := Lib.hid (HF_25.out.grown hg26 HF_25.out.size (fun r hr => by injection hr with hr; have := HGE23.out; omega)); clear hr26 hh26 hg26 hz26 Ngp_25 Ngn_25 Nga_25 Ngb_25 Ngc_25 Ngd_25 HF_25)) | ((with_reducible show wpList _ _ _ (⟨_, .load 22 (.tmp 9), _, _, _, _⟩ :: _) _ _); go_must (refine wpList_exec rfl (vN b2) (exec_load22 (.tmp 9) rfl (gc) 0 0 rfl [b2] b2 rfl Ngc_26.out rfl) ?_)) | fail)
  generalize x24.heap.size = gd at *
  refine (C7.out _).mono ?_
  rintro e27 x27 ⟨rfl, hb27⟩
  have Ngp_27 := Lib.hid (Ngp_26.out.keep hb27)
  have Ngn_27 := Lib.hid (Ngn_26.out.keep hb27)
  have Nga_27 := Lib.hid (Nga_26.out.keep hb27)
  have Ngb_27 := Lib.hid (Ngb_26.out.keep hb27)
  have Ngc_27 := Lib.hid (Ngc_26.out.keep hb27)
  have Ngd_27 := Lib.hid (Ngd_26.out.keep hb27)
  have HF_27 : Hid (Below w.heap.size w x27) := Lib.hid (HF_26.out.trans (hb27.mono HF_26.out.size))
  clear hb27 Ngp_26 Ngn_26 Nga_26 Ngb_26 Ngc_26 Ngd_26 HF_26
  go_wp2_with (first | ((with_reducible show wpList _ _ _ (⟨some 12, .alloc 35, _, _, _, _⟩ :: _) _ _); go_must (refine wpList_alloc_row rfl 35 rfl (.agg (zbs 64)) zero35 ?_; intro u28 ha28 hza28 hga28; have HA28 := Lib.hid ha28; have HZA28 := Lib.hid hza28; have HGA28 := Lib.hid hga28; clear ha28 hza28 hga28)) | ((with_reducible show wpList _ _ _ (⟨none, .store 35 (.tmp 12) (.tmp 74), _, _, _, _⟩ :: _) _ _); go_must (refine wpList_storeP rfl (.tmp 12) (.tmp 74) rfl (x27.heap.size) [0, 0] 0 0 rfl rfl (zrow (k := 2) HA28.out) rfl ?_; intro y28 hr28 hg28 hz28; have Ngp_28 := Lib.hid ((Ngp_27.out.grown HGA28.out (by simp)).grown hg28 (by have := Ngp_27.out.lt; simp; omega)); have Ngn_28 := Lib.hid ((Ngn_27.out.grown HGA28.out (by simp)).grown hg28 (by have := Ngn_27.out.lt; simp; omega)); have Nga_28 := Lib.hid ((Nga_27.out.grown HGA28.out (by simp)).grown hg28 (by have := Nga_27.out.lt; simp; omega)); have Ngb_28 := Lib.hid ((Ngb_27.out.grown HGA28.out (by simp)).grown hg28 (by have := Ngb_27.out.lt; simp; omega)); have Ngc_28 := Lib.hid ((Ngc_27.out.grown HGA28.out (by simp)).grown hg28 (by have := Ngc_27.out.lt; simp; omega)); have Ngd_28 := Lib.hid ((Ngd_27.out.grown HGA28.out (by simp)).grown hg28 (by have := Ngd_27.out.lt; simp; omega)); have Nge_28 : Hid (RAt y28 x27.heap.size [0, 0]) := Lib.hid hr28; have HF_28 : Hid (Below w.heap.size w y28) := Lib.hid ((HF_27.out.grown HGA28.out HF_27.out.size (by simp)).grown hg28 (by have := HF_27.out.size; have := HZA28.out; omega) (fun r hr => by injection hr with hr; have := HF_27.out.size; omega)); have HNE28_15 : Hid (w.heap.size ≠ x27.heap.size) := Lib.hid (by have := Ngp_27.out.lt; omega); have HNE28_16 : Hid (gn ≠ x27.heap.size) := Lib.hid (by have := Ngn_27.out.lt; omega); have HNE28_17 : Hid (ga ≠ x27.heap.size) := Lib.hid (by have := Nga_27.out.lt; omega); have HNE28_18 : Hid (gb ≠ x27.heap.size) := Lib.hid (by have := Ngb_27.out.lt; omega); have HNE28_19 : Hid (gc ≠ x27.heap.size) := Lib.hid (by have := Ngc_27.out.lt; omega); have HNE28_20 : Hid (gd ≠ x27.heap.size) := Lib.hid (by have := Ngd_27.out.lt; omega); have HGE28 : Hid (w.heap.size ≤ x27.heap.size) := Lib.hid HF_27.out.size; clear hr28 hg28 hz28 HA28 HZA28 HGA28 Ngp_27 Ngn_27 Nga_27 Ngb_27 Ngc_27 Ngd_27 HF_27)) | ((with_reducible show wpList _ _ _ (⟨_, .load 35 (.tmp 10), _, _, _, _⟩ :: _) _ _); go_must (refine wpList_exec rfl (vR [px, py]) (exec_loadP (.tmp 10) rfl (gd) px py rfl Ngd_28.out) ?_)) | ((with_reducible show wpList _ _ _ (⟨_, .load 35 (.tmp 2), _, _, _, _⟩ :: _) _ _); go_must (refine wpList_exec rfl (vR [px, py]) (exec_loadP (.tmp 2) rfl (w.heap.size) px py rfl Ngp_28.out) ?_)) | ((with_reducible show wpList _ _ _ (⟨_, .binOp .neq 35 (.tmp 79) (.tmp 80) 35, _, _, _, _⟩ :: _) _ _); go_must (refine wpList_exec rfl (.bool (!true)) (exec_neqP (m := px) (n := py) (m' := px) (n' := py) (.tmp 79) (.tmp 80) rfl rfl rfl (eqP_same _ _ _)) ?_)) | ((with_reducible show wpList _ _ _ (⟨_, .load 23 (.tmp 83), _, _, _, _⟩ :: _) _ _); go_must (refine wpList_exec rfl (vN px) (exec_loadF (.tmp 83) rfl (w.heap.size) 0 0 rfl [px, py] px rfl Ngp_28.out rfl) ?_)) | ((with_reducible show wpList _ _ _ (⟨_, .build 23 #[], _, _, _, _⟩ :: _) _ _); go_must (refine wpList_exec rfl (vN 0) (exec_build0 rfl) ?_)) | ((with_reducible show wpList _ _ _ (⟨_, .binOp .eql 23 (.tmp 84) (.tmp 85) 23, _, _, _, _⟩ :: _) _ _); go_must (refine wpList_exec rfl (.bool true) (exec_eq23 (m := px) (n := 0) (.tmp 84) (.tmp 85) rfl rfl rfl (HZ.out _)) ?_)) | fail)
  generalize x27.heap.size = ge at *
  go_ret
  exact ⟨rfl, HF_28.out⟩

set_option maxHeartbeats 8000000 in
set_option maxRecDepth 100000 in
theorem back_ok_neg (px py n ax ay b b2 t u mx my : Nat) (w : World)
    (C0 : Hid (∀ w, Calls Try.prog 38 #[] w (Gives (.bool true) w)))
    (C1 : Hid (∀ w, Calls Try.prog 35 #[vN n] w (Gives (.tuple #[vR [ax, ay], .int .i64 0]) w)))
    (C2 : Hid (∀ w, Calls Try.prog 36 #[vR [ax, ay]] w (Gives (.tuple #[vN n, .int .i64 0]) w)))
    (C3 : Hid (∀ w, Calls Try.prog 40 #[vR [ax, ay]] w (Gives (.int .i64 0) w)))
    (C4 : Hid (∀ w, Calls Try.prog 16 #[vN ay] w (Gives (.bool true) w)))
    (C5 : Hid (∀ w, Calls Try.prog 36 #[vR [px, py]] w (Gives (.tuple #[vN b, .int .i64 0]) w)))
    (C6 : Hid (∀ w, Calls Try.prog 35 #[vN b] w (Gives (.tuple #[vR [px, py], .int .i64 0]) w)))
    (C7 : Hid (∀ w, Calls Try.prog 35 #[vN b2] w (Gives (.tuple #[vR [mx, my], .int .i64 0]) w)))
    (HZ : Hid (∀ w, (Op.equalIn 10000 23 (vN px) (vN 0)).run Try.prog w = .ok false w))
    (C8 : Hid (∀ w, Calls Try.prog 51 #[vR [px, py]] w (Gives (vR [mx, my]) w)))
    (HT : Hid (((enc b).getD 31 0).toNat = t)) (HU : Hid (bits .xor .u8 (t : Int) 128 = ((u : Nat) : Int))) (HU2 : Hid (u < 256)) (HS : Hid ((enc b).set 31 (UInt8.ofNat u) = enc b2)) :
    Calls Try.prog 8 #[vR [px, py], vN n] w (Gives (.bool true) w) := by
  have HF_0 : Hid (Below w.heap.size w w) := Lib.hid (Below.refl _ _)
  go_enter Try.func8, Try.ntmps8
  go_wp2_with (first | ((with_reducible show wpList _ _ _ (⟨some 2, .box 35 (.tmp 0), _, _, _, _⟩ :: _) _ _); go_must (refine wpList_box_row rfl 35 (.tmp 0) rfl (bcs (encs [px, py])).toArray rfl ?_; intro u29 ha29 hza29 hga29; have Ngp_29 : Hid (RAt u29 w.heap.size [px, py]) := Lib.hid (⟨_, ha29⟩); have HF_29 : Hid (Below w.heap.size w u29) := Lib.hid (HF_0.out.grown hga29 HF_0.out.size (by simp)); have HGE29 : Hid (w.heap.size ≤ w.heap.size) := Lib.hid HF_0.out.size; clear ha29 hza29 hga29 HF_0)) | ((with_reducible show wpList _ _ _ (⟨some 3, .box 22 (.tmp 1), _, _, _, _⟩ :: _) _ _); go_must (refine wpList_box_row rfl 22 (.tmp 1) rfl (bcs (enc n)).toArray rfl ?_; intro u30 ha30 hza30 hga30; have Ngp_30 := Lib.hid (Ngp_29.out.grown hga30 (by simp)); have Ngn_30 : Hid (RAt u30 u29.heap.size [n]) := Lib.hid (NAt.row ⟨_, ha30⟩); have HF_30 : Hid (Below w.heap.size w u30) := Lib.hid (HF_29.out.grown hga30 HF_29.out.size (by simp)); have HNE30_0 : Hid (w.heap.size ≠ u29.heap.size) := Lib.hid (by have := Ngp_29.out.lt; omega); have HGE30 : Hid (w.heap.size ≤ u29.heap.size) := Lib.hid HF_29.out.size; clear ha30 hza30 hga30 Ngp_29 HF_29)) | fail)
  generalize u29.heap.size = gn at *
  refine (C0.out _).mono ?_
  rintro e31 x31 ⟨rfl, hb31⟩
  have Ngp_31 := Lib.hid (Ngp_30.out.keep hb31)
  have Ngn_31 := Lib.hid (Ngn_30.out.keep hb31)
  have HF_31 : Hid (Below w.heap.size w x31) := Lib.hid (HF_30.out.trans (hb31.mono HF_30.out.size))
  clear hb31 Ngp_30 Ngn_30 HF_30
  go_wp2_with (first | ((with_reducible show wpList _ _ _ (⟨_, .load 22 (.tmp 3), _, _, _, _⟩ :: _) _ _); go_must (refine wpList_exec rfl (vN n) (exec_load22 (.tmp 3) rfl (gn) 0 0 rfl [n] n rfl Ngn_31.out rfl) ?_)) | fail)
  refine (C1.out _).mono ?_
  rintro e32 x32 ⟨rfl, hb32⟩
  have Ngp_32 := Lib.hid (Ngp_31.out.keep hb32)
  have Ngn_32 := Lib.hid (Ngn_31.out.keep hb32)
  have HF_32 : Hid (Below w.heap.size w x32) := Lib.hid (HF_31.out.trans (hb32.mono HF_31.out.size))
  clear hb32 Ngp_31 Ngn_31 HF_31
  go_wp2_with (first | ((with_reducible show wpList _ _ _ (⟨some 5, .alloc 35, _, _, _, _⟩ :: _) _ _); go_must (refine wpList_alloc_row rfl 35 rfl (.agg (zbs 64)) zero35 ?_; intro u33 ha33 hza33 hga33; have HA33 := Lib.hid ha33; have HZA33 := Lib.hid hza33; have HGA33 := Lib.hid hga33; clear ha33 hza33 hga33)) | ((with_reducible show wpList _ _ _ (⟨none, .store 35 (.tmp 5) (.tmp 19), _, _, _, _⟩ :: _) _ _); go_must (refine wpList_storeP rfl (.tmp 5) (.tmp 19) rfl (x32.heap.size) [0, 0] ax ay rfl rfl (zrow (k := 2) HA33.out) rfl ?_; intro y33 hr33 hg33 hz33; have Ngp_33 := Lib.hid ((Ngp_32.out.grown HGA33.out (by simp)).grown hg33 (by have := Ngp_32.out.lt; simp; omega)); have Ngn_33 := Lib.hid ((Ngn_32.out.grown HGA33.out (by simp)).grown hg33 (by have := Ngn_32.out.lt; simp; omega)); have Nga_33 : Hid (RAt y33 x32.heap.size [ax, ay]) := Lib.hid hr33; have HF_33 : Hid (Below w.heap.size w y33) := Lib.hid ((HF_32.out.grown HGA33.out HF_32.out.size (by simp)).grown hg33 (by have := HF_32.out.size; have := HZA33.out; omega) (fun r hr => by injection hr with hr; have := HF_32.out.size; omega)); have HNE33_1 : Hid (w.heap.size ≠ x32.heap.size) := Lib.hid (by have := Ngp_32.out.lt; omega); have HNE33_2 : Hid (gn ≠ x32.heap.size) := Lib.hid (by have := Ngn_32.out.lt; omega); have HGE33 : Hid (w.heap.size ≤ x32.heap.size) := Lib.hid HF_32.out.size; clear hr33 hg33 hz33 HA33 HZA33 HGA33 Ngp_32 Ngn_32 HF_32)) | ((with_reducible show wpList _ _ _ (⟨_, .load 35 (.tmp 5), _, _, _, _⟩ :: _) _ _); go_must (refine wpList_exec rfl (vR [ax, ay]) (exec_loadP (.tmp 5) rfl (x32.heap.size) ax ay rfl Nga_33.out) ?_)) | fail)
  generalize x32.heap.size = ga at *
  refine (C2.out _).mono ?_
  rintro e34 x34 ⟨rfl, hb34⟩
  have Ngp_34 := Lib.hid (Ngp_33.out.keep hb34)
  have Ngn_34 := Lib.hid (Ngn_33.out.keep hb34)
  have Nga_34 := Lib.hid (Nga_33.out.keep hb34)
  have HF_34 : Hid (Below w.heap.size w x34) := Lib.hid (HF_33.out.trans (hb34.mono HF_33.out.size))
  clear hb34 Ngp_33 Ngn_33 Nga_33 HF_33
  go_wp2_with (first | ((with_reducible show wpList _ _ _ (⟨some 7, .alloc 22, _, _, _, _⟩ :: _) _ _); go_must (refine wpList_alloc_row rfl 22 rfl (.agg (zbs 32)) zero22 ?_; intro u35 ha35 hza35 hga35; have HA35 := Lib.hid ha35; have HZA35 := Lib.hid hza35; have HGA35 := Lib.hid hga35; clear ha35 hza35 hga35)) | ((with_reducible show wpList _ _ _ (⟨none, .store 22 (.tmp 7) (.tmp 26), _, _, _, _⟩ :: _) _ _); go_must (refine wpList_store22 rfl (.tmp 7) (.tmp 26) rfl (x34.heap.size) 0 0 rfl [0] n rfl rfl (zrow (k := 1) HA35.out) (show 0 < 1 by omega) ?_; intro y35 hr35 hg35 hz35; have Ngp_35 := Lib.hid ((Ngp_34.out.grown HGA35.out (by simp)).grown hg35 (by have := Ngp_34.out.lt; simp; omega)); have Ngn_35 := Lib.hid ((Ngn_34.out.grown HGA35.out (by simp)).grown hg35 (by have := Ngn_34.out.lt; simp; omega)); have Nga_35 := Lib.hid ((Nga_34.out.grown HGA35.out (by simp)).grown hg35 (by have := Nga_34.out.lt; simp; omega)); have Ngb_35 : Hid (RAt y35 x34.heap.size [n]) := Lib.hid hr35; have HF_35 : Hid (Below w.heap.size w y35) := Lib.hid ((HF_34.out.grown HGA35.out HF_34.out.size (by simp)).grown hg35 (by have := HF_34.out.size; have := HZA35.out; omega) (fun r hr => by injection hr with hr; have := HF_34.out.size; omega)); have HNE35_3 : Hid (w.heap.size ≠ x34.heap.size) := Lib.hid (by have := Ngp_34.out.lt; omega); have HNE35_4 : Hid (gn ≠ x34.heap.size) := Lib.hid (by have := Ngn_34.out.lt; omega); have HNE35_5 : Hid (ga ≠ x34.heap.size) := Lib.hid (by have := Nga_34.out.lt; omega); have HGE35 : Hid (w.heap.size ≤ x34.heap.size) := Lib.hid HF_34.out.size; clear hr35 hg35 hz35 HA35 HZA35 HGA35 Ngp_34 Ngn_34 Nga_34 HF_34)) | ((with_reducible show wpList _ _ _ (⟨_, .load 22 (.tmp 7), _, _, _, _⟩ :: _) _ _); go_must (refine wpList_exec rfl (vN n) (exec_load22 (.tmp 7) rfl (x34.heap.size) 0 0 rfl [n] n rfl Ngb_35.out rfl) ?_)) | ((with_reducible show wpList _ _ _ (⟨_, .load 22 (.tmp 3), _, _, _, _⟩ :: _) _ _); go_must (refine wpList_exec rfl (vN n) (exec_load22 (.tmp 3) rfl (gn) 0 0 rfl [n] n rfl Ngn_35.out rfl) ?_)) | ((with_reducible show wpList _ _ _ (⟨_, .binOp .neq 22 (.tmp 31) (.tmp 32) 22, _, _, _, _⟩ :: _) _ _); go_must (refine wpList_exec rfl (.bool (!true)) (exec_neq22 (m := n) (n := n) (.tmp 31) (.tmp 32) rfl rfl rfl (eqN22_same n _)) ?_)) | ((with_reducible show wpList _ _ _ (⟨_, .load 35 (.tmp 5), _, _, _, _⟩ :: _) _ _); go_must (refine wpList_exec rfl (vR [ax, ay]) (exec_loadP (.tmp 5) rfl (ga) ax ay rfl Nga_35.out) ?_)) | fail)
  generalize x34.heap.size = gb at *
  refine (C3.out _).mono ?_
  rintro e36 x36 ⟨rfl, hb36⟩
  have Ngp_36 := Lib.hid (Ngp_35.out.keep hb36)
  have Ngn_36 := Lib.hid (Ngn_35.out.keep hb36)
  have Nga_36 := Lib.hid (Nga_35.out.keep hb36)
  have Ngb_36 := Lib.hid (Ngb_35.out.keep hb36)
  have HF_36 : Hid (Below w.heap.size w x36) := Lib.hid (HF_35.out.trans (hb36.mono HF_35.out.size))
  clear hb36 Ngp_35 Ngn_35 Nga_35 Ngb_35 HF_35
  go_wp2_with (first | ((with_reducible show wpList _ _ _ (⟨_, .load 23 (.tmp 41), _, _, _, _⟩ :: _) _ _); go_must (refine wpList_exec rfl (vN ay) (exec_loadF (.tmp 41) rfl (ga) 1 32 rfl [ax, ay] ay rfl Nga_36.out rfl) ?_)) | fail)
  refine (C4.out _).mono ?_
  rintro e37 x37 ⟨rfl, hb37⟩
  have Ngp_37 := Lib.hid (Ngp_36.out.keep hb37)
  have Ngn_37 := Lib.hid (Ngn_36.out.keep hb37)
  have Nga_37 := Lib.hid (Nga_36.out.keep hb37)
  have Ngb_37 := Lib.hid (Ngb_36.out.keep hb37)
  have HF_37 : Hid (Below w.heap.size w x37) := Lib.hid (HF_36.out.trans (hb37.mono HF_36.out.size))
  clear hb37 Ngp_36 Ngn_36 Nga_36 Ngb_36 HF_36
  go_wp2_with (first | ((with_reducible show wpList _ _ _ (⟨_, .load 35 (.tmp 2), _, _, _, _⟩ :: _) _ _); go_must (refine wpList_exec rfl (vR [px, py]) (exec_loadP (.tmp 2) rfl (w.heap.size) px py rfl Ngp_37.out) ?_)) | fail)
  refine (C5.out _).mono ?_
  rintro e38 x38 ⟨rfl, hb38⟩
  have Ngp_38 := Lib.hid (Ngp_37.out.keep hb38)
  have Ngn_38 := Lib.hid (Ngn_37.out.keep hb38)
  have Nga_38 := Lib.hid (Nga_37.out.keep hb38)
  have Ngb_38 := Lib.hid (Ngb_37.out.keep hb38)
  have HF_38 : Hid (Below w.heap.size w x38) := Lib.hid (HF_37.out.trans (hb38.mono HF_37.out.size))
  clear hb38 Ngp_37 Ngn_37 Nga_37 Ngb_37 HF_37
  go_wp2_with (first | ((with_reducible show wpList _ _ _ (⟨some 9, .alloc 22, _, _, _, _⟩ :: _) _ _); go_must (refine wpList_alloc_row rfl 22 rfl (.agg (zbs 32)) zero22 ?_; intro u39 ha39 hza39 hga39; have HA39 := Lib.hid ha39; have HZA39 := Lib.hid hza39; have HGA39 := Lib.hid hga39; clear ha39 hza39 hga39)) | ((with_reducible show wpList _ _ _ (⟨none, .store 22 (.tmp 9) (.tmp 49), _, _, _, _⟩ :: _) _ _); go_must (refine wpList_store22 rfl (.tmp 9) (.tmp 49) rfl (x38.heap.size) 0 0 rfl [0] b rfl rfl (zrow (k := 1) HA39.out) (show 0 < 1 by omega) ?_; intro y39 hr39 hg39 hz39; have Ngp_39 := Lib.hid ((Ngp_38.out.grown HGA39.out (by simp)).grown hg39 (by have := Ngp_38.out.lt; simp; omega)); have Ngn_39 := Lib.hid ((Ngn_38.out.grown HGA39.out (by simp)).grown hg39 (by have := Ngn_38.out.lt; simp; omega)); have Nga_39 := Lib.hid ((Nga_38.out.grown HGA39.out (by simp)).grown hg39 (by have := Nga_38.out.lt; simp; omega)); have Ngb_39 := Lib.hid ((Ngb_38.out.grown HGA39.out (by simp)).grown hg39 (by have := Ngb_38.out.lt; simp; omega)); have Ngc_39 : Hid (RAt y39 x38.heap.size [b]) := Lib.hid hr39; have HF_39 : Hid (Below w.heap.size w y39) := Lib.hid ((HF_38.out.grown HGA39.out HF_38.out.size (by simp)).grown hg39 (by have := HF_38.out.size; have := HZA39.out; omega) (fun r hr => by injection hr with hr; have := HF_38.out.size; omega)); have HNE39_6 : Hid (w.heap.size ≠ x38.heap.size) := Lib.hid (by have := Ngp_38.out.lt; omega); have HNE39_7 : Hid (gn ≠ x38.heap.size) := Lib.hid (by have := Ngn_38.out.lt; omega); have HNE39_8 : Hid (ga ≠ x38.heap.size) := Lib.hid (by have := Nga_38.out.lt; omega); have HNE39_9 : Hid (gb ≠ x38.heap.size) := Lib.hid (by have := Ngb_38.out.lt; omega); have HGE39 : Hid (w.heap.size ≤ x38.heap.size) := Lib.hid HF_38.out.size; clear hr39 hg39 hz39 HA39 HZA39 HGA39 Ngp_38 Ngn_38 Nga_38 Ngb_38 HF_38)) | ((with_reducible show wpList _ _ _ (⟨_, .load 22 (.tmp 9), _, _, _, _⟩ :: _) _ _); go_must (refine wpList_exec rfl (vN b) (exec_load22 (.tmp 9) rfl (x38.heap.size) 0 0 rfl [b] b rfl Ngc_39.out rfl) ?_)) | fail)
  generalize x38.heap.size = gc at *
  refine (C6.out _).mono ?_
  rintro e40 x40 ⟨rfl, hb40⟩
  have Ngp_40 := Lib.hid (Ngp_39.out.keep hb40)
  have Ngn_40 := Lib.hid (Ngn_39.out.keep hb40)
  have Nga_40 := Lib.hid (Nga_39.out.keep hb40)
  have Ngb_40 := Lib.hid (Ngb_39.out.keep hb40)
  have Ngc_40 := Lib.hid (Ngc_39.out.keep hb40)
  have HF_40 : Hid (Below w.heap.size w x40) := Lib.hid (HF_39.out.trans (hb40.mono HF_39.out.size))
  clear hb40 Ngp_39 Ngn_39 Nga_39 Ngb_39 Ngc_39 HF_39
  go_wp2_with (first | ((with_reducible show wpList _ _ _ (⟨some 10, .alloc 35, _, _, _, _⟩ :: _) _ _); go_must (refine wpList_alloc_row rfl 35 rfl (.agg (zbs 64)) zero35 ?_; intro u41 ha41 hza41 hga41; have HA41 := Lib.hid ha41; have HZA41 := Lib.hid hza41; have HGA41 := Lib.hid hga41; clear ha41 hza41 hga41)) | ((with_reducible show wpList _ _ _ (⟨none, .store 35 (.tmp 10) (.tmp 65), _, _, _, _⟩ :: _) _ _); go_must (refine wpList_storeP rfl (.tmp 10) (.tmp 65) rfl (x40.heap.size) [0, 0] px py rfl rfl (zrow (k := 2) HA41.out) rfl ?_; intro y41 hr41 hg41 hz41; have Ngp_41 := Lib.hid ((Ngp_40.out.grown HGA41.out (by simp)).grown hg41 (by have := Ngp_40.out.lt; simp; omega)); have Ngn_41 := Lib.hid ((Ngn_40.out.grown HGA41.out (by simp)).grown hg41 (by have := Ngn_40.out.lt; simp; omega)); have Nga_41 := Lib.hid ((Nga_40.out.grown HGA41.out (by simp)).grown hg41 (by have := Nga_40.out.lt; simp; omega)); have Ngb_41 := Lib.hid ((Ngb_40.out.grown HGA41.out (by simp)).grown hg41 (by have := Ngb_40.out.lt; simp; omega)); have Ngc_41 := Lib.hid ((Ngc_40.out.grown HGA41.out (by simp)).grown hg41 (by have := Ngc_40.out.lt; simp; omega)); have Ngd_41 : Hid (RAt y41 x40.heap.size [px, py]) := Lib.hid hr41; have HF_41 : Hid (Below w.heap.size w y41) := Lib.hid ((HF_40.out.grown HGA41.out HF_40.out.size (by simp)).grown hg41 (by have := HF_40.out.size; have := HZA41.out; omega) (fun r hr => by injection hr with hr; have := HF_40.out.size; omega)); have HNE41_10 : Hid (w.heap.size ≠ x40.heap.size) := Lib.hid (by have := Ngp_40.out.lt; omega); have HNE41_11 : Hid (gn ≠ x40.heap.size) := Lib.hid (by have := Ngn_40.out.lt; omega); have HNE41_12 : Hid (ga ≠ x40.heap.size) := Lib.hid (by have := Nga_40.out.lt; omega); have HNE41_13 : Hid (gb ≠ x40.heap.size) := Lib.hid (by have := Ngb_40.out.lt; omega); have HNE41_14 : Hid (gc ≠ x40.heap.size) := Lib.hid (by have := Ngc_40.out.lt; omega); have HGE41 : Hid (w.heap.size ≤ x40.heap.size) := Lib.hid HF_40.out.size; have cb := (show BAt _ gc (enc b) from ⟨enc_len b, Ngc_41.out.num⟩).cell 31 (by omega); rw [HT.out] at cb; clear hr41 hg41 hz41 HA41 HZA41 HGA41 Ngp_40 Ngn_40 Nga_40 Ngb_40 Ngc_40 HF_40)) | ((with_reducible show wpList _ _ _ (⟨none, .store 5 (.tmp 70) (.tmp 69), _, _, _, _⟩ :: _) _ _); go_must (obtain ⟨tb42, htb42⟩ := Ngc_41.out.num; refine wpList_store_one rfl 5 (.tmp 70) (.tmp 69) rfl gc 31 rfl .u8 _ rfl tb42 _ htb42 size5 (by simp only [List.size_toArray, bcs_enc_len]; omega) ?_; intro y42 hh42 hg42 hz42; rw [HU.out, byte_val u HU2.out, bcs_put, HS.out] at hh42; have hr42 : RAt y42 gc [b2] := NAt.row ⟨_, hh42⟩; have Ngp_42 := Lib.hid (Ngp_41.out.grown hg42 (by have := HNE39_6.out; simp; omega)); have Ngn_42 := Lib.hid (Ngn_41.out.grown hg42 (by have := HNE39_7.out; simp; omega)); have Nga_42 := Lib.hid (Nga_41.out.grown hg42 (by have := HNE39_8.out; simp; omega)); have Ngb_42 := Lib.hid (Ngb_41.out.grown hg42 (by have := HNE39_9.out; simp; omega)); have Ngc_42 : Hid (RAt y42 gc [b2]) := Lib.hid hr42; have Ngd_42 := Lib.hid (Ngd_41.out.grown hg42 (by have := HNE41_14.out; simp; omega)); have HF_42 : Hid (Below w.heap.size w y42) := Lib.hid (HF_41.out.grown hg42 HF_41.out.size (fun r hr => by injection hr with hr; have := HGE39.out; omega)); clear hr42 hh42 hg42 hz42 Ngp_41 Ngn_41 Nga_41 Ngb_41 Ngc_41 Ngd_41 HF_41)) | ((with_reducible show wpList _ _ _ (⟨_, .load 22 (.tmp 9), _, _, _, _⟩ :: _) _ _); go_must (refine wpList_exec rfl (vN b2) (exec_load22 (.tmp 9) rfl (gc) 0 0 rfl [b2] b2 rfl Ngc_42.out rfl) ?_)) | fail)
  generalize x40.heap.size = gd at *
  refine (C7.out _).mono ?_
  rintro e43 x43 ⟨rfl, hb43⟩
  have Ngp_43 := Lib.hid (Ngp_42.out.keep hb43)
  have Ngn_43 := Lib.hid (Ngn_42.out.keep hb43)
  have Nga_43 := Lib.hid (Nga_42.out.keep hb43)
  have Ngb_43 := Lib.hid (Ngb_42.out.keep hb43)
  have Ngc_43 := Lib.hid (Ngc_42.out.keep hb43)
  have Ngd_43 := Lib.hid (Ngd_42.out.keep hb43)
  have HF_43 : Hid (Below w.heap.size w x43) := Lib.hid (HF_42.out.trans (hb43.mono HF_42.out.size))
  clear hb43 Ngp_42 Ngn_42 Nga_42 Ngb_42 Ngc_42 Ngd_42 HF_42
  go_wp2_with (first | ((with_reducible show wpList _ _ _ (⟨some 12, .alloc 35, _, _, _, _⟩ :: _) _ _); go_must (refine wpList_alloc_row rfl 35 rfl (.agg (zbs 64)) zero35 ?_; intro u44 ha44 hza44 hga44; have HA44 := Lib.hid ha44; have HZA44 := Lib.hid hza44; have HGA44 := Lib.hid hga44; clear ha44 hza44 hga44)) | ((with_reducible show wpList _ _ _ (⟨none, .store 35 (.tmp 12) (.tmp 74), _, _, _, _⟩ :: _) _ _); go_must (refine wpList_storeP rfl (.tmp 12) (.tmp 74) rfl (x43.heap.size) [0, 0] mx my rfl rfl (zrow (k := 2) HA44.out) rfl ?_; intro y44 hr44 hg44 hz44; have Ngp_44 := Lib.hid ((Ngp_43.out.grown HGA44.out (by simp)).grown hg44 (by have := Ngp_43.out.lt; simp; omega)); have Ngn_44 := Lib.hid ((Ngn_43.out.grown HGA44.out (by simp)).grown hg44 (by have := Ngn_43.out.lt; simp; omega)); have Nga_44 := Lib.hid ((Nga_43.out.grown HGA44.out (by simp)).grown hg44 (by have := Nga_43.out.lt; simp; omega)); have Ngb_44 := Lib.hid ((Ngb_43.out.grown HGA44.out (by simp)).grown hg44 (by have := Ngb_43.out.lt; simp; omega)); have Ngc_44 := Lib.hid ((Ngc_43.out.grown HGA44.out (by simp)).grown hg44 (by have := Ngc_43.out.lt; simp; omega)); have Ngd_44 := Lib.hid ((Ngd_43.out.grown HGA44.out (by simp)).grown hg44 (by have := Ngd_43.out.lt; simp; omega)); have Nge_44 : Hid (RAt y44 x43.heap.size [mx, my]) := Lib.hid hr44; have HF_44 : Hid (Below w.heap.size w y44) := Lib.hid ((HF_43.out.grown HGA44.out HF_43.out.size (by simp)).grown hg44 (by have := HF_43.out.size; have := HZA44.out; omega) (fun r hr => by injection hr with hr; have := HF_43.out.size; omega)); have HNE44_15 : Hid (w.heap.size ≠ x43.heap.size) := Lib.hid (by have := Ngp_43.out.lt; omega); have HNE44_16 : Hid (gn ≠ x43.heap.size) := Lib.hid (by have := Ngn_43.out.lt; omega); have HNE44_17 : Hid (ga ≠ x43.heap.size) := Lib.hid (by have := Nga_43.out.lt; omega); have HNE44_18 : Hid (gb ≠ x43.heap.size) := Lib.hid (by have := Ngb_43.out.lt; omega); have HNE44_19 : Hid (gc ≠ x43.heap.size) := Lib.hid (by have := Ngc_43.out.lt; omega); have HNE44_20 : Hid (gd ≠ x43.heap.size) := Lib.hid (by have := Ngd_43.out.lt; omega); have HGE44 : Hid (w.heap.size ≤ x43.heap.size) := Lib.hid HF_43.out.size; clear hr44 hg44 hz44 HA44 HZA44 HGA44 Ngp_43 Ngn_43 Nga_43 Ngb_43 Ngc_43 Ngd_43 HF_43)) | ((with_reducible show wpList _ _ _ (⟨_, .load 35 (.tmp 10), _, _, _, _⟩ :: _) _ _); go_must (refine wpList_exec rfl (vR [px, py]) (exec_loadP (.tmp 10) rfl (gd) px py rfl Ngd_44.out) ?_)) | ((with_reducible show wpList _ _ _ (⟨_, .load 35 (.tmp 2), _, _, _, _⟩ :: _) _ _); go_must (refine wpList_exec rfl (vR [px, py]) (exec_loadP (.tmp 2) rfl (w.heap.size) px py rfl Ngp_44.out) ?_)) | ((with_reducible show wpList _ _ _ (⟨_, .binOp .neq 35 (.tmp 79) (.tmp 80) 35, _, _, _, _⟩ :: _) _ _); go_must (refine wpList_exec rfl (.bool (!true)) (exec_neqP (m := px) (n := py) (m' := px) (n' := py) (.tmp 79) (.tmp 80) rfl rfl rfl (eqP_same _ _ _)) ?_)) | ((with_reducible show wpList _ _ _ (⟨_, .load 23 (.tmp 83), _, _, _, _⟩ :: _) _ _); go_must (refine wpList_exec rfl (vN px) (exec_loadF (.tmp 83) rfl (w.heap.size) 0 0 rfl [px, py] px rfl Ngp_44.out rfl) ?_)) | ((with_reducible show wpList _ _ _ (⟨_, .build 23 #[], _, _, _, _⟩ :: _) _ _); go_must (refine wpList_exec rfl (vN 0) (exec_build0 rfl) ?_)) | ((with_reducible show wpList _ _ _ (⟨_, .binOp .eql 23 (.tmp 84) (.tmp 85) 23, _, _, _, _⟩ :: _) _ _); go_must (refine wpList_exec rfl (.bool false) (exec_eq23 (m := px) (n := 0) (.tmp 84) (.tmp 85) rfl rfl rfl (HZ.out _)) ?_)) | fail)
  generalize x43.heap.size = ge at *
  refine region_wq (by kernel_rfl) (by kernel_rfl) ?_
  refine wq_move rfl (.tmp 13) rfl (.int .i64 0) rfl ?_
  simp only [Act.put, List.setIfInBounds_toArray, List.set_cons_zero, List.set_cons_succ]
  refine wq_bin (P := Try.prog) rfl .eql 36 36 (.tmp 89) (.const (.int .i64 0)) rfl (.int .i64 0) (.int .i64 0) (.bool true) rfl rfl (fun _ => rfl) (run_eq36 0 0 true rfl) ?_
  simp only [Act.put, List.setIfInBounds_toArray, List.set_cons_zero, List.set_cons_succ]
  refine wq_move rfl (.tmp 90) rfl (.bool true) rfl ?_
  simp only [Act.put, List.setIfInBounds_toArray, List.set_cons_zero, List.set_cons_succ]
  refine wq_loadP rfl (.tmp 12) rfl (ge) mx my rfl Nge_44.out ?_
  simp only [Act.put, List.setIfInBounds_toArray, List.set_cons_zero, List.set_cons_succ]
  refine wq_loadP rfl (.tmp 2) rfl (w.heap.size) px py rfl Ngp_44.out ?_
  simp only [Act.put, List.setIfInBounds_toArray, List.set_cons_zero, List.set_cons_succ]
  refine wq_call rfl 51 [.tmp 93] #[35] rfl [vR [px, py]] rfl (CG51 _) (vR [mx, my]) C8.out ?_
  simp only [Act.put, List.setIfInBounds_toArray, List.set_cons_zero, List.set_cons_succ]
  refine wq_eqP rfl (.tmp 92) (.tmp 94) rfl mx my mx my rfl rfl true (eqP_same _ _) ?_
  simp only [Act.put, List.setIfInBounds_toArray, List.set_cons_zero, List.set_cons_succ]
  refine wq_pick rfl (.tmp 91) (.tmp 95) (.const (.bool false)) rfl true rfl (.bool true) rfl ?_
  simp only [Act.put, List.setIfInBounds_toArray, List.set_cons_zero, List.set_cons_succ]
  refine wq_assign rfl (.tmp 96) rfl (.bool true) rfl ?_
  simp only [Act.put, List.setIfInBounds_toArray, List.set_cons_zero, List.set_cons_succ]
  refine wq_nil ?_
  intro W hb
  have HBW : Hid (Below w.heap.size w W) := HF_44.out.trans (hb.mono HF_44.out.size)
  clear hb HF_44 Ngp_44 Ngn_44 Nga_44 Ngb_44 Ngc_44 Ngd_44 Nge_44
  go_wp2
  go_ret
  exact ⟨rfl, HBW.out⟩

set_option maxHeartbeats 8000000 in
set_option maxRecDepth 100000 in
theorem back_no_bad (px py n ax ay b b2 t u mx my : Nat) (w : World)
    (C0 : Hid (∀ w, Calls Try.prog 38 #[] w (Gives (.bool true) w)))
    (C1 : Hid (∀ w, Calls Try.prog 35 #[vN n] w (Gives (.tuple #[vR [0, 0], .int .i64 4]) w)))
    (C5 : Hid (∀ w, Calls Try.prog 36 #[vR [px, py]] w (Gives (.tuple #[vN 0, .int .i64 2]) w)))
    (C6 : Hid (∀ w, Calls Try.prog 40 #[vR [px, py]] w (Gives (.int .i64 2) w))) :
    Calls Try.prog 8 #[vR [px, py], vN n] w (Gives (.bool true) w) := by
  have HF_0 : Hid (Below w.heap.size w w) := Lib.hid (Below.refl _ _)
  go_enter Try.func8, Try.ntmps8
  go_wp2_with (first | ((with_reducible show wpList _ _ _ (⟨some 2, .box 35 (.tmp 0), _, _, _, _⟩ :: _) _ _); go_must (refine wpList_box_row rfl 35 (.tmp 0) rfl (bcs (encs [px, py])).toArray rfl ?_; intro u45 ha45 hza45 hga45; have Ngp_45 : Hid (RAt u45 w.heap.size [px, py]) := Lib.hid (⟨_, ha45⟩); have HF_45 : Hid (Below w.heap.size w u45) := Lib.hid (HF_0.out.grown hga45 HF_0.out.size (by simp)); have HGE45 : Hid (w.heap.size ≤ w.heap.size) := Lib.hid HF_0.out.size; clear ha45 hza45 hga45 HF_0)) | ((with_reducible show wpList _ _ _ (⟨some 3, .box 22 (.tmp 1), _, _, _, _⟩ :: _) _ _); go_must (refine wpList_box_row rfl 22 (.tmp 1) rfl (bcs (enc n)).toArray rfl ?_; intro u46 ha46 hza46 hga46; have Ngp_46 := Lib.hid (Ngp_45.out.grown hga46 (by simp)); have Ngn_46 : Hid (RAt u46 u45.heap.size [n]) := Lib.hid (NAt.row ⟨_, ha46⟩); have HF_46 : Hid (Below w.heap.size w u46) := Lib.hid (HF_45.out.grown hga46 HF_45.out.size (by simp)); have HNE46_0 : Hid (w.heap.size ≠ u45.heap.size) := Lib.hid (by have := Ngp_45.out.lt; omega); have HGE46 : Hid (w.heap.size ≤ u45.heap.size) := Lib.hid HF_45.out.size; clear ha46 hza46 hga46 Ngp_45 HF_45)) | fail)
  generalize u45.heap.size = gn at *
  refine (C0.out _).mono ?_
  rintro e47 x47 ⟨rfl, hb47⟩
  have Ngp_47 := Lib.hid (Ngp_46.out.keep hb47)
  have Ngn_47 := Lib.hid (Ngn_46.out.keep hb47)
  have HF_47 : Hid (Below w.heap.size w x47) := Lib.hid (HF_46.out.trans (hb47.mono HF_46.out.size))
  clear hb47 Ngp_46 Ngn_46 HF_46
  go_wp2_with (first | ((with_reducible show wpList _ _ _ (⟨_, .load 22 (.tmp 3), _, _, _, _⟩ :: _) _ _); go_must (refine wpList_exec rfl (vN n) (exec_load22 (.tmp 3) rfl (gn) 0 0 rfl [n] n rfl Ngn_47.out rfl) ?_)) | fail)
  refine (C1.out _).mono ?_
  rintro e48 x48 ⟨rfl, hb48⟩
  have Ngp_48 := Lib.hid (Ngp_47.out.keep hb48)
  have Ngn_48 := Lib.hid (Ngn_47.out.keep hb48)
  have HF_48 : Hid (Below w.heap.size w x48) := Lib.hid (HF_47.out.trans (hb48.mono HF_47.out.size))
  clear hb48 Ngp_47 Ngn_47 HF_47
  go_wp2_with (first | ((with_reducible show wpList _ _ _ (⟨some 5, .alloc 35, _, _, _, _⟩ :: _) _ _); go_must (refine wpList_alloc_row rfl 35 rfl (.agg (zbs 64)) zero35 ?_; intro u49 ha49 hza49 hga49; have HA49 := Lib.hid ha49; have HZA49 := Lib.hid hza49; have HGA49 := Lib.hid hga49; clear ha49 hza49 hga49)) | ((with_reducible show wpList _ _ _ (⟨none, .store 35 (.tmp 5) (.tmp 19), _, _, _, _⟩ :: _) _ _); go_must (refine wpList_storeP rfl (.tmp 5) (.tmp 19) rfl (x48.heap.size) [0, 0] 0 0 rfl rfl (zrow (k := 2) HA49.out) rfl ?_; intro y49 hr49 hg49 hz49; have Ngp_49 := Lib.hid ((Ngp_48.out.grown HGA49.out (by simp)).grown hg49 (by have := Ngp_48.out.lt; simp; omega)); have Ngn_49 := Lib.hid ((Ngn_48.out.grown HGA49.out (by simp)).grown hg49 (by have := Ngn_48.out.lt; simp; omega)); have Nga_49 : Hid (RAt y49 x48.heap.size [0, 0]) := Lib.hid hr49; have HF_49 : Hid (Below w.heap.size w y49) := Lib.hid ((HF_48.out.grown HGA49.out HF_48.out.size (by simp)).grown hg49 (by have := HF_48.out.size; have := HZA49.out; omega) (fun r hr => by injection hr with hr; have := HF_48.out.size; omega)); have HNE49_1 : Hid (w.heap.size ≠ x48.heap.size) := Lib.hid (by have := Ngp_48.out.lt; omega); have HNE49_2 : Hid (gn ≠ x48.heap.size) := Lib.hid (by have := Ngn_48.out.lt; omega); have HGE49 : Hid (w.heap.size ≤ x48.heap.size) := Lib.hid HF_48.out.size; clear hr49 hg49 hz49 HA49 HZA49 HGA49 Ngp_48 Ngn_48 HF_48)) | ((with_reducible show wpList _ _ _ (⟨_, .load 35 (.tmp 2), _, _, _, _⟩ :: _) _ _); go_must (refine wpList_exec rfl (vR [px, py]) (exec_loadP (.tmp 2) rfl (w.heap.size) px py rfl Ngp_49.out) ?_)) | fail)
  generalize x48.heap.size = ga at *
  refine (C5.out _).mono ?_
  rintro e50 x50 ⟨rfl, hb50⟩
  have Ngp_50 := Lib.hid (Ngp_49.out.keep hb50)
  have Ngn_50 := Lib.hid (Ngn_49.out.keep hb50)
  have Nga_50 := Lib.hid (Nga_49.out.keep hb50)
  have HF_50 : Hid (Below w.heap.size w x50) := Lib.hid (HF_49.out.trans (hb50.mono HF_49.out.size))
  clear hb50 Ngp_49 Ngn_49 Nga_49 HF_49
  go_wp2_with (first | ((with_reducible show wpList _ _ _ (⟨some 9, .alloc 22, _, _, _, _⟩ :: _) _ _); go_must (refine wpList_alloc_row rfl 22 rfl (.agg (zbs 32)) zero22 ?_; intro u51 ha51 hza51 hga51; have HA51 := Lib.hid ha51; have HZA51 := Lib.hid hza51; have HGA51 := Lib.hid hga51; clear ha51 hza51 hga51)) | ((with_reducible show wpList _ _ _ (⟨none, .store 22 (.tmp 9) (.tmp 49), _, _, _, _⟩ :: _) _ _); go_must (refine wpList_store22 rfl (.tmp 9) (.tmp 49) rfl (x50.heap.size) 0 0 rfl [0] 0 rfl rfl (zrow (k := 1) HA51.out) (show 0 < 1 by omega) ?_; intro y51 hr51 hg51 hz51; have Ngp_51 := Lib.hid ((Ngp_50.out.grown HGA51.out (by simp)).grown hg51 (by have := Ngp_50.out.lt; simp; omega)); have Ngn_51 := Lib.hid ((Ngn_50.out.grown HGA51.out (by simp)).grown hg51 (by have := Ngn_50.out.lt; simp; omega)); have Nga_51 := Lib.hid ((Nga_50.out.grown HGA51.out (by simp)).grown hg51 (by have := Nga_50.out.lt; simp; omega)); have Ngc_51 : Hid (RAt y51 x50.heap.size [0]) := Lib.hid hr51; have HF_51 : Hid (Below w.heap.size w y51) := Lib.hid ((HF_50.out.grown HGA51.out HF_50.out.size (by simp)).grown hg51 (by have := HF_50.out.size; have := HZA51.out; omega) (fun r hr => by injection hr with hr; have := HF_50.out.size; omega)); have HNE51_3 : Hid (w.heap.size ≠ x50.heap.size) := Lib.hid (by have := Ngp_50.out.lt; omega); have HNE51_4 : Hid (gn ≠ x50.heap.size) := Lib.hid (by have := Ngn_50.out.lt; omega); have HNE51_5 : Hid (ga ≠ x50.heap.size) := Lib.hid (by have := Nga_50.out.lt; omega); have HGE51 : Hid (w.heap.size ≤ x50.heap.size) := Lib.hid HF_50.out.size; clear hr51 hg51 hz51 HA51 HZA51 HGA51 Ngp_50 Ngn_50 Nga_50 HF_50)) | ((with_reducible show wpList _ _ _ (⟨_, .load 35 (.tmp 2), _, _, _, _⟩ :: _) _ _); go_must (refine wpList_exec rfl (vR [px, py]) (exec_loadP (.tmp 2) rfl (w.heap.size) px py rfl Ngp_51.out) ?_)) | fail)
  generalize x50.heap.size = gc at *
  refine (C6.out _).mono ?_
  rintro e52 x52 ⟨rfl, hb52⟩
  have Ngp_52 := Lib.hid (Ngp_51.out.keep hb52)
  have Ngn_52 := Lib.hid (Ngn_51.out.keep hb52)
  have Nga_52 := Lib.hid (Nga_51.out.keep hb52)
  have Ngc_52 := Lib.hid (Ngc_51.out.keep hb52)
  have HF_52 : Hid (Below w.heap.size w x52) := Lib.hid (HF_51.out.trans (hb52.mono HF_51.out.size))
  clear hb52 Ngp_51 Ngn_51 Nga_51 Ngc_51 HF_51
  go_wp2_with (first | ((with_reducible show wpList _ _ _ (⟨_, .load 22 (.tmp 9), _, _, _, _⟩ :: _) _ _); go_must (refine wpList_exec rfl (vN 0) (exec_load22 (.tmp 9) rfl (gc) 0 0 rfl [0] 0 rfl Ngc_52.out rfl) ?_)) | ((with_reducible show wpList _ _ _ (⟨_, .build 22 #[], _, _, _, _⟩ :: _) _ _); go_must (refine wpList_exec rfl (vN 0) (exec_buildc rfl (by kernel_rfl)) ?_)) | ((with_reducible show wpList _ _ _ (⟨_, .binOp .eql 22 (.tmp 58) (.tmp 59) 22, _, _, _, _⟩ :: _) _ _); go_must (refine wpList_exec rfl (.bool true) (exec_eq22 (m := 0) (n := 0) (.tmp 58) (.tmp 59) rfl rfl rfl (eqN22_same 0 _)) ?_)) | fail)
  go_ret
  exact ⟨rfl, HF_52.out⟩

set_option maxHeartbeats 8000000 in
set_option maxRecDepth 100000 in
theorem back_no_zero (px py n ax ay b b2 t u mx my : Nat) (w : World)
    (C0 : Hid (∀ w, Calls Try.prog 38 #[] w (Gives (.bool true) w)))
    (C1 : Hid (∀ w, Calls Try.prog 35 #[vN n] w (Gives (.tuple #[vR [0, 0], .int .i64 4]) w)))
    (C5 : Hid (∀ w, Calls Try.prog 36 #[vR [px, py]] w (Gives (.tuple #[vN b, .int .i64 0]) w)))
    (C6 : Hid (∀ w, Calls Try.prog 35 #[vN b] w (Gives (.tuple #[vR [px, py], .int .i64 0]) w)))
    (C7 : Hid (∀ w, Calls Try.prog 35 #[vN b2] w (Gives (.tuple #[vR [0, 0], .int .i64 4]) w)))
    (HZ : Hid (∀ w, (Op.equalIn 10000 23 (vN px) (vN 0)).run Try.prog w = .ok true w))
    (HT : Hid (((enc b).getD 31 0).toNat = t)) (HU : Hid (bits .xor .u8 (t : Int) 128 = ((u : Nat) : Int))) (HU2 : Hid (u < 256)) (HS : Hid ((enc b).set 31 (UInt8.ofNat u) = enc b2)) :
    Calls Try.prog 8 #[vR [px, py], vN n] w (Gives (.bool true) w) := by
  have HF_0 : Hid (Below w.heap.size w w) := Lib.hid (Below.refl _ _)
  go_enter Try.func8, Try.ntmps8
  go_wp2_with (first | ((with_reducible show wpList _ _ _ (⟨some 2, .box 35 (.tmp 0), _, _, _, _⟩ :: _) _ _); go_must (refine wpList_box_row rfl 35 (.tmp 0) rfl (bcs (encs [px, py])).toArray rfl ?_; intro u53 ha53 hza53 hga53; have Ngp_53 : Hid (RAt u53 w.heap.size [px, py]) := Lib.hid (⟨_, ha53⟩); have HF_53 : Hid (Below w.heap.size w u53) := Lib.hid (HF_0.out.grown hga53 HF_0.out.size (by simp)); have HGE53 : Hid (w.heap.size ≤ w.heap.size) := Lib.hid HF_0.out.size; clear ha53 hza53 hga53 HF_0)) | ((with_reducible show wpList _ _ _ (⟨some 3, .box 22 (.tmp 1), _, _, _, _⟩ :: _) _ _); go_must (refine wpList_box_row rfl 22 (.tmp 1) rfl (bcs (enc n)).toArray rfl ?_; intro u54 ha54 hza54 hga54; have Ngp_54 := Lib.hid (Ngp_53.out.grown hga54 (by simp)); have Ngn_54 : Hid (RAt u54 u53.heap.size [n]) := Lib.hid (NAt.row ⟨_, ha54⟩); have HF_54 : Hid (Below w.heap.size w u54) := Lib.hid (HF_53.out.grown hga54 HF_53.out.size (by simp)); have HNE54_0 : Hid (w.heap.size ≠ u53.heap.size) := Lib.hid (by have := Ngp_53.out.lt; omega); have HGE54 : Hid (w.heap.size ≤ u53.heap.size) := Lib.hid HF_53.out.size; clear ha54 hza54 hga54 Ngp_53 HF_53)) | fail)
  generalize u53.heap.size = gn at *
  refine (C0.out _).mono ?_
  rintro e55 x55 ⟨rfl, hb55⟩
  have Ngp_55 := Lib.hid (Ngp_54.out.keep hb55)
  have Ngn_55 := Lib.hid (Ngn_54.out.keep hb55)
  have HF_55 : Hid (Below w.heap.size w x55) := Lib.hid (HF_54.out.trans (hb55.mono HF_54.out.size))
  clear hb55 Ngp_54 Ngn_54 HF_54
  go_wp2_with (first | ((with_reducible show wpList _ _ _ (⟨_, .load 22 (.tmp 3), _, _, _, _⟩ :: _) _ _); go_must (refine wpList_exec rfl (vN n) (exec_load22 (.tmp 3) rfl (gn) 0 0 rfl [n] n rfl Ngn_55.out rfl) ?_)) | fail)
  refine (C1.out _).mono ?_
  rintro e56 x56 ⟨rfl, hb56⟩
  have Ngp_56 := Lib.hid (Ngp_55.out.keep hb56)
  have Ngn_56 := Lib.hid (Ngn_55.out.keep hb56)
  have HF_56 : Hid (Below w.heap.size w x56) := Lib.hid (HF_55.out.trans (hb56.mono HF_55.out.size))
  clear hb56 Ngp_55 Ngn_55 HF_55
  go_wp2_with (first | ((with_reducible show wpList _ _ _ (⟨some 5, .alloc 35, _, _, _, _⟩ :: _) _ _); go_must (refine wpList_alloc_row rfl 35 rfl (.agg (zbs 64)) zero35 ?_; intro u57 ha57 hza57 hga57; have HA57 := Lib.hid ha57; have HZA57 := Lib.hid hza57; have HGA57 := Lib.hid hga57; clear ha57 hza57 hga57)) | ((with_reducible show wpList _ _ _ (⟨none, .store 35 (.tmp 5) (.tmp 19), _, _, _, _⟩ :: _) _ _); go_must (refine wpList_storeP rfl (.tmp 5) (.tmp 19) rfl (x56.heap.size) [0, 0] 0 0 rfl rfl (zrow (k := 2) HA57.out) rfl ?_; intro y57 hr57 hg57 hz57; have Ngp_57 := Lib.hid ((Ngp_56.out.grown HGA57.out (by simp)).grown hg57 (by have := Ngp_56.out.lt; simp; omega)); have Ngn_57 := Lib.hid ((Ngn_56.out.grown HGA57.out (by simp)).grown hg57 (by have := Ngn_56.out.lt; simp; omega)); have Nga_57 : Hid (RAt y57 x56.heap.size [0, 0]) := Lib.hid hr57; have HF_57 : Hid (Below w.heap.size w y57) := Lib.hid ((HF_56.out.grown HGA57.out HF_56.out.size (by simp)).grown hg57 (by have := HF_56.out.size; have := HZA57.out; omega) (fun r hr => by injection hr with hr; have := HF_56.out.size; omega)); have HNE57_1 : Hid (w.heap.size ≠ x56.heap.size) := Lib.hid (by have := Ngp_56.out.lt; omega); have HNE57_2 : Hid (gn ≠ x56.heap.size) := Lib.hid (by have := Ngn_56.out.lt; omega); have HGE57 : Hid (w.heap.size ≤ x56.heap.size) := Lib.hid HF_56.out.size; clear hr57 hg57 hz57 HA57 HZA57 HGA57 Ngp_56 Ngn_56 HF_56)) | ((with_reducible show wpList _ _ _ (⟨_, .load 35 (.tmp 2), _, _, _, _⟩ :: _) _ _); go_must (refine wpList_exec rfl (vR [px, py]) (exec_loadP (.tmp 2) rfl (w.heap.size) px py rfl Ngp_57.out) ?_)) | fail)
  generalize x56.heap.size = ga at *
  refine (C5.out _).mono ?_
  rintro e58 x58 ⟨rfl, hb58⟩
  have Ngp_58 := Lib.hid (Ngp_57.out.keep hb58)
  have Ngn_58 := Lib.hid (Ngn_57.out.keep hb58)
  have Nga_58 := Lib.hid (Nga_57.out.keep hb58)
  have HF_58 : Hid (Below w.heap.size w x58) := Lib.hid (HF_57.out.trans (hb58.mono HF_57.out.size))
  clear hb58 Ngp_57 Ngn_57 Nga_57 HF_57
  go_wp2_with (first | ((with_reducible show wpList _ _ _ (⟨some 9, .alloc 22, _, _, _, _⟩ :: _) _ _); go_must (refine wpList_alloc_row rfl 22 rfl (.agg (zbs 32)) zero22 ?_; intro u59 ha59 hza59 hga59; have HA59 := Lib.hid ha59; have HZA59 := Lib.hid hza59; have HGA59 := Lib.hid hga59; clear ha59 hza59 hga59)) | ((with_reducible show wpList _ _ _ (⟨none, .store 22 (.tmp 9) (.tmp 49), _, _, _, _⟩ :: _) _ _); go_must (refine wpList_store22 rfl (.tmp 9) (.tmp 49) rfl (x58.heap.size) 0 0 rfl [0] b rfl rfl (zrow (k := 1) HA59.out) (show 0 < 1 by omega) ?_; intro y59 hr59 hg59 hz59; have Ngp_59 := Lib.hid ((Ngp_58.out.grown HGA59.out (by simp)).grown hg59 (by have := Ngp_58.out.lt; simp; omega)); have Ngn_59 := Lib.hid ((Ngn_58.out.grown HGA59.out (by simp)).grown hg59 (by have := Ngn_58.out.lt; simp; omega)); have Nga_59 := Lib.hid ((Nga_58.out.grown HGA59.out (by simp)).grown hg59 (by have := Nga_58.out.lt; simp; omega)); have Ngc_59 : Hid (RAt y59 x58.heap.size [b]) := Lib.hid hr59; have HF_59 : Hid (Below w.heap.size w y59) := Lib.hid ((HF_58.out.grown HGA59.out HF_58.out.size (by simp)).grown hg59 (by have := HF_58.out.size; have := HZA59.out; omega) (fun r hr => by injection hr with hr; have := HF_58.out.size; omega)); have HNE59_3 : Hid (w.heap.size ≠ x58.heap.size) := Lib.hid (by have := Ngp_58.out.lt; omega); have HNE59_4 : Hid (gn ≠ x58.heap.size) := Lib.hid (by have := Ngn_58.out.lt; omega); have HNE59_5 : Hid (ga ≠ x58.heap.size) := Lib.hid (by have := Nga_58.out.lt; omega); have HGE59 : Hid (w.heap.size ≤ x58.heap.size) := Lib.hid HF_58.out.size; clear hr59 hg59 hz59 HA59 HZA59 HGA59 Ngp_58 Ngn_58 Nga_58 HF_58)) | ((with_reducible show wpList _ _ _ (⟨_, .load 22 (.tmp 9), _, _, _, _⟩ :: _) _ _); go_must (refine wpList_exec rfl (vN b) (exec_load22 (.tmp 9) rfl (x58.heap.size) 0 0 rfl [b] b rfl Ngc_59.out rfl) ?_)) | fail)
  generalize x58.heap.size = gc at *
  refine (C6.out _).mono ?_
  rintro e60 x60 ⟨rfl, hb60⟩
  have Ngp_60 := Lib.hid (Ngp_59.out.keep hb60)
  have Ngn_60 := Lib.hid (Ngn_59.out.keep hb60)
  have Nga_60 := Lib.hid (Nga_59.out.keep hb60)
  have Ngc_60 := Lib.hid (Ngc_59.out.keep hb60)
  have HF_60 : Hid (Below w.heap.size w x60) := Lib.hid (HF_59.out.trans (hb60.mono HF_59.out.size))
  clear hb60 Ngp_59 Ngn_59 Nga_59 Ngc_59 HF_59
  go_wp2_with (first | ((with_reducible show wpList _ _ _ (⟨some 10, .alloc 35, _, _, _, _⟩ :: _) _ _); go_must (refine wpList_alloc_row rfl 35 rfl (.agg (zbs 64)) zero35 ?_; intro u61 ha61 hza61 hga61; have HA61 := Lib.hid ha61; have HZA61 := Lib.hid hza61; have HGA61 := Lib.hid hga61; clear ha61 hza61 hga61)) | ((with_reducible show wpList _ _ _ (⟨none, .store 35 (.tmp 10) (.tmp 65), _, _, _, _⟩ :: _) _ _); go_must (refine wpList_storeP rfl (.tmp 10) (.tmp 65) rfl (x60.heap.size) [0, 0] px py rfl rfl (zrow (k := 2) HA61.out) rfl ?_; intro y61 hr61 hg61 hz61; have Ngp_61 := Lib.hid ((Ngp_60.out.grown HGA61.out (by simp)).grown hg61 (by have := Ngp_60.out.lt; simp; omega)); have Ngn_61 := Lib.hid ((Ngn_60.out.grown HGA61.out (by simp)).grown hg61 (by have := Ngn_60.out.lt; simp; omega)); have Nga_61 := Lib.hid ((Nga_60.out.grown HGA61.out (by simp)).grown hg61 (by have := Nga_60.out.lt; simp; omega)); have Ngc_61 := Lib.hid ((Ngc_60.out.grown HGA61.out (by simp)).grown hg61 (by have := Ngc_60.out.lt; simp; omega)); have Ngd_61 : Hid (RAt y61 x60.heap.size [px, py]) := Lib.hid hr61; have HF_61 : Hid (Below w.heap.size w y61) := Lib.hid ((HF_60.out.grown HGA61.out HF_60.out.size (by simp)).grown hg61 (by have := HF_60.out.size; have := HZA61.out; omega) (fun r hr => by injection hr with hr; have := HF_60.out.size; omega)); have HNE61_6 : Hid (w.heap.size ≠ x60.heap.size) := Lib.hid (by have := Ngp_60.out.lt; omega); have HNE61_7 : Hid (gn ≠ x60.heap.size) := Lib.hid (by have := Ngn_60.out.lt; omega); have HNE61_8 : Hid (ga ≠ x60.heap.size) := Lib.hid (by have := Nga_60.out.lt; omega); have HNE61_9 : Hid (gc ≠ x60.heap.size) := Lib.hid (by have := Ngc_60.out.lt; omega); have HGE61 : Hid (w.heap.size ≤ x60.heap.size) := Lib.hid HF_60.out.size; have cb := (show BAt _ gc (enc b) from ⟨enc_len b, Ngc_61.out.num⟩).cell 31 (by omega); rw [HT.out] at cb; clear hr61 hg61 hz61 HA61 HZA61 HGA61 Ngp_60 Ngn_60 Nga_60 Ngc_60 HF_60)) | ((with_reducible show wpList _ _ _ (⟨none, .store 5 (.tmp 70) (.tmp 69), _, _, _, _⟩ :: _) _ _); go_must (obtain ⟨tb62, htb62⟩ := Ngc_61.out.num; refine wpList_store_one rfl 5 (.tmp 70) (.tmp 69) rfl gc 31 rfl .u8 _ rfl tb62 _ htb62 size5 (by simp only [List.size_toArray, bcs_enc_len]; omega) ?_; intro y62 hh62 hg62 hz62; rw [HU.out, byte_val u HU2.out, bcs_put, HS.out] at hh62; have hr62 : RAt y62 gc [b2] := NAt.row ⟨_, hh62⟩; have Ngp_62 := Lib.hid (Ngp_61.out.grown hg62 (by have := HNE59_3.out; simp; omega)); have Ngn_62 := Lib.hid (Ngn_61.out.grown hg62 (by have := HNE59_4.out; simp; omega)); have Nga_62 := Lib.hid (Nga_61.out.grown hg62 (by have := HNE59_5.out; simp; omega)); have Ngc_62 : Hid (RAt y62 gc [b2]) := Lib.hid hr62; have Ngd_62 := Lib.hid (Ngd_61.out.grown hg62 (by have := HNE61_9.out; simp; omega)); have HF_62 : Hid (Below w.heap.size w y62) := Lib.hid (HF_61.out.grown hg62 HF_61.out.size (fun r hr => by injection hr with hr; have := HGE59.out; omega)); clear hr62 hh62 hg62 hz62 Ngp_61 Ngn_61 Nga_61 Ngc_61 Ngd_61 HF_61)) | ((with_reducible show wpList _ _ _ (⟨_, .load 22 (.tmp 9), _, _, _, _⟩ :: _) _ _); go_must (refine wpList_exec rfl (vN b2) (exec_load22 (.tmp 9) rfl (gc) 0 0 rfl [b2] b2 rfl Ngc_62.out rfl) ?_)) | fail)
  generalize x60.heap.size = gd at *
  refine (C7.out _).mono ?_
  rintro e63 x63 ⟨rfl, hb63⟩
  have Ngp_63 := Lib.hid (Ngp_62.out.keep hb63)
  have Ngn_63 := Lib.hid (Ngn_62.out.keep hb63)
  have Nga_63 := Lib.hid (Nga_62.out.keep hb63)
  have Ngc_63 := Lib.hid (Ngc_62.out.keep hb63)
  have Ngd_63 := Lib.hid (Ngd_62.out.keep hb63)
  have HF_63 : Hid (Below w.heap.size w x63) := Lib.hid (HF_62.out.trans (hb63.mono HF_62.out.size))
  clear hb63 Ngp_62 Ngn_62 Nga_62 Ngc_62 Ngd_62 HF_62
  go_wp2_with (first | ((with_reducible show wpList _ _ _ (⟨some 12, .alloc 35, _, _, _, _⟩ :: _) _ _); go_must (refine wpList_alloc_row rfl 35 rfl (.agg (zbs 64)) zero35 ?_; intro u64 ha64 hza64 hga64; have HA64 := Lib.hid ha64; have HZA64 := Lib.hid hza64; have HGA64 := Lib.hid hga64; clear ha64 hza64 hga64)) | ((with_reducible show wpList _ _ _ (⟨none, .store 35 (.tmp 12) (.tmp 74), _, _, _, _⟩ :: _) _ _); go_must (refine wpList_storeP rfl (.tmp 12) (.tmp 74) rfl (x63.heap.size) [0, 0] 0 0 rfl rfl (zrow (k := 2) HA64.out) rfl ?_; intro y64 hr64 hg64 hz64; have Ngp_64 := Lib.hid ((Ngp_63.out.grown HGA64.out (by simp)).grown hg64 (by have := Ngp_63.out.lt; simp; omega)); have Ngn_64 := Lib.hid ((Ngn_63.out.grown HGA64.out (by simp)).grown hg64 (by have := Ngn_63.out.lt; simp; omega)); have Nga_64 := Lib.hid ((Nga_63.out.grown HGA64.out (by simp)).grown hg64 (by have := Nga_63.out.lt; simp; omega)); have Ngc_64 := Lib.hid ((Ngc_63.out.grown HGA64.out (by simp)).grown hg64 (by have := Ngc_63.out.lt; simp; omega)); have Ngd_64 := Lib.hid ((Ngd_63.out.grown HGA64.out (by simp)).grown hg64 (by have := Ngd_63.out.lt; simp; omega)); have Nge_64 : Hid (RAt y64 x63.heap.size [0, 0]) := Lib.hid hr64; have HF_64 : Hid (Below w.heap.size w y64) := Lib.hid ((HF_63.out.grown HGA64.out HF_63.out.size (by simp)).grown hg64 (by have := HF_63.out.size; have := HZA64.out; omega) (fun r hr => by injection hr with hr; have := HF_63.out.size; omega)); have HNE64_10 : Hid (w.heap.size ≠ x63.heap.size) := Lib.hid (by have := Ngp_63.out.lt; omega); have HNE64_11 : Hid (gn ≠ x63.heap.size) := Lib.hid (by have := Ngn_63.out.lt; omega); have HNE64_12 : Hid (ga ≠ x63.heap.size) := Lib.hid (by have := Nga_63.out.lt; omega); have HNE64_13 : Hid (gc ≠ x63.heap.size) := Lib.hid (by have := Ngc_63.out.lt; omega); have HNE64_14 : Hid (gd ≠ x63.heap.size) := Lib.hid (by have := Ngd_63.out.lt; omega); have HGE64 : Hid (w.heap.size ≤ x63.heap.size) := Lib.hid HF_63.out.size; clear hr64 hg64 hz64 HA64 HZA64 HGA64 Ngp_63 Ngn_63 Nga_63 Ngc_63 Ngd_63 HF_63)) | ((with_reducible show wpList _ _ _ (⟨_, .load 35 (.tmp 10), _, _, _, _⟩ :: _) _ _); go_must (refine wpList_exec rfl (vR [px, py]) (exec_loadP (.tmp 10) rfl (gd) px py rfl Ngd_64.out) ?_)) | ((with_reducible show wpList _ _ _ (⟨_, .load 35 (.tmp 2), _, _, _, _⟩ :: _) _ _); go_must (refine wpList_exec rfl (vR [px, py]) (exec_loadP (.tmp 2) rfl (w.heap.size) px py rfl Ngp_64.out) ?_)) | ((with_reducible show wpList _ _ _ (⟨_, .binOp .neq 35 (.tmp 79) (.tmp 80) 35, _, _, _, _⟩ :: _) _ _); go_must (refine wpList_exec rfl (.bool (!true)) (exec_neqP (m := px) (n := py) (m' := px) (n' := py) (.tmp 79) (.tmp 80) rfl rfl rfl (eqP_same _ _ _)) ?_)) | ((with_reducible show wpList _ _ _ (⟨_, .load 23 (.tmp 83), _, _, _, _⟩ :: _) _ _); go_must (refine wpList_exec rfl (vN px) (exec_loadF (.tmp 83) rfl (w.heap.size) 0 0 rfl [px, py] px rfl Ngp_64.out rfl) ?_)) | ((with_reducible show wpList _ _ _ (⟨_, .build 23 #[], _, _, _, _⟩ :: _) _ _); go_must (refine wpList_exec rfl (vN 0) (exec_build0 rfl) ?_)) | ((with_reducible show wpList _ _ _ (⟨_, .binOp .eql 23 (.tmp 84) (.tmp 85) 23, _, _, _, _⟩ :: _) _ _); go_must (refine wpList_exec rfl (.bool true) (exec_eq23 (m := px) (n := 0) (.tmp 84) (.tmp 85) rfl rfl rfl (HZ.out _)) ?_)) | fail)
  generalize x63.heap.size = ge at *
  go_ret
  exact ⟨rfl, HF_64.out⟩

set_option maxHeartbeats 8000000 in
set_option maxRecDepth 100000 in
theorem back_no_neg (px py n ax ay b b2 t u mx my : Nat) (w : World)
    (C0 : Hid (∀ w, Calls Try.prog 38 #[] w (Gives (.bool true) w)))
    (C1 : Hid (∀ w, Calls Try.prog 35 #[vN n] w (Gives (.tuple #[vR [0, 0], .int .i64 4]) w)))
    (C5 : Hid (∀ w, Calls Try.prog 36 #[vR [px, py]] w (Gives (.tuple #[vN b, .int .i64 0]) w)))
    (C6 : Hid (∀ w, Calls Try.prog 35 #[vN b] w (Gives (.tuple #[vR [px, py], .int .i64 0]) w)))
    (C7 : Hid (∀ w, Calls Try.prog 35 #[vN b2] w (Gives (.tuple #[vR [mx, my], .int .i64 0]) w)))
    (HZ : Hid (∀ w, (Op.equalIn 10000 23 (vN px) (vN 0)).run Try.prog w = .ok false w))
    (C8 : Hid (∀ w, Calls Try.prog 51 #[vR [px, py]] w (Gives (vR [mx, my]) w)))
    (HT : Hid (((enc b).getD 31 0).toNat = t)) (HU : Hid (bits .xor .u8 (t : Int) 128 = ((u : Nat) : Int))) (HU2 : Hid (u < 256)) (HS : Hid ((enc b).set 31 (UInt8.ofNat u) = enc b2)) :
    Calls Try.prog 8 #[vR [px, py], vN n] w (Gives (.bool true) w) := by
  have HF_0 : Hid (Below w.heap.size w w) := Lib.hid (Below.refl _ _)
  go_enter Try.func8, Try.ntmps8
  go_wp2_with (first | ((with_reducible show wpList _ _ _ (⟨some 2, .box 35 (.tmp 0), _, _, _, _⟩ :: _) _ _); go_must (refine wpList_box_row rfl 35 (.tmp 0) rfl (bcs (encs [px, py])).toArray rfl ?_; intro u65 ha65 hza65 hga65; have Ngp_65 : Hid (RAt u65 w.heap.size [px, py]) := Lib.hid (⟨_, ha65⟩); have HF_65 : Hid (Below w.heap.size w u65) := Lib.hid (HF_0.out.grown hga65 HF_0.out.size (by simp)); have HGE65 : Hid (w.heap.size ≤ w.heap.size) := Lib.hid HF_0.out.size; clear ha65 hza65 hga65 HF_0)) | ((with_reducible show wpList _ _ _ (⟨some 3, .box 22 (.tmp 1), _, _, _, _⟩ :: _) _ _); go_must (refine wpList_box_row rfl 22 (.tmp 1) rfl (bcs (enc n)).toArray rfl ?_; intro u66 ha66 hza66 hga66; have Ngp_66 := Lib.hid (Ngp_65.out.grown hga66 (by simp)); have Ngn_66 : Hid (RAt u66 u65.heap.size [n]) := Lib.hid (NAt.row ⟨_, ha66⟩); have HF_66 : Hid (Below w.heap.size w u66) := Lib.hid (HF_65.out.grown hga66 HF_65.out.size (by simp)); have HNE66_0 : Hid (w.heap.size ≠ u65.heap.size) := Lib.hid (by have := Ngp_65.out.lt; omega); have HGE66 : Hid (w.heap.size ≤ u65.heap.size) := Lib.hid HF_65.out.size; clear ha66 hza66 hga66 Ngp_65 HF_65)) | fail)
  generalize u65.heap.size = gn at *
  refine (C0.out _).mono ?_
  rintro e67 x67 ⟨rfl, hb67⟩
  have Ngp_67 := Lib.hid (Ngp_66.out.keep hb67)
  have Ngn_67 := Lib.hid (Ngn_66.out.keep hb67)
  have HF_67 : Hid (Below w.heap.size w x67) := Lib.hid (HF_66.out.trans (hb67.mono HF_66.out.size))
  clear hb67 Ngp_66 Ngn_66 HF_66
  go_wp2_with (first | ((with_reducible show wpList _ _ _ (⟨_, .load 22 (.tmp 3), _, _, _, _⟩ :: _) _ _); go_must (refine wpList_exec rfl (vN n) (exec_load22 (.tmp 3) rfl (gn) 0 0 rfl [n] n rfl Ngn_67.out rfl) ?_)) | fail)
  refine (C1.out _).mono ?_
  rintro e68 x68 ⟨rfl, hb68⟩
  have Ngp_68 := Lib.hid (Ngp_67.out.keep hb68)
  have Ngn_68 := Lib.hid (Ngn_67.out.keep hb68)
  have HF_68 : Hid (Below w.heap.size w x68) := Lib.hid (HF_67.out.trans (hb68.mono HF_67.out.size))
  clear hb68 Ngp_67 Ngn_67 HF_67
  go_wp2_with (first | ((with_reducible show wpList _ _ _ (⟨some 5, .alloc 35, _, _, _, _⟩ :: _) _ _); go_must (refine wpList_alloc_row rfl 35 rfl (.agg (zbs 64)) zero35 ?_; intro u69 ha69 hza69 hga69; have HA69 := Lib.hid ha69; have HZA69 := Lib.hid hza69; have HGA69 := Lib.hid hga69; clear ha69 hza69 hga69)) | ((with_reducible show wpList _ _ _ (⟨none, .store 35 (.tmp 5) (.tmp 19), _, _, _, _⟩ :: _) _ _); go_must (refine wpList_storeP rfl (.tmp 5) (.tmp 19) rfl (x68.heap.size) [0, 0] 0 0 rfl rfl (zrow (k := 2) HA69.out) rfl ?_; intro y69 hr69 hg69 hz69; have Ngp_69 := Lib.hid ((Ngp_68.out.grown HGA69.out (by simp)).grown hg69 (by have := Ngp_68.out.lt; simp; omega)); have Ngn_69 := Lib.hid ((Ngn_68.out.grown HGA69.out (by simp)).grown hg69 (by have := Ngn_68.out.lt; simp; omega)); have Nga_69 : Hid (RAt y69 x68.heap.size [0, 0]) := Lib.hid hr69; have HF_69 : Hid (Below w.heap.size w y69) := Lib.hid ((HF_68.out.grown HGA69.out HF_68.out.size (by simp)).grown hg69 (by have := HF_68.out.size; have := HZA69.out; omega) (fun r hr => by injection hr with hr; have := HF_68.out.size; omega)); have HNE69_1 : Hid (w.heap.size ≠ x68.heap.size) := Lib.hid (by have := Ngp_68.out.lt; omega); have HNE69_2 : Hid (gn ≠ x68.heap.size) := Lib.hid (by have := Ngn_68.out.lt; omega); have HGE69 : Hid (w.heap.size ≤ x68.heap.size) := Lib.hid HF_68.out.size; clear hr69 hg69 hz69 HA69 HZA69 HGA69 Ngp_68 Ngn_68 HF_68)) | ((with_reducible show wpList _ _ _ (⟨_, .load 35 (.tmp 2), _, _, _, _⟩ :: _) _ _); go_must (refine wpList_exec rfl (vR [px, py]) (exec_loadP (.tmp 2) rfl (w.heap.size) px py rfl Ngp_69.out) ?_)) | fail)
  generalize x68.heap.size = ga at *
  refine (C5.out _).mono ?_
  rintro e70 x70 ⟨rfl, hb70⟩
  have Ngp_70 := Lib.hid (Ngp_69.out.keep hb70)
  have Ngn_70 := Lib.hid (Ngn_69.out.keep hb70)
  have Nga_70 := Lib.hid (Nga_69.out.keep hb70)
  have HF_70 : Hid (Below w.heap.size w x70) := Lib.hid (HF_69.out.trans (hb70.mono HF_69.out.size))
  clear hb70 Ngp_69 Ngn_69 Nga_69 HF_69
  go_wp2_with (first | ((with_reducible show wpList _ _ _ (⟨some 9, .alloc 22, _, _, _, _⟩ :: _) _ _); go_must (refine wpList_alloc_row rfl 22 rfl (.agg (zbs 32)) zero22 ?_; intro u71 ha71 hza71 hga71; have HA71 := Lib.hid ha71; have HZA71 := Lib.hid hza71; have HGA71 := Lib.hid hga71; clear ha71 hza71 hga71)) | ((with_reducible show wpList _ _ _ (⟨none, .store 22 (.tmp 9) (.tmp 49), _, _, _, _⟩ :: _) _ _); go_must (refine wpList_store22 rfl (.tmp 9) (.tmp 49) rfl (x70.heap.size) 0 0 rfl [0] b rfl rfl (zrow (k := 1) HA71.out) (show 0 < 1 by omega) ?_; intro y71 hr71 hg71 hz71; have Ngp_71 := Lib.hid ((Ngp_70.out.grown HGA71.out (by simp)).grown hg71 (by have := Ngp_70.out.lt; simp; omega)); have Ngn_71 := Lib.hid ((Ngn_70.out.grown HGA71.out (by simp)).grown hg71 (by have := Ngn_70.out.lt; simp; omega)); have Nga_71 := Lib.hid ((Nga_70.out.grown HGA71.out (by simp)).grown hg71 (by have := Nga_70.out.lt; simp; omega)); have Ngc_71 : Hid (RAt y71 x70.heap.size [b]) := Lib.hid hr71; have HF_71 : Hid (Below w.heap.size w y71) := Lib.hid ((HF_70.out.grown HGA71.out HF_70.out.size (by simp)).grown hg71 (by have := HF_70.out.size; have := HZA71.out; omega) (fun r hr => by injection hr with hr; have := HF_70.out.size; omega)); have HNE71_3 : Hid (w.heap.size ≠ x70.heap.size) := Lib.hid (by have := Ngp_70.out.lt; omega); have HNE71_4 : Hid (gn ≠ x70.heap.size) := Lib.hid (by have := Ngn_70.out.lt; omega); have HNE71_5 : Hid (ga ≠ x70.heap.size) := Lib.hid (by have := Nga_70.out.lt; omega); have HGE71 : Hid (w.heap.size ≤ x70.heap.size) := Lib.hid HF_70.out.size; clear hr71 hg71 hz71 HA71 HZA71 HGA71 Ngp_70 Ngn_70 Nga_70 HF_70)) | ((with_reducible show wpList _ _ _ (⟨_, .load 22 (.tmp 9), _, _, _, _⟩ :: _) _ _); go_must (refine wpList_exec rfl (vN b) (exec_load22 (.tmp 9) rfl (x70.heap.size) 0 0 rfl [b] b rfl Ngc_71.out rfl) ?_)) | fail)
  generalize x70.heap.size = gc at *
  refine (C6.out _).mono ?_
  rintro e72 x72 ⟨rfl, hb72⟩
  have Ngp_72 := Lib.hid (Ngp_71.out.keep hb72)
  have Ngn_72 := Lib.hid (Ngn_71.out.keep hb72)
  have Nga_72 := Lib.hid (Nga_71.out.keep hb72)
  have Ngc_72 := Lib.hid (Ngc_71.out.keep hb72)
  have HF_72 : Hid (Below w.heap.size w x72) := Lib.hid (HF_71.out.trans (hb72.mono HF_71.out.size))
  clear hb72 Ngp_71 Ngn_71 Nga_71 Ngc_71 HF_71
  go_wp2_with (first | ((with_reducible show wpList _ _ _ (⟨some 10, .alloc 35, _, _, _, _⟩ :: _) _ _); go_must (refine wpList_alloc_row rfl 35 rfl (.agg (zbs 64)) zero35 ?_; intro u73 ha73 hza73 hga73; have HA73 := Lib.hid ha73; have HZA73 := Lib.hid hza73; have HGA73 := Lib.hid hga73; clear ha73 hza73 hga73)) | ((with_reducible show wpList _ _ _ (⟨none, .store 35 (.tmp 10) (.tmp 65), _, _, _, _⟩ :: _) _ _); go_must (refine wpList_storeP rfl (.tmp 10) (.tmp 65) rfl (x72.heap.size) [0, 0] px py rfl rfl (zrow (k := 2) HA73.out) rfl ?_; intro y73 hr73 hg73 hz73; have Ngp_73 := Lib.hid ((Ngp_72.out.grown HGA73.out (by simp)).grown hg73 (by have := Ngp_72.out.lt; simp; omega)); have Ngn_73 := Lib.hid ((Ngn_72.out.grown HGA73.out (by simp)).grown hg73 (by have := Ngn_72.out.lt; simp; omega)); have Nga_73 := Lib.hid ((Nga_72.out.grown HGA73.out (by simp)).grown hg73 (by have := Nga_72.out.lt; simp; omega)); have Ngc_73 := Lib.hid ((Ngc_72.out.grown HGA73.out (by simp)).grown hg73 (by have := Ngc_72.out.lt; simp; omega)); have Ngd_73 : Hid (RAt y73 x72.heap.size [px, py]) := Lib.hid hr73; have HF_73 : Hid (Below w.heap.size w y73) := Lib.hid ((HF_72.out.grown HGA73.out HF_72.out.size (by simp)).grown hg73 (by have := HF_72.out.size; have := HZA73.out; omega) (fun r hr => by injection hr with hr; have := HF_72.out.size; omega)); have HNE73_6 : Hid (w.heap.size ≠ x72.heap.size) := Lib.hid (by have := Ngp_72.out.lt; omega); have HNE73_7 : Hid (gn ≠ x72.heap.size) := Lib.hid (by have := Ngn_72.out.lt; omega); have HNE73_8 : Hid (ga ≠ x72.heap.size) := Lib.hid (by have := Nga_72.out.lt; omega); have HNE73_9 : Hid (gc ≠ x72.heap.size) := Lib.hid (by have := Ngc_72.out.lt; omega); have HGE73 : Hid (w.heap.size ≤ x72.heap.size) := Lib.hid HF_72.out.size; have cb := (show BAt _ gc (enc b) from ⟨enc_len b, Ngc_73.out.num⟩).cell 31 (by omega); rw [HT.out] at cb; clear hr73 hg73 hz73 HA73 HZA73 HGA73 Ngp_72 Ngn_72 Nga_72 Ngc_72 HF_72)) | ((with_reducible show wpList _ _ _ (⟨none, .store 5 (.tmp 70) (.tmp 69), _, _, _, _⟩ :: _) _ _); go_must (obtain ⟨tb74, htb74⟩ := Ngc_73.out.num; refine wpList_store_one rfl 5 (.tmp 70) (.tmp 69) rfl gc 31 rfl .u8 _ rfl tb74 _ htb74 size5 (by simp only [List.size_toArray, bcs_enc_len]; omega) ?_; intro y74 hh74 hg74 hz74; rw [HU.out, byte_val u HU2.out, bcs_put, HS.out] at hh74; have hr74 : RAt y74 gc [b2] := NAt.row ⟨_, hh74⟩; have Ngp_74 := Lib.hid (Ngp_73.out.grown hg74 (by have := HNE71_3.out; simp; omega)); have Ngn_74 := Lib.hid (Ngn_73.out.grown hg74 (by have := HNE71_4.out; simp; omega)); have Nga_74 := Lib.hid (Nga_73.out.grown hg74 (by have := HNE71_5.out; simp; omega)); have Ngc_74 : Hid (RAt y74 gc [b2]) := Lib.hid hr74; have Ngd_74 := Lib.hid (Ngd_73.out.grown hg74 (by have := HNE73_9.out; simp; omega)); have HF_74 : Hid (Below w.heap.size w y74) := Lib.hid (HF_73.out.grown hg74 HF_73.out.size (fun r hr => by injection hr with hr; have := HGE71.out; omega)); clear hr74 hh74 hg74 hz74 Ngp_73 Ngn_73 Nga_73 Ngc_73 Ngd_73 HF_73)) | ((with_reducible show wpList _ _ _ (⟨_, .load 22 (.tmp 9), _, _, _, _⟩ :: _) _ _); go_must (refine wpList_exec rfl (vN b2) (exec_load22 (.tmp 9) rfl (gc) 0 0 rfl [b2] b2 rfl Ngc_74.out rfl) ?_)) | fail)
  generalize x72.heap.size = gd at *
  refine (C7.out _).mono ?_
  rintro e75 x75 ⟨rfl, hb75⟩
  have Ngp_75 := Lib.hid (Ngp_74.out.keep hb75)
  have Ngn_75 := Lib.hid (Ngn_74.out.keep hb75)
  have Nga_75 := Lib.hid (Nga_74.out.keep hb75)
  have Ngc_75 := Lib.hid (Ngc_74.out.keep hb75)
  have Ngd_75 := Lib.hid (Ngd_74.out.keep hb75)
  have HF_75 : Hid (Below w.heap.size w x75) := Lib.hid (HF_74.out.trans (hb75.mono HF_74.out.size))
  clear hb75 Ngp_74 Ngn_74 Nga_74 Ngc_74 Ngd_74 HF_74
  go_wp2_with (first | ((with_reducible show wpList _ _ _ (⟨some 12, .alloc 35, _, _, _, _⟩ :: _) _ _); go_must (refine wpList_alloc_row rfl 35 rfl (.agg (zbs 64)) zero35 ?_; intro u76 ha76 hza76 hga76; have HA76 := Lib.hid ha76; have HZA76 := Lib.hid hza76; have HGA76 := Lib.hid hga76; clear ha76 hza76 hga76)) | ((with_reducible show wpList _ _ _ (⟨none, .store 35 (.tmp 12) (.tmp 74), _, _, _, _⟩ :: _) _ _); go_must (refine wpList_storeP rfl (.tmp 12) (.tmp 74) rfl (x75.heap.size) [0, 0] mx my rfl rfl (zrow (k := 2) HA76.out) rfl ?_; intro y76 hr76 hg76 hz76; have Ngp_76 := Lib.hid ((Ngp_75.out.grown HGA76.out (by simp)).grown hg76 (by have := Ngp_75.out.lt; simp; omega)); have Ngn_76 := Lib.hid ((Ngn_75.out.grown HGA76.out (by simp)).grown hg76 (by have := Ngn_75.out.lt; simp; omega)); have Nga_76 := Lib.hid ((Nga_75.out.grown HGA76.out (by simp)).grown hg76 (by have := Nga_75.out.lt; simp; omega)); have Ngc_76 := Lib.hid ((Ngc_75.out.grown HGA76.out (by simp)).grown hg76 (by have := Ngc_75.out.lt; simp; omega)); have Ngd_76 := Lib.hid ((Ngd_75.out.grown HGA76.out (by simp)).grown hg76 (by have := Ngd_75.out.lt; simp; omega)); have Nge_76 : Hid (RAt y76 x75.heap.size [mx, my]) := Lib.hid hr76; have HF_76 : Hid (Below w.heap.size w y76) := Lib.hid ((HF_75.out.grown HGA76.out HF_75.out.size (by simp)).grown hg76 (by have := HF_75.out.size; have := HZA76.out; omega) (fun r hr => by injection hr with hr; have := HF_75.out.size; omega)); have HNE76_10 : Hid (w.heap.size ≠ x75.heap.size) := Lib.hid (by have := Ngp_75.out.lt; omega); have HNE76_11 : Hid (gn ≠ x75.heap.size) := Lib.hid (by have := Ngn_75.out.lt; omega); have HNE76_12 : Hid (ga ≠ x75.heap.size) := Lib.hid (by have := Nga_75.out.lt; omega); have HNE76_13 : Hid (gc ≠ x75.heap.size) := Lib.hid (by have := Ngc_75.out.lt; omega); have HNE76_14 : Hid (gd ≠ x75.heap.size) := Lib.hid (by have := Ngd_75.out.lt; omega); have HGE76 : Hid (w.heap.size ≤ x75.heap.size) := Lib.hid HF_75.out.size; clear hr76 hg76 hz76 HA76 HZA76 HGA76 Ngp_75 Ngn_75 Nga_75 Ngc_75 Ngd_75 HF_75)) | ((with_reducible show wpList _ _ _ (⟨_, .load 35 (.tmp 10), _, _, _, _⟩ :: _) _ _); go_must (refine wpList_exec rfl (vR [px, py]) (exec_loadP (.tmp 10) rfl (gd) px py rfl Ngd_76.out) ?_)) | ((with_reducible show wpList _ _ _ (⟨_, .load 35 (.tmp 2), _, _, _, _⟩ :: _) _ _); go_must (refine wpList_exec rfl (vR [px, py]) (exec_loadP (.tmp 2) rfl (w.heap.size) px py rfl Ngp_76.out) ?_)) | ((with_reducible show wpList _ _ _ (⟨_, .binOp .neq 35 (.tmp 79) (.tmp 80) 35, _, _, _, _⟩ :: _) _ _); go_must (refine wpList_exec rfl (.bool (!true)) (exec_neqP (m := px) (n := py) (m' := px) (n' := py) (.tmp 79) (.tmp 80) rfl rfl rfl (eqP_same _ _ _)) ?_)) | ((with_reducible show wpList _ _ _ (⟨_, .load 23 (.tmp 83), _, _, _, _⟩ :: _) _ _); go_must (refine wpList_exec rfl (vN px) (exec_loadF (.tmp 83) rfl (w.heap.size) 0 0 rfl [px, py] px rfl Ngp_76.out rfl) ?_)) | ((with_reducible show wpList _ _ _ (⟨_, .build 23 #[], _, _, _, _⟩ :: _) _ _); go_must (refine wpList_exec rfl (vN 0) (exec_build0 rfl) ?_)) | ((with_reducible show wpList _ _ _ (⟨_, .binOp .eql 23 (.tmp 84) (.tmp 85) 23, _, _, _, _⟩ :: _) _ _); go_must (refine wpList_exec rfl (.bool false) (exec_eq23 (m := px) (n := 0) (.tmp 84) (.tmp 85) rfl rfl rfl (HZ.out _)) ?_)) | fail)
  generalize x75.heap.size = ge at *
  refine region_wq (by kernel_rfl) (by kernel_rfl) ?_
  refine wq_move rfl (.tmp 13) rfl (.int .i64 0) rfl ?_
  simp only [Act.put, List.setIfInBounds_toArray, List.set_cons_zero, List.set_cons_succ]
  refine wq_bin (P := Try.prog) rfl .eql 36 36 (.tmp 89) (.const (.int .i64 0)) rfl (.int .i64 0) (.int .i64 0) (.bool true) rfl rfl (fun _ => rfl) (run_eq36 0 0 true rfl) ?_
  simp only [Act.put, List.setIfInBounds_toArray, List.set_cons_zero, List.set_cons_succ]
  refine wq_move rfl (.tmp 90) rfl (.bool true) rfl ?_
  simp only [Act.put, List.setIfInBounds_toArray, List.set_cons_zero, List.set_cons_succ]
  refine wq_loadP rfl (.tmp 12) rfl (ge) mx my rfl Nge_76.out ?_
  simp only [Act.put, List.setIfInBounds_toArray, List.set_cons_zero, List.set_cons_succ]
  refine wq_loadP rfl (.tmp 2) rfl (w.heap.size) px py rfl Ngp_76.out ?_
  simp only [Act.put, List.setIfInBounds_toArray, List.set_cons_zero, List.set_cons_succ]
  refine wq_call rfl 51 [.tmp 93] #[35] rfl [vR [px, py]] rfl (CG51 _) (vR [mx, my]) C8.out ?_
  simp only [Act.put, List.setIfInBounds_toArray, List.set_cons_zero, List.set_cons_succ]
  refine wq_eqP rfl (.tmp 92) (.tmp 94) rfl mx my mx my rfl rfl true (eqP_same _ _) ?_
  simp only [Act.put, List.setIfInBounds_toArray, List.set_cons_zero, List.set_cons_succ]
  refine wq_pick rfl (.tmp 91) (.tmp 95) (.const (.bool false)) rfl true rfl (.bool true) rfl ?_
  simp only [Act.put, List.setIfInBounds_toArray, List.set_cons_zero, List.set_cons_succ]
  refine wq_assign rfl (.tmp 96) rfl (.bool true) rfl ?_
  simp only [Act.put, List.setIfInBounds_toArray, List.set_cons_zero, List.set_cons_succ]
  refine wq_nil ?_
  intro W hb
  have HBW : Hid (Below w.heap.size w W) := HF_76.out.trans (hb.mono HF_76.out.size)
  clear hb HF_76 Ngp_76 Ngn_76 Nga_76 Ngc_76 Ngd_76 Nge_76
  go_wp2
  go_ret
  exact ⟨rfl, HBW.out⟩

theorem bts_zero (y : Fin PP) : bts 0 y = y.val := rfl
theorem walkPt (p : EC.Pt) (n : Nat) (hn : n < TT) (w : World) : Calls Try.prog 8 #[vPt p, vN n] w (Gives (.bool true) w) := by
  obtain ⟨m, u, hm, hu, hu2, hs⟩ := turn (bts p.1.1 p.1.2) (bts_lt _ _)
  have hz : ∀ w, (Op.equalIn 10000 23 (vN p.1.1.val) (vN 0)).run Try.prog w = .ok (decide (p.1.1.val = 0)) w := fun w => eqN _ _ (fT _) (by unfold TT; omega) w
  have hB := pBytes p
  have hR := pRead p
  have hC := pCheck p
  have hN := pNeg p
  by_cases h0 : p.1.1 = 0
  · have hz' : ∀ w, (Op.equalIn 10000 23 (vN p.1.1.val) (vN 0)).run Try.prog w = .ok true w := fun w => by
      have h := hz w
      rw [decide_eq_true (show p.1.1.val = 0 from by rw [h0]; rfl)] at h
      exact h
    have hb : bts p.1.1 p.1.2 = p.1.2.val := by rw [h0, bts_zero]
    have ht := (top_set p.1.2.val (Nat.lt_trans p.1.2.isLt PH)).1
    have hm2 : m = p.1.2.val + HH := by rw [hm, hb, if_neg (by omega)]
    have hZ := pRead_zero p h0
    rw [← hm2] at hZ
    rcases pRead_any n hn with ⟨a, rfl⟩ | hbad
    · exact back_ok_zero _ _ _ _ _ _ m _ u 0 0 w (Lib.hid clives_any) (Lib.hid (pRead a)) (Lib.hid (pBytes a)) (Lib.hid (pCheck a)) (Lib.hid (rCanonF a.1.2)) (Lib.hid hB) (Lib.hid hR) (Lib.hid hZ) (Lib.hid hz') (Lib.hid rfl) (Lib.hid hu) (Lib.hid hu2) (Lib.hid hs)
    · exact back_no_zero _ _ n 0 0 _ m _ u 0 0 w (Lib.hid clives_any) (Lib.hid hbad) (Lib.hid hB) (Lib.hid hR) (Lib.hid hZ) (Lib.hid hz') (Lib.hid rfl) (Lib.hid hu) (Lib.hid hu2) (Lib.hid hs)
  · have hz' : ∀ w, (Op.equalIn 10000 23 (vN p.1.1.val) (vN 0)).run Try.prog w = .ok false w := fun w => by
      have h := hz w
      rw [decide_eq_false (show ¬ p.1.1.val = 0 from fun h => h0 (Fin.ext h))] at h
      exact h
    have hm2 : m = bts (EC.neg p).1.1 (EC.neg p).1.2 := hm.trans (bts_neg p.1.1 p.1.2 h0).symm
    have hZ := pRead (EC.neg p)
    rw [← hm2] at hZ
    rcases pRead_any n hn with ⟨a, rfl⟩ | hbad
    · exact back_ok_neg _ _ _ _ _ _ m _ u _ _ w (Lib.hid clives_any) (Lib.hid (pRead a)) (Lib.hid (pBytes a)) (Lib.hid (pCheck a)) (Lib.hid (rCanonF a.1.2)) (Lib.hid hB) (Lib.hid hR) (Lib.hid hZ) (Lib.hid hz') (Lib.hid hN) (Lib.hid rfl) (Lib.hid hu) (Lib.hid hu2) (Lib.hid hs)
    · exact back_no_neg _ _ n 0 0 _ m _ u _ _ w (Lib.hid clives_any) (Lib.hid hbad) (Lib.hid hB) (Lib.hid hR) (Lib.hid hZ) (Lib.hid hz') (Lib.hid hN) (Lib.hid rfl) (Lib.hid hu) (Lib.hid hu2) (Lib.hid hs)
theorem walk (X0 Y0 : Nat) (z1 : List UInt8) (w : World) (a0 : X0 < TT) (b0 : Y0 < TT) (w1 : z1.length = 32) :
    Calls Try.prog 8 #[vR [X0, Y0], .agg (bcs z1).toArray] w fun e w' => e = .returned (.bool true) ∧ Below w.heap.size w w' := by
  obtain ⟨n, hn, e1⟩ := bytes_num z1 w1
  rw [e1]
  have h0 := Check_any X0 Y0 a0 b0
  rcases chk_two X0 Y0 with c0 | c0
  · obtain ⟨p, e0, _⟩ := chk_zero _ _ c0
    rw [e0]
    exact walkPt p n hn w
  · rw [c0] at h0
    have hB : ∀ w, Calls Try.prog 36 #[vR [X0, Y0]] w (Gives (.tuple #[vN 0, .int .i64 2]) w) := fun w => Bytes_bad X0 Y0 w (Lib.hid h0)
    rcases pRead_any n hn with ⟨a, rfl⟩ | hbad
    · exact back_ok_bad _ _ _ _ _ 0 0 0 0 0 0 w (Lib.hid clives_any) (Lib.hid (pRead a)) (Lib.hid (pBytes a)) (Lib.hid (pCheck a)) (Lib.hid (rCanonF a.1.2)) (Lib.hid hB) (Lib.hid h0)
    · exact back_no_bad _ _ n 0 0 0 0 0 0 0 0 w (Lib.hid clives_any) (Lib.hid hbad) (Lib.hid hB) (Lib.hid h0)

set_option maxRecDepth 100000 in
theorem lifted (os : Os) (started : os.Started) (H : Type) (enc : TypeId × Value → H) :
    ReturnsInHanded {} Try.checked os 8 .any (Rows.curveBackSpec.pre6 enc Try.prog Try.f8 Rows.curveBackRow.domain false) (Rows.curveBackSpec.post enc Try.prog Try.f8 false true false false) := by
  refine returnsInHanded_of_change (C := Try.checked) own started (by kernel_rfl) Try.func8
    (ChangeSpec.witness6 (enc := enc) (C := Try.checked) false ⟨#[], #[.agg (Array.replicate 64 (.int .u8 0)), .agg (Array.replicate 32 (.int .u8 0))], []⟩ 8 (by kernel_rfl) (by kernel_rfl) (by kernel_rfl) (by kernel_rfl)) ?_
  intro W base args ds gs before hval0 hW hcnd _
  have hval : ∀ (j : Nat) t v, Try.f8.params[j]? = some t → args[j]? = some v → Value.okWide Try.prog W .any base t v := hval0
  have hW' := hW
  obtain ⟨p, q, hA0, hV, rfl, hfz, hnd⟩ := hW
  have hA : DataW.TrodAll enc Try.prog W 0 (fun _ => true) true Try.f8.params.toList args.toList ds p := hA0
  rw [Try.params8] at hA hval
  obtain ⟨v0, vs0, d0, ds0, p0, q0, hargs, rfl, rfl, h0, r0⟩ := trodAll_cons hA
  obtain ⟨v1, vs1, d1, ds1, p1, q1, rfl, rfl, rfl, h1, r1⟩ := trodAll_cons r0
  obtain ⟨rfl, rfl, rfl⟩ := trodAll_nil r1
  obtain rfl : args = #[v0, v1] := by cases args; simp_all
  obtain ⟨rfl, rfl⟩ := trodVars_none hV
  have k0 := h0
  have lt0 : ∀ x ∈ p0, x.block < W.heap.size := by obtain ⟨m, hm⟩ := k0; exact DataW.trod_lt m _ _ _ hm
  obtain ⟨X0, Y0, wX0, wY0, rfl⟩ := open_pt (hval 0 35 v0 rfl rfl) h0
  have k1 := h1
  have lt1 : ∀ x ∈ p1, x.block < W.heap.size := by obtain ⟨m, hm⟩ := k1; exact DataW.trod_lt m _ _ _ hm
  obtain ⟨z1, w1, rfl⟩ := open_arr Try.underlying22 Try.underlying5 (by kernel_rfl) (by kernel_rfl) (hval 1 22 v1 rfl rfl) h1
  clear hA0 hval0
  refine (walk X0 Y0 z1 W wX0 wY0 w1).mono fun e W' ⟨he, bel⟩ => ?_
  subst he
  exact ⟨_, rfl, _, _, _, [], _, [], hW', trodAll_mk1 (shut_bool Try.underlying4 _), (trodAll_cons_mk (Below.trod laidOut (by kernel_rfl) (of_decide_eq_true (by kernel_rfl)) k0 bel lt0) (trodAll_cons_mk (Below.trod laidOut (by kernel_rfl) (of_decide_eq_true (by kernel_rfl)) k1 bel lt1) trodAll_mk0)), rfl, bel.frame _, fun h => by cases h⟩

theorem over : Rows.curveBackRow.holds Try.pinned (OpenSpec.ofChange Rows.curveBackSpec) :=
  OpenClaim.holds_of_wide 8 Try.f8 rfl rfl rfl rfl rfl rfl rfl ⟨rfl, rfl, rfl, rfl, rfl⟩ rfl rfl rfl rfl rfl (by kernel_rfl) Try.func8 (by kernel_rfl)
    (of_decide_eq_true (by kernel_rfl)) (by unfold Func.isWrapper; first | (rw [if_pos (by decide +kernel)]; kernel_rfl) | (rw [if_neg (by decide +kernel)]; exact ⟨rfl, rfl⟩))
    (fun os started H enc _ => lifted os started H enc)

/-- The statement. -/
theorem proved : Rows.CurveBackSaid := over
#print axioms proved
end Go.Proofs.Ytgdimnbdnepbgaa.curveBack
