/- It is proved that CurveCalls returns true for any two points, valid or not, any numbers and any 32 bytes: points are added, multiplied, encoded and decoded as the document says. Conditions: none. -/
import Derived.Test.YtgdimnbdnepbgaaRows
import Derived.Test.YtgdimnbdnepbgaaC7
import Derived.Test.YtgdimnbdnepbgaaC5
import Derived.ProofKit
import Derived.OpenShut
import Derived.ChangeOld
namespace Go.Proofs.Ytgdimnbdnepbgaa.curveCalls
open Go.ChangeShapes Go.WideShapes Go.ChangeAt Go.RowKit
set_option linter.unusedVariables false
set_option linter.unusedSimpArgs false

theorem own : ownKnob Try.prog.godebug = none := by kernel_rfl
theorem laidOut : laidOutB Try.prog = true := by kernel_rfl

theorem eqN22_same (n : Nat) (w : World) : (Op.equalIn 10000 22 (vN n) (vN n)).run Try.prog w = .ok true w := by
  have h := eq22 (enc n) (enc n) (enc_len n) (enc_len n) w
  rw [decide_eq_true rfl] at h
  exact h
theorem wq_eq22 {ops : Array Oper} {rest : List Oper} {o : Oper} {a : Act} {w0 : World} {Q : Act → Prop} (hw : Region.wanted o (yielded ops a.tmps) = true) (x y : Operand) (ho : o.op = .binOp .eql 22 x y 22) (m : Nat) (hx : a.eval x = vN m) (hy : a.eval y = vN m) (h : WQ Try.prog ops (CB w0) Q rest (a.put o.dst (.bool true))) : WQ Try.prog ops (CB w0) Q (o :: rest) a :=
  ⟨qb_val hw _ (fun w _ => exec_eq22 (m := m) (n := m) x y ho hx hy (eqN22_same m w)) h.out⟩

set_option maxHeartbeats 8000000 in
set_option maxRecDepth 100000 in
theorem calls_core (a b n px py qx qy x ux uy sx sy mx my tx ty kx ky bx by_ : Nat) (e g c : Int) (sm : Bool) (w : World)
    (C0 : Hid (∀ w, Calls Try.prog 38 #[] w (Gives (.bool true) w)))
    (C1 : Hid (∀ w, Calls Try.prog 36 #[vR [px, py]] w (Gives (.tuple #[vN x, .int .i64 e]) w)))
    (C2 : Hid (∀ w, Calls Try.prog 47 #[vR [px, py]] w (Gives (.tuple #[vN x, .int .i64 e]) w)))
    (C3 : Hid (∀ w, Calls Try.prog 35 #[vN n] w (Gives (.tuple #[vR [ux, uy], .int .i64 g]) w)))
    (C4 : Hid (∀ w, Calls Try.prog 48 #[vN n] w (Gives (.tuple #[vR [ux, uy], .int .i64 g]) w)))
    (C5 : Hid (∀ w, Calls Try.prog 40 #[vR [px, py]] w (Gives (.int .i64 c) w)))
    (C6 : Hid (∀ w, Calls Try.prog 49 #[vR [px, py]] w (Gives (.int .i64 c) w)))
    (C7 : Hid (∀ w, Calls Try.prog 44 #[vR [px, py], vR [qx, qy]] w (Gives (vR [sx, sy]) w)))
    (C8 : Hid (∀ w, Calls Try.prog 50 #[vR [px, py], vR [qx, qy]] w (Gives (vR [sx, sy]) w)))
    (C9 : Hid (∀ w, Calls Try.prog 51 #[vR [px, py]] w (Gives (vR [mx, my]) w)))
    (C10 : Hid (∀ w, Calls Try.prog 52 #[vR [px, py]] w (Gives (vR [mx, my]) w)))
    (C11 : Hid (∀ w, Calls Try.prog 53 #[vN a, vR [px, py], vN b, vR [qx, qy]] w (Gives (vR [tx, ty]) w)))
    (C12 : Hid (∀ w, Calls Try.prog 54 #[vN a, vR [px, py], vN b, vR [qx, qy]] w (Gives (vR [tx, ty]) w)))
    (C13 : Hid (∀ w, Calls Try.prog 41 #[vN a, vR [px, py]] w (Gives (vR [kx, ky]) w)))
    (C14 : Hid (∀ w, Calls Try.prog 55 #[vN a, vR [px, py]] w (Gives (vR [kx, ky]) w)))
    (C15 : Hid (∀ w, Calls Try.prog 43 #[vR [px, py]] w (Gives (.bool sm) w)))
    (C16 : Hid (∀ w, Calls Try.prog 56 #[vR [px, py]] w (Gives (.bool sm) w)))
    (C17 : Hid (∀ w, Calls Try.prog 42 #[] w (Gives (vR [bx, by_]) w)))
    (C18 : Hid (∀ w, Calls Try.prog 57 #[] w (Gives (vR [bx, by_]) w))) :
    Calls Try.prog 5 #[vR [px, py], vR [qx, qy], vN a, vN b, vN n] w (Gives (.bool true) w) := by
  have HM0 : Hid (Rws w []) := rw0 w
  have HF0 : Hid (Below w.heap.size w w) := Lib.hid (Below.refl _ _)
  go_enter Try.func5, Try.ntmps5
  go_wp2_with (first | ((with_reducible show wpList _ _ _ (⟨some 5, .box 35 (.tmp 0), _, _, _, _⟩ :: _) _ _); go_must (refine wpList_box_row rfl 35 (.tmp 0) rfl (bcs (encs [px, py])).toArray rfl ?_; intro u1 a1 b1 c1; have HG2 : Hid (w.heap.size ≤ w.heap.size) := Lib.hid HF0.out.size; have HM2 := rwN HM0 (below_of_grownBy c1) (cbS (cs := bcs (encs [px, py])) a1); have HF2 := bT HF0 (below_of_grownBy c1); clear a1 b1 c1 HM0 HF0)) | ((with_reducible show wpList _ _ _ (⟨some 6, .box 35 (.tmp 1), _, _, _, _⟩ :: _) _ _); go_must (refine wpList_box_row rfl 35 (.tmp 1) rfl (bcs (encs [qx, qy])).toArray rfl ?_; intro u3 a3 b3 c3; have HG4 : Hid (w.heap.size ≤ u1.heap.size) := Lib.hid HF2.out.size; have HM4 := rwN HM2 (below_of_grownBy c3) (cbS (cs := bcs (encs [qx, qy])) a3); have HF4 := bT HF2 (below_of_grownBy c3); clear a3 b3 c3 HM2 HF2)) | ((with_reducible show wpList _ _ _ (⟨some 7, .box 23 (.tmp 2), _, _, _, _⟩ :: _) _ _); go_must (refine wpList_box_row rfl 23 (.tmp 2) rfl (bcs (enc a)).toArray rfl ?_; intro u5 a5 b5 c5; have HG6 : Hid (w.heap.size ≤ u3.heap.size) := Lib.hid HF4.out.size; have HM6 := rwN HM4 (below_of_grownBy c5) (cbS (cs := bcs (enc a)) a5); have HF6 := bT HF4 (below_of_grownBy c5); clear a5 b5 c5 HM4 HF4)) | ((with_reducible show wpList _ _ _ (⟨some 8, .box 23 (.tmp 3), _, _, _, _⟩ :: _) _ _); go_must (refine wpList_box_row rfl 23 (.tmp 3) rfl (bcs (enc b)).toArray rfl ?_; intro u7 a7 b7 c7; have HG8 : Hid (w.heap.size ≤ u5.heap.size) := Lib.hid HF6.out.size; have HM8 := rwN HM6 (below_of_grownBy c7) (cbS (cs := bcs (enc b)) a7); have HF8 := bT HF6 (below_of_grownBy c7); clear a7 b7 c7 HM6 HF6)) | ((with_reducible show wpList _ _ _ (⟨some 9, .box 22 (.tmp 4), _, _, _, _⟩ :: _) _ _); go_must (refine wpList_box_row rfl 22 (.tmp 4) rfl (bcs (enc n)).toArray rfl ?_; intro u9 a9 b9 c9; have HG10 : Hid (w.heap.size ≤ u7.heap.size) := Lib.hid HF8.out.size; have HM10 := rwN HM8 (below_of_grownBy c9) (cbS (cs := bcs (enc n)) a9); have HF10 := bT HF8 (below_of_grownBy c9); clear a9 b9 c9 HM8 HF8)) | fail)
  generalize u1.heap.size = gq at *
  generalize u3.heap.size = ga at *
  generalize u5.heap.size = gb at *
  generalize u7.heap.size = gn at *
  refine (C0.out _).mono ?_
  rintro e11 x11 ⟨rfl, hb11⟩
  have HM11 := rwC HM10 hb11
  have HF11 := bT HF10 hb11
  clear hb11 HM10 HF10
  go_wp2_with (first | ((with_reducible show wpList _ _ _ (⟨some 22, .load 35 (.tmp 5), _, _, _, _⟩ :: _) _ _); go_must (refine wpList_exec rfl (vR [px, py]) (loadP (.tmp 5) rfl (w.heap.size) px py rfl (rwG HM11 4 rfl)) ?_)) | fail)
  refine (C1.out _).mono ?_
  rintro e12 x12 ⟨rfl, hb12⟩
  have HM12 := rwC HM11 hb12
  have HF12 := bT HF11 hb12
  clear hb12 HM11 HF11
  go_wp2_with (first | ((with_reducible show wpList _ _ _ (⟨some 11, .alloc 22, _, _, _, _⟩ :: _) _ _); go_must (refine wpList_mk rfl 22 rfl (zbs 32) zero22 (.tmp 11) (.tmp 24) rfl (bcs (enc x)) rfl rfl rfl (by rw [ce]; exact size22) (Eq.symm (by rw [ce]; rfl)) (bcs_one' _) ?_; intro y13 a13 b13; have HG14 : Hid (w.heap.size ≤ x12.heap.size) := Lib.hid HF12.out.size; have HM14 := rwN HM12 b13 a13; have HF14 := bT HF12 b13; clear a13 b13 HM12 HF12)) | ((with_reducible show wpList _ _ _ (⟨some 27, .load 35 (.tmp 5), _, _, _, _⟩ :: _) _ _); go_must (refine wpList_exec rfl (vR [px, py]) (loadP (.tmp 5) rfl (w.heap.size) px py rfl (rwG HM14 5 rfl)) ?_)) | fail)
  generalize x12.heap.size = g1 at *
  refine (C2.out _).mono ?_
  rintro e15 x15 ⟨rfl, hb15⟩
  have HM15 := rwC HM14 hb15
  have HF15 := bT HF14 hb15
  clear hb15 HM14 HF14
  go_wp2_with (first | ((with_reducible show wpList _ _ _ (⟨some 13, .alloc 22, _, _, _, _⟩ :: _) _ _); go_must (refine wpList_mk rfl 22 rfl (zbs 32) zero22 (.tmp 13) (.tmp 29) rfl (bcs (enc x)) rfl rfl rfl (by rw [ce]; exact size22) (Eq.symm (by rw [ce]; rfl)) (bcs_one' _) ?_; intro y16 a16 b16; have HG17 : Hid (w.heap.size ≤ x15.heap.size) := Lib.hid HF15.out.size; have HM17 := rwN HM15 b16 a16; have HF17 := bT HF15 b16; clear a16 b16 HM15 HF15)) | ((with_reducible show wpList _ _ _ (⟨some 32, .load 22 (.tmp 9), _, _, _, _⟩ :: _) _ _); go_must (refine wpList_exec rfl (vN n) (loadM (.tmp 9) rfl (gn) n rfl (rwG HM17 2 rfl)) ?_)) | fail)
  generalize x15.heap.size = g2 at *
  refine (C3.out _).mono ?_
  rintro e18 x18 ⟨rfl, hb18⟩
  have HM18 := rwC HM17 hb18
  have HF18 := bT HF17 hb18
  clear hb18 HM17 HF17
  go_wp2_with (first | ((with_reducible show wpList _ _ _ (⟨some 15, .alloc 35, _, _, _, _⟩ :: _) _ _); go_must (refine wpList_mk rfl 35 rfl (zbs 64) zero35 (.tmp 15) (.tmp 34) rfl (bcs (encs [ux, uy])) rfl rfl rfl (by rw [cr]; exact size35) (Eq.symm (by rw [cr]; rfl)) (bcs_one' _) ?_; intro y19 a19 b19; have HG20 : Hid (w.heap.size ≤ x18.heap.size) := Lib.hid HF18.out.size; have HM20 := rwN HM18 b19 a19; have HF20 := bT HF18 b19; clear a19 b19 HM18 HF18)) | ((with_reducible show wpList _ _ _ (⟨some 37, .load 22 (.tmp 9), _, _, _, _⟩ :: _) _ _); go_must (refine wpList_exec rfl (vN n) (loadM (.tmp 9) rfl (gn) n rfl (rwG HM20 3 rfl)) ?_)) | fail)
  generalize x18.heap.size = g3 at *
  refine (C4.out _).mono ?_
  rintro e21 x21 ⟨rfl, hb21⟩
  have HM21 := rwC HM20 hb21
  have HF21 := bT HF20 hb21
  clear hb21 HM20 HF20
  go_wp2_with (first | ((with_reducible show wpList _ _ _ (⟨some 17, .alloc 35, _, _, _, _⟩ :: _) _ _); go_must (refine wpList_mk rfl 35 rfl (zbs 64) zero35 (.tmp 17) (.tmp 39) rfl (bcs (encs [ux, uy])) rfl rfl rfl (by rw [cr]; exact size35) (Eq.symm (by rw [cr]; rfl)) (bcs_one' _) ?_; intro y22 a22 b22; have HG23 : Hid (w.heap.size ≤ x21.heap.size) := Lib.hid HF21.out.size; have HM23 := rwN HM21 b22 a22; have HF23 := bT HF21 b22; clear a22 b22 HM21 HF21)) | fail)
  generalize x21.heap.size = g4 at *
  have HR_0 : Hid (RAt y22 g4 [ux, uy]) := Lib.hid (rwG HM23 0 rfl)
  have HR_1 : Hid (RAt y22 g3 [ux, uy]) := Lib.hid (rwG HM23 1 rfl)
  have HR_2 : Hid (RAt y22 g2 [x]) := Lib.hid (rwG HM23 2 rfl).row
  have HR_3 : Hid (RAt y22 g1 [x]) := Lib.hid (rwG HM23 3 rfl).row
  have HR_4 : Hid (RAt y22 gn [n]) := Lib.hid (rwG HM23 4 rfl).row
  have HR_5 : Hid (RAt y22 gb [b]) := Lib.hid (rwG HM23 5 rfl).row
  have HR_6 : Hid (RAt y22 ga [a]) := Lib.hid (rwG HM23 6 rfl).row
  have HR_7 : Hid (RAt y22 gq [qx, qy]) := Lib.hid (rwG HM23 7 rfl)
  have HR_8 : Hid (RAt y22 w.heap.size [px, py]) := Lib.hid (rwG HM23 8 rfl)
  refine region_wq2 (by kernel_rfl) (by kernel_rfl) (by kernel_rfl) ?_
  refine wq_load22 rfl (.tmp 11) rfl (g1) x rfl HR_3.out ?_
  simp only [Act.put, List.setIfInBounds_toArray, List.set_cons_zero, List.set_cons_succ]
  refine wq_load22 rfl (.tmp 13) rfl (g2) x rfl HR_2.out ?_
  simp only [Act.put, List.setIfInBounds_toArray, List.set_cons_zero, List.set_cons_succ]
  refine wq_eq22 rfl (.tmp 41) (.tmp 42) rfl x rfl rfl ?_
  simp only [Act.put, List.setIfInBounds_toArray, List.set_cons_zero, List.set_cons_succ]
  refine wq_move rfl (.tmp 43) rfl (.bool true) rfl ?_
  simp only [Act.put, List.setIfInBounds_toArray, List.set_cons_zero, List.set_cons_succ]
  refine wq_move rfl (.tmp 12) rfl (.int .i64 e) rfl ?_
  simp only [Act.put, List.setIfInBounds_toArray, List.set_cons_zero, List.set_cons_succ]
  refine wq_move rfl (.tmp 14) rfl (.int .i64 e) rfl ?_
  simp only [Act.put, List.setIfInBounds_toArray, List.set_cons_zero, List.set_cons_succ]
  refine wq_bin (P := Try.prog) rfl .eql 36 36 (.tmp 45) (.tmp 46) rfl (.int .i64 e) (.int .i64 e) (.bool true) rfl rfl (fun _ => rfl) (run_eq36 e e true (beq_self_eq_true _)) ?_
  simp only [Act.put, List.setIfInBounds_toArray, List.set_cons_zero, List.set_cons_succ]
  refine wq_pick rfl (.tmp 44) (.tmp 47) (.const (.bool false)) rfl true rfl (.bool true) rfl ?_
  simp only [Act.put, List.setIfInBounds_toArray, List.set_cons_zero, List.set_cons_succ]
  refine wq_move rfl (.tmp 48) rfl (.bool true) rfl ?_
  simp only [Act.put, List.setIfInBounds_toArray, List.set_cons_zero, List.set_cons_succ]
  refine wq_loadP rfl (.tmp 15) rfl (g3) ux uy rfl HR_1.out ?_
  simp only [Act.put, List.setIfInBounds_toArray, List.set_cons_zero, List.set_cons_succ]
  refine wq_loadP rfl (.tmp 17) rfl (g4) ux uy rfl HR_0.out ?_
  simp only [Act.put, List.setIfInBounds_toArray, List.set_cons_zero, List.set_cons_succ]
  refine wq_eqP rfl (.tmp 50) (.tmp 51) rfl ux uy ux uy rfl rfl true (eqP_same _ _) ?_
  simp only [Act.put, List.setIfInBounds_toArray, List.set_cons_zero, List.set_cons_succ]
  refine wq_pick rfl (.tmp 49) (.tmp 52) (.const (.bool false)) rfl true rfl (.bool true) rfl ?_
  simp only [Act.put, List.setIfInBounds_toArray, List.set_cons_zero, List.set_cons_succ]
  refine wq_move rfl (.tmp 53) rfl (.bool true) rfl ?_
  simp only [Act.put, List.setIfInBounds_toArray, List.set_cons_zero, List.set_cons_succ]
  refine wq_move rfl (.tmp 16) rfl (.int .i64 g) rfl ?_
  simp only [Act.put, List.setIfInBounds_toArray, List.set_cons_zero, List.set_cons_succ]
  as_aux_lemma =>
    refine wq_move rfl (.tmp 18) rfl (.int .i64 g) rfl ?_
    simp only [Act.put, List.setIfInBounds_toArray, List.set_cons_zero, List.set_cons_succ]
    refine wq_bin (P := Try.prog) rfl .eql 36 36 (.tmp 55) (.tmp 56) rfl (.int .i64 g) (.int .i64 g) (.bool true) rfl rfl (fun _ => rfl) (run_eq36 g g true (beq_self_eq_true _)) ?_
    simp only [Act.put, List.setIfInBounds_toArray, List.set_cons_zero, List.set_cons_succ]
    refine wq_pick rfl (.tmp 54) (.tmp 57) (.const (.bool false)) rfl true rfl (.bool true) rfl ?_
    simp only [Act.put, List.setIfInBounds_toArray, List.set_cons_zero, List.set_cons_succ]
    refine wq_move rfl (.tmp 58) rfl (.bool true) rfl ?_
    simp only [Act.put, List.setIfInBounds_toArray, List.set_cons_zero, List.set_cons_succ]
    refine wq_loadP rfl (.tmp 5) rfl (w.heap.size) px py rfl HR_8.out ?_
    simp only [Act.put, List.setIfInBounds_toArray, List.set_cons_zero, List.set_cons_succ]
    refine wq_call rfl 40 [.tmp 60] #[35] rfl [vR [px, py]] rfl (CG40 _) (.int .i64 c) C5.out ?_
    simp only [Act.put, List.setIfInBounds_toArray, List.set_cons_zero, List.set_cons_succ]
    refine wq_loadP rfl (.tmp 5) rfl (w.heap.size) px py rfl HR_8.out ?_
    simp only [Act.put, List.setIfInBounds_toArray, List.set_cons_zero, List.set_cons_succ]
    refine wq_call rfl 49 [.tmp 62] #[35] rfl [vR [px, py]] rfl (CG49 _) (.int .i64 c) C6.out ?_
    simp only [Act.put, List.setIfInBounds_toArray, List.set_cons_zero, List.set_cons_succ]
    refine wq_bin (P := Try.prog) rfl .eql 36 36 (.tmp 61) (.tmp 63) rfl (.int .i64 c) (.int .i64 c) (.bool true) rfl rfl (fun _ => rfl) (run_eq36 c c true (beq_self_eq_true _)) ?_
    simp only [Act.put, List.setIfInBounds_toArray, List.set_cons_zero, List.set_cons_succ]
    refine wq_pick rfl (.tmp 59) (.tmp 64) (.const (.bool false)) rfl true rfl (.bool true) rfl ?_
    simp only [Act.put, List.setIfInBounds_toArray, List.set_cons_zero, List.set_cons_succ]
    refine wq_move rfl (.tmp 65) rfl (.bool true) rfl ?_
    simp only [Act.put, List.setIfInBounds_toArray, List.set_cons_zero, List.set_cons_succ]
    refine wq_loadP rfl (.tmp 5) rfl (w.heap.size) px py rfl HR_8.out ?_
    simp only [Act.put, List.setIfInBounds_toArray, List.set_cons_zero, List.set_cons_succ]
    refine wq_loadP rfl (.tmp 6) rfl (gq) qx qy rfl HR_7.out ?_
    simp only [Act.put, List.setIfInBounds_toArray, List.set_cons_zero, List.set_cons_succ]
    refine wq_call rfl 44 [.tmp 67, .tmp 68] #[35, 35] rfl [vR [px, py], vR [qx, qy]] rfl (CG44 _) (vR [sx, sy]) C7.out ?_
    simp only [Act.put, List.setIfInBounds_toArray, List.set_cons_zero, List.set_cons_succ]
    refine wq_loadP rfl (.tmp 5) rfl (w.heap.size) px py rfl HR_8.out ?_
    simp only [Act.put, List.setIfInBounds_toArray, List.set_cons_zero, List.set_cons_succ]
    as_aux_lemma =>
      refine wq_loadP rfl (.tmp 6) rfl (gq) qx qy rfl HR_7.out ?_
      simp only [Act.put, List.setIfInBounds_toArray, List.set_cons_zero, List.set_cons_succ]
      refine wq_call rfl 50 [.tmp 70, .tmp 71] #[35, 35] rfl [vR [px, py], vR [qx, qy]] rfl (CG50 _) (vR [sx, sy]) C8.out ?_
      simp only [Act.put, List.setIfInBounds_toArray, List.set_cons_zero, List.set_cons_succ]
      refine wq_eqP rfl (.tmp 69) (.tmp 72) rfl sx sy sx sy rfl rfl true (eqP_same _ _) ?_
      simp only [Act.put, List.setIfInBounds_toArray, List.set_cons_zero, List.set_cons_succ]
      refine wq_pick rfl (.tmp 66) (.tmp 73) (.const (.bool false)) rfl true rfl (.bool true) rfl ?_
      simp only [Act.put, List.setIfInBounds_toArray, List.set_cons_zero, List.set_cons_succ]
      refine wq_move rfl (.tmp 74) rfl (.bool true) rfl ?_
      simp only [Act.put, List.setIfInBounds_toArray, List.set_cons_zero, List.set_cons_succ]
      refine wq_loadP rfl (.tmp 5) rfl (w.heap.size) px py rfl HR_8.out ?_
      simp only [Act.put, List.setIfInBounds_toArray, List.set_cons_zero, List.set_cons_succ]
      refine wq_call rfl 51 [.tmp 76] #[35] rfl [vR [px, py]] rfl (CG51 _) (vR [mx, my]) C9.out ?_
      simp only [Act.put, List.setIfInBounds_toArray, List.set_cons_zero, List.set_cons_succ]
      refine wq_loadP rfl (.tmp 5) rfl (w.heap.size) px py rfl HR_8.out ?_
      simp only [Act.put, List.setIfInBounds_toArray, List.set_cons_zero, List.set_cons_succ]
      refine wq_call rfl 52 [.tmp 78] #[35] rfl [vR [px, py]] rfl (CG52 _) (vR [mx, my]) C10.out ?_
      simp only [Act.put, List.setIfInBounds_toArray, List.set_cons_zero, List.set_cons_succ]
      refine wq_eqP rfl (.tmp 77) (.tmp 79) rfl mx my mx my rfl rfl true (eqP_same _ _) ?_
      simp only [Act.put, List.setIfInBounds_toArray, List.set_cons_zero, List.set_cons_succ]
      refine wq_pick rfl (.tmp 75) (.tmp 80) (.const (.bool false)) rfl true rfl (.bool true) rfl ?_
      simp only [Act.put, List.setIfInBounds_toArray, List.set_cons_zero, List.set_cons_succ]
      refine wq_move rfl (.tmp 81) rfl (.bool true) rfl ?_
      simp only [Act.put, List.setIfInBounds_toArray, List.set_cons_zero, List.set_cons_succ]
      refine wq_loadF rfl (.tmp 7) rfl (ga) 0 0 rfl [a] a rfl HR_6.out rfl ?_
      simp only [Act.put, List.setIfInBounds_toArray, List.set_cons_zero, List.set_cons_succ]
      refine wq_loadP rfl (.tmp 5) rfl (w.heap.size) px py rfl HR_8.out ?_
      simp only [Act.put, List.setIfInBounds_toArray, List.set_cons_zero, List.set_cons_succ]
      refine wq_loadF rfl (.tmp 8) rfl (gb) 0 0 rfl [b] b rfl HR_5.out rfl ?_
      simp only [Act.put, List.setIfInBounds_toArray, List.set_cons_zero, List.set_cons_succ]
      as_aux_lemma =>
        refine wq_loadP rfl (.tmp 6) rfl (gq) qx qy rfl HR_7.out ?_
        simp only [Act.put, List.setIfInBounds_toArray, List.set_cons_zero, List.set_cons_succ]
        refine wq_call rfl 53 [.tmp 83, .tmp 84, .tmp 85, .tmp 86] #[23, 35, 23, 35] rfl [vN a, vR [px, py], vN b, vR [qx, qy]] rfl (CG53 _) (vR [tx, ty]) C11.out ?_
        simp only [Act.put, List.setIfInBounds_toArray, List.set_cons_zero, List.set_cons_succ]
        refine wq_loadF rfl (.tmp 7) rfl (ga) 0 0 rfl [a] a rfl HR_6.out rfl ?_
        simp only [Act.put, List.setIfInBounds_toArray, List.set_cons_zero, List.set_cons_succ]
        refine wq_loadP rfl (.tmp 5) rfl (w.heap.size) px py rfl HR_8.out ?_
        simp only [Act.put, List.setIfInBounds_toArray, List.set_cons_zero, List.set_cons_succ]
        refine wq_loadF rfl (.tmp 8) rfl (gb) 0 0 rfl [b] b rfl HR_5.out rfl ?_
        simp only [Act.put, List.setIfInBounds_toArray, List.set_cons_zero, List.set_cons_succ]
        refine wq_loadP rfl (.tmp 6) rfl (gq) qx qy rfl HR_7.out ?_
        simp only [Act.put, List.setIfInBounds_toArray, List.set_cons_zero, List.set_cons_succ]
        refine wq_call rfl 54 [.tmp 88, .tmp 89, .tmp 90, .tmp 91] #[23, 35, 23, 35] rfl [vN a, vR [px, py], vN b, vR [qx, qy]] rfl (CG54 _) (vR [tx, ty]) C12.out ?_
        simp only [Act.put, List.setIfInBounds_toArray, List.set_cons_zero, List.set_cons_succ]
        refine wq_eqP rfl (.tmp 87) (.tmp 92) rfl tx ty tx ty rfl rfl true (eqP_same _ _) ?_
        simp only [Act.put, List.setIfInBounds_toArray, List.set_cons_zero, List.set_cons_succ]
        refine wq_pick rfl (.tmp 82) (.tmp 93) (.const (.bool false)) rfl true rfl (.bool true) rfl ?_
        simp only [Act.put, List.setIfInBounds_toArray, List.set_cons_zero, List.set_cons_succ]
        refine wq_move rfl (.tmp 94) rfl (.bool true) rfl ?_
        simp only [Act.put, List.setIfInBounds_toArray, List.set_cons_zero, List.set_cons_succ]
        refine wq_loadF rfl (.tmp 7) rfl (ga) 0 0 rfl [a] a rfl HR_6.out rfl ?_
        simp only [Act.put, List.setIfInBounds_toArray, List.set_cons_zero, List.set_cons_succ]
        refine wq_loadP rfl (.tmp 5) rfl (w.heap.size) px py rfl HR_8.out ?_
        simp only [Act.put, List.setIfInBounds_toArray, List.set_cons_zero, List.set_cons_succ]
        refine wq_call rfl 41 [.tmp 96, .tmp 97] #[23, 35] rfl [vN a, vR [px, py]] rfl (CG41 _) (vR [kx, ky]) C13.out ?_
        simp only [Act.put, List.setIfInBounds_toArray, List.set_cons_zero, List.set_cons_succ]
        refine wq_loadF rfl (.tmp 7) rfl (ga) 0 0 rfl [a] a rfl HR_6.out rfl ?_
        simp only [Act.put, List.setIfInBounds_toArray, List.set_cons_zero, List.set_cons_succ]
        refine wq_loadP rfl (.tmp 5) rfl (w.heap.size) px py rfl HR_8.out ?_
        simp only [Act.put, List.setIfInBounds_toArray, List.set_cons_zero, List.set_cons_succ]
        as_aux_lemma =>
          refine wq_call rfl 55 [.tmp 99, .tmp 100] #[23, 35] rfl [vN a, vR [px, py]] rfl (CG55 _) (vR [kx, ky]) C14.out ?_
          simp only [Act.put, List.setIfInBounds_toArray, List.set_cons_zero, List.set_cons_succ]
          refine wq_eqP rfl (.tmp 98) (.tmp 101) rfl kx ky kx ky rfl rfl true (eqP_same _ _) ?_
          simp only [Act.put, List.setIfInBounds_toArray, List.set_cons_zero, List.set_cons_succ]
          refine wq_pick rfl (.tmp 95) (.tmp 102) (.const (.bool false)) rfl true rfl (.bool true) rfl ?_
          simp only [Act.put, List.setIfInBounds_toArray, List.set_cons_zero, List.set_cons_succ]
          refine wq_move rfl (.tmp 103) rfl (.bool true) rfl ?_
          simp only [Act.put, List.setIfInBounds_toArray, List.set_cons_zero, List.set_cons_succ]
          refine wq_loadP rfl (.tmp 5) rfl (w.heap.size) px py rfl HR_8.out ?_
          simp only [Act.put, List.setIfInBounds_toArray, List.set_cons_zero, List.set_cons_succ]
          refine wq_call rfl 43 [.tmp 105] #[35] rfl [vR [px, py]] rfl (CG43 _) (.bool sm) C15.out ?_
          simp only [Act.put, List.setIfInBounds_toArray, List.set_cons_zero, List.set_cons_succ]
          refine wq_loadP rfl (.tmp 5) rfl (w.heap.size) px py rfl HR_8.out ?_
          simp only [Act.put, List.setIfInBounds_toArray, List.set_cons_zero, List.set_cons_succ]
          refine wq_call rfl 56 [.tmp 107] #[35] rfl [vR [px, py]] rfl (CG56 _) (.bool sm) C16.out ?_
          simp only [Act.put, List.setIfInBounds_toArray, List.set_cons_zero, List.set_cons_succ]
          refine wq_eqb (P := Try.prog) rfl (.tmp 106) (.tmp 108) rfl sm sm true rfl rfl (beq_self_eq_true _) ?_
          simp only [Act.put, List.setIfInBounds_toArray, List.set_cons_zero, List.set_cons_succ]
          refine wq_pick rfl (.tmp 104) (.tmp 109) (.const (.bool false)) rfl true rfl (.bool true) rfl ?_
          simp only [Act.put, List.setIfInBounds_toArray, List.set_cons_zero, List.set_cons_succ]
          refine wq_move rfl (.tmp 110) rfl (.bool true) rfl ?_
          simp only [Act.put, List.setIfInBounds_toArray, List.set_cons_zero, List.set_cons_succ]
          refine wq_call rfl 42 [] #[] rfl [] rfl (CG42 _) (vR [bx, by_]) C17.out ?_
          simp only [Act.put, List.setIfInBounds_toArray, List.set_cons_zero, List.set_cons_succ]
          refine wq_call rfl 57 [] #[] rfl [] rfl (CG57 _) (vR [bx, by_]) C18.out ?_
          simp only [Act.put, List.setIfInBounds_toArray, List.set_cons_zero, List.set_cons_succ]
          refine wq_eqP rfl (.tmp 112) (.tmp 113) rfl bx by_ bx by_ rfl rfl true (eqP_same _ _) ?_
          simp only [Act.put, List.setIfInBounds_toArray, List.set_cons_zero, List.set_cons_succ]
          refine wq_pick rfl (.tmp 111) (.tmp 114) (.const (.bool false)) rfl true rfl (.bool true) rfl ?_
          simp only [Act.put, List.setIfInBounds_toArray, List.set_cons_zero, List.set_cons_succ]
          as_aux_lemma =>
            refine wq_assign rfl (.tmp 115) rfl (.bool true) rfl ?_
            simp only [Act.put, List.setIfInBounds_toArray, List.set_cons_zero, List.set_cons_succ]
            refine wq_nil ?_
            intro W hb
            have HBW := bT HF23 hb
            clear hb HF23 HM23 HR_0 HR_1 HR_2 HR_3 HR_4 HR_5 HR_6 HR_7 HR_8
            go_wp2
            go_ret
            exact ⟨rfl, HBW.out⟩

theorem both_bytes (X Y : Nat) (hX : X < TT) (hY : Y < TT) : ∃ b : Nat, ∃ e : Int, (∀ w, Calls Try.prog 36 #[vR [X, Y]] w (Gives (.tuple #[vN b, .int .i64 e]) w)) ∧ (∀ w, Calls Try.prog 47 #[vR [X, Y]] w (Gives (.tuple #[vN b, .int .i64 e]) w)) := by
  have h1 := Check_any X Y hX hY
  have h2 := rCheck_any X Y hX hY
  rcases chk_two X Y with c | c
  · obtain ⟨p, e0, _⟩ := chk_zero _ _ c
    rw [e0]
    exact ⟨_, _, pBytes p, rBytesP p⟩
  · rw [c] at h1 h2
    exact ⟨0, 2, fun w => Bytes_bad X Y w (Lib.hid h1), fun w => rBytes_bad X Y w (Lib.hid h2)⟩
theorem both_neg (X Y : Nat) (hX : X < TT) (hY : Y < TT) : ∃ x y : Nat, (∀ w, Calls Try.prog 51 #[vR [X, Y]] w (Gives (vR [x, y]) w)) ∧ (∀ w, Calls Try.prog 52 #[vR [X, Y]] w (Gives (vR [x, y]) w)) := by
  have h1 := Check_any X Y hX hY
  have h2 := rCheck_any X Y hX hY
  rcases chk_two X Y with c | c
  · obtain ⟨p, e0, _⟩ := chk_zero _ _ c
    rw [e0]
    exact ⟨_, _, pNeg p, rNegP p⟩
  · rw [c] at h1 h2
    exact ⟨0, 1, fun w => PNeg_bad X Y w (Lib.hid h1) (Lib.hid Zero_any), fun w => rNeg_bad X Y w (Lib.hid h2) (Lib.hid rZero_any)⟩
theorem both_small (X Y : Nat) (hX : X < TT) (hY : Y < TT) : ∃ b : Bool, (∀ w, Calls Try.prog 43 #[vR [X, Y]] w (Gives (.bool b) w)) ∧ (∀ w, Calls Try.prog 56 #[vR [X, Y]] w (Gives (.bool b) w)) := by
  have h1 := Check_any X Y hX hY
  have h2 := rCheck_any X Y hX hY
  rcases chk_two X Y with c | c
  · obtain ⟨p, e0, _⟩ := chk_zero _ _ c
    rw [e0]
    exact ⟨_, pSmall p, rSmallP p⟩
  · rw [c] at h1 h2
    exact ⟨false, fun w => Small_bad X Y w (Lib.hid h1), fun w => rSmall_bad X Y w (Lib.hid h2)⟩
theorem both_mul2 (a b X Y X1 Y1 : Nat) (ha : a < TT) (hb : b < TT) (hX : X < TT) (hY : Y < TT) (hX1 : X1 < TT) (hY1 : Y1 < TT) : ∃ x y : Nat, (∀ w, Calls Try.prog 53 #[vN a, vR [X, Y], vN b, vR [X1, Y1]] w (Gives (vR [x, y]) w)) ∧ (∀ w, Calls Try.prog 54 #[vN a, vR [X, Y], vN b, vR [X1, Y1]] w (Gives (vR [x, y]) w)) := by
  have h1 := Check_any X Y hX hY
  have h2 := rCheck_any X Y hX hY
  have k1 := Check_any X1 Y1 hX1 hY1
  have k2 := rCheck_any X1 Y1 hX1 hY1
  rcases chk_two X Y with c | c
  · rcases chk_two X1 Y1 with d | d
    · obtain ⟨p, e0, _⟩ := chk_zero _ _ c
      obtain ⟨q, e1, _⟩ := chk_zero _ _ d
      rw [e0, e1]
      exact ⟨_, _, pMul2 a b ha hb p q, rMul2P a b ha hb p q⟩
    · rw [c] at h1 h2
      rw [d] at k1 k2
      exact ⟨0, 1, fun w => Mul2_bad2 a b X Y X1 Y1 w (Lib.hid h1) (Lib.hid k1) (Lib.hid Zero_any), fun w => rMul2_bad2 a b X Y X1 Y1 w (Lib.hid h2) (Lib.hid k2) (Lib.hid rZero_any)⟩
  · rw [c] at h1 h2
    exact ⟨0, 1, fun w => Mul2_bad1 a b X Y X1 Y1 w (Lib.hid h1) (Lib.hid Zero_any), fun w => rMul2_bad1 a b X Y X1 Y1 w (Lib.hid h2) (Lib.hid rZero_any)⟩
theorem both_mul (a X Y : Nat) (ha : a < TT) (hX : X < TT) (hY : Y < TT) : ∃ x y : Nat, (∀ w, Calls Try.prog 41 #[vN a, vR [X, Y]] w (Gives (vR [x, y]) w)) ∧ (∀ w, Calls Try.prog 55 #[vN a, vR [X, Y]] w (Gives (vR [x, y]) w)) := by
  obtain ⟨x, y, h1, h2⟩ := both_mul2 a 0 X Y 0 1 ha (by unfold TT; omega) hX hY (by unfold TT; omega) (by unfold TT; omega)
  exact ⟨x, y, fun w => PMul_core a X Y x y w (Lib.hid Zero_any) (Lib.hid h1), fun w => rMul_P a X Y 0 1 x y w (Lib.hid rZero_any) (Lib.hid h2)⟩
theorem both_add (X Y X1 Y1 : Nat) (hX : X < TT) (hY : Y < TT) (hX1 : X1 < TT) (hY1 : Y1 < TT) : ∃ x y : Nat, (∀ w, Calls Try.prog 44 #[vR [X, Y], vR [X1, Y1]] w (Gives (vR [x, y]) w)) ∧ (∀ w, Calls Try.prog 50 #[vR [X, Y], vR [X1, Y1]] w (Gives (vR [x, y]) w)) := by
  have h1 := Check_any X Y hX hY
  have h2 := rCheck_any X Y hX hY
  have k1 := Check_any X1 Y1 hX1 hY1
  have k2 := rCheck_any X1 Y1 hX1 hY1
  rcases chk_two X Y with c | c
  · rcases chk_two X1 Y1 with d | d
    · obtain ⟨p, e0, _⟩ := chk_zero _ _ c
      obtain ⟨q, e1, _⟩ := chk_zero _ _ d
      rw [e0, e1]
      exact ⟨_, _, pAdd p q, rAddP p q⟩
    · rw [c] at h1 h2
      rw [d] at k1 k2
      exact ⟨0, 1, fun w => PAdd_bad2 X Y X1 Y1 w (Lib.hid h1) (Lib.hid k1) (Lib.hid Zero_any), fun w => rAdd_bad2 X Y X1 Y1 w (Lib.hid h2) (Lib.hid k2) (Lib.hid rZero_any)⟩
  · rw [c] at h1 h2
    exact ⟨0, 1, fun w => PAdd_bad1 X Y X1 Y1 w (Lib.hid h1) (Lib.hid Zero_any), fun w => rAdd_bad1 X Y X1 Y1 w (Lib.hid h2) (Lib.hid rZero_any)⟩
theorem walk (X0 Y0 X1 Y1 : Nat) (z2 z3 z4 : List UInt8) (w : World) (a0 : X0 < TT) (b0 : Y0 < TT) (a1 : X1 < TT) (b1 : Y1 < TT) (w2 : z2.length = 32) (w3 : z3.length = 32) (w4 : z4.length = 32) :
    Calls Try.prog 5 #[vR [X0, Y0], vR [X1, Y1], .agg (bcs z2).toArray, .agg (bcs z3).toArray, .agg (bcs z4).toArray] w fun e w' => e = .returned (.bool true) ∧ Below w.heap.size w w' := by
  obtain ⟨a, ha, e2⟩ := bytes_num z2 w2
  obtain ⟨b, hb, e3⟩ := bytes_num z3 w3
  obtain ⟨n, hn, e4⟩ := bytes_num z4 w4
  rw [e2, e3, e4]
  obtain ⟨x, e, c1, c2⟩ := both_bytes X0 Y0 a0 b0
  obtain ⟨ux, uy, g, _, _, c3, c4⟩ := both_read n hn
  obtain ⟨sx, sy, c5, c6⟩ := both_add X0 Y0 X1 Y1 a0 b0 a1 b1
  obtain ⟨mx, my, c7, c8⟩ := both_neg X0 Y0 a0 b0
  obtain ⟨tx, ty, c9, c10⟩ := both_mul2 a b X0 Y0 X1 Y1 ha hb a0 b0 a1 b1
  obtain ⟨kx, ky, c11, c12⟩ := both_mul a X0 Y0 ha a0 b0
  obtain ⟨sm, c13, c14⟩ := both_small X0 Y0 a0 b0
  exact calls_core a b n X0 Y0 X1 Y1 x ux uy sx sy mx my tx ty kx ky bxN byN e g (chk X0 Y0) sm w (Lib.hid clives_any) (Lib.hid c1) (Lib.hid c2) (Lib.hid c3) (Lib.hid c4) (Lib.hid (Check_any X0 Y0 a0 b0)) (Lib.hid (rCheck_any X0 Y0 a0 b0)) (Lib.hid c5) (Lib.hid c6) (Lib.hid c7) (Lib.hid c8) (Lib.hid c9) (Lib.hid c10) (Lib.hid c11) (Lib.hid c12) (Lib.hid c13) (Lib.hid c14) (Lib.hid pBase) (Lib.hid rBase_any)

set_option maxRecDepth 100000 in
theorem lifted (os : Os) (started : os.Started) (H : Type) (enc : TypeId × Value → H) :
    ReturnsInHanded {} Try.checked os 5 .any (Rows.curveCallsSpec.pre6 enc Try.prog Try.f5 Rows.curveCallsRow.domain false) (Rows.curveCallsSpec.post enc Try.prog Try.f5 false true false false) := by
  refine returnsInHanded_of_change (C := Try.checked) own started (by kernel_rfl) Try.func5
    (ChangeSpec.witness6 (enc := enc) (C := Try.checked) false ⟨#[], #[.agg (Array.replicate 64 (.int .u8 0)), .agg (Array.replicate 64 (.int .u8 0)), .agg (Array.replicate 32 (.int .u8 0)), .agg (Array.replicate 32 (.int .u8 0)), .agg (Array.replicate 32 (.int .u8 0))], []⟩ 8 (by kernel_rfl) (by kernel_rfl) (by kernel_rfl) (by kernel_rfl)) ?_
  intro W base args ds gs before hval0 hW hcnd _
  have hval : ∀ (j : Nat) t v, Try.f5.params[j]? = some t → args[j]? = some v → Value.okWide Try.prog W .any base t v := hval0
  have hW' := hW
  obtain ⟨p, q, hA0, hV, rfl, hfz, hnd⟩ := hW
  have hA : DataW.TrodAll enc Try.prog W 0 (fun _ => true) true Try.f5.params.toList args.toList ds p := hA0
  rw [Try.params5] at hA hval
  obtain ⟨v0, vs0, d0, ds0, p0, q0, hargs, rfl, rfl, h0, r0⟩ := trodAll_cons hA
  obtain ⟨v1, vs1, d1, ds1, p1, q1, rfl, rfl, rfl, h1, r1⟩ := trodAll_cons r0
  obtain ⟨v2, vs2, d2, ds2, p2, q2, rfl, rfl, rfl, h2, r2⟩ := trodAll_cons r1
  obtain ⟨v3, vs3, d3, ds3, p3, q3, rfl, rfl, rfl, h3, r3⟩ := trodAll_cons r2
  obtain ⟨v4, vs4, d4, ds4, p4, q4, rfl, rfl, rfl, h4, r4⟩ := trodAll_cons r3
  obtain ⟨rfl, rfl, rfl⟩ := trodAll_nil r4
  obtain rfl : args = #[v0, v1, v2, v3, v4] := by cases args; simp_all
  obtain ⟨rfl, rfl⟩ := trodVars_none hV
  have k0 := h0
  have lt0 : ∀ x ∈ p0, x.block < W.heap.size := by obtain ⟨m, hm⟩ := k0; exact DataW.trod_lt m _ _ _ hm
  obtain ⟨X0, Y0, wX0, wY0, rfl⟩ := open_pt (hval 0 35 v0 rfl rfl) h0
  have k1 := h1
  have lt1 : ∀ x ∈ p1, x.block < W.heap.size := by obtain ⟨m, hm⟩ := k1; exact DataW.trod_lt m _ _ _ hm
  obtain ⟨X1, Y1, wX1, wY1, rfl⟩ := open_pt (hval 1 35 v1 rfl rfl) h1
  have k2 := h2
  have lt2 : ∀ x ∈ p2, x.block < W.heap.size := by obtain ⟨m, hm⟩ := k2; exact DataW.trod_lt m _ _ _ hm
  obtain ⟨z2, w2, rfl⟩ := open_arr Try.underlying23 Try.underlying5 (by kernel_rfl) (by kernel_rfl) (hval 2 23 v2 rfl rfl) h2
  have k3 := h3
  have lt3 : ∀ x ∈ p3, x.block < W.heap.size := by obtain ⟨m, hm⟩ := k3; exact DataW.trod_lt m _ _ _ hm
  obtain ⟨z3, w3, rfl⟩ := open_arr Try.underlying23 Try.underlying5 (by kernel_rfl) (by kernel_rfl) (hval 3 23 v3 rfl rfl) h3
  have k4 := h4
  have lt4 : ∀ x ∈ p4, x.block < W.heap.size := by obtain ⟨m, hm⟩ := k4; exact DataW.trod_lt m _ _ _ hm
  obtain ⟨z4, w4, rfl⟩ := open_arr Try.underlying22 Try.underlying5 (by kernel_rfl) (by kernel_rfl) (hval 4 22 v4 rfl rfl) h4
  clear hA0 hval0
  refine (walk X0 Y0 X1 Y1 z2 z3 z4 W wX0 wY0 wX1 wY1 w2 w3 w4).mono fun e W' ⟨he, bel⟩ => ?_
  subst he
  exact ⟨_, rfl, _, _, _, [], _, [], hW', trodAll_mk1 (shut_bool Try.underlying4 _), (trodAll_cons_mk (Below.trod laidOut (by kernel_rfl) (of_decide_eq_true (by kernel_rfl)) k0 bel lt0) (trodAll_cons_mk (Below.trod laidOut (by kernel_rfl) (of_decide_eq_true (by kernel_rfl)) k1 bel lt1) (trodAll_cons_mk (Below.trod laidOut (by kernel_rfl) (of_decide_eq_true (by kernel_rfl)) k2 bel lt2) (trodAll_cons_mk (Below.trod laidOut (by kernel_rfl) (of_decide_eq_true (by kernel_rfl)) k3 bel lt3) (trodAll_cons_mk (Below.trod laidOut (by kernel_rfl) (of_decide_eq_true (by kernel_rfl)) k4 bel lt4) trodAll_mk0))))), rfl, bel.frame _, fun h => by cases h⟩

theorem over : Rows.curveCallsRow.holds Try.pinned (OpenSpec.ofChange Rows.curveCallsSpec) :=
  OpenClaim.holds_of_wide 5 Try.f5 rfl rfl rfl rfl rfl rfl rfl ⟨rfl, rfl, rfl, rfl, rfl⟩ rfl rfl rfl rfl rfl (by kernel_rfl) Try.func5 (by kernel_rfl)
    (of_decide_eq_true (by kernel_rfl)) (by unfold Func.isWrapper; first | (rw [if_pos (by decide +kernel)]; kernel_rfl) | (rw [if_neg (by decide +kernel)]; exact ⟨rfl, rfl⟩))
    (fun os started H enc _ => lifted os started H enc)

/-- The statement. -/
theorem proved : Rows.CurveCallsSaid := over
#print axioms proved
end Go.Proofs.Ytgdimnbdnepbgaa.curveCalls
