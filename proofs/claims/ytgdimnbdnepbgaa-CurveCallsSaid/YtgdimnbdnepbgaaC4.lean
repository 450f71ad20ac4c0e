/- Several texts in one. No statement is proved here. -/
import Derived.Test.YtgdimnbdnepbgaaC3
import Derived.Test.YtgdimnbdnepbgaaC2
/- The reference's sum of points by three. No statement is proved here. -/
namespace Go.Proofs.Ytgdimnbdnepbgaa
open Go.RowKit
set_option linter.unusedVariables false
set_option maxRecDepth 40000
set_option linter.unusedSimpArgs false

set_option maxHeartbeats 600000 in
theorem plus_far (d p1 p2 p3 q1 q2 q3 a b c e h m f g s u v k x r1 r2 r3 r4 r5 : List Nat) (w : World)
    (Ld : Hid (d.length = 10))
    (Lp1 : Hid (p1.length = 10))
    (Lp2 : Hid (p2.length = 10))
    (Lp3 : Hid (p3.length = 10))
    (Lq1 : Hid (q1.length = 10))
    (Lq2 : Hid (q2.length = 10))
    (Lq3 : Hid (q3.length = 10))
    (La : Hid (a.length = 10))
    (Lb : Hid (b.length = 10))
    (Lc : Hid (c.length = 10))
    (Le : Hid (e.length = 10))
    (Lh : Hid (h.length = 10))
    (Lm : Hid (m.length = 10))
    (Lf : Hid (f.length = 10))
    (Lg : Hid (g.length = 10))
    (Ls : Hid (s.length = 10))
    (Lu : Hid (u.length = 10))
    (Lv : Hid (v.length = 10))
    (Lk : Hid (k.length = 10))
    (Lx : Hid (x.length = 10))
    (Lr1 : Hid (r1.length = 10))
    (Lr2 : Hid (r2.length = 10))
    (Lr3 : Hid (r3.length = 10))
    (Lr4 : Hid (r4.length = 10))
    (Lr5 : Hid (r5.length = 10))
    (C0 : Hid (∀ w, Calls Try.prog 75 #[.agg (ics p3).toArray, .agg (ics q3).toArray] w (Gives (.agg (ics a).toArray) w)))
    (C1 : Hid (∀ w, Calls Try.prog 75 #[.agg (ics a).toArray, .agg (ics a).toArray] w (Gives (.agg (ics b).toArray) w)))
    (C2 : Hid (∀ w, Calls Try.prog 75 #[.agg (ics p1).toArray, .agg (ics q1).toArray] w (Gives (.agg (ics c).toArray) w)))
    (C3 : Hid (∀ w, Calls Try.prog 75 #[.agg (ics p2).toArray, .agg (ics q2).toArray] w (Gives (.agg (ics e).toArray) w)))
    (C4 : Hid (∀ w, Calls Try.prog 75 #[.agg (ics c).toArray, .agg (ics e).toArray] w (Gives (.agg (ics h).toArray) w)))
    (C5 : Hid (∀ w, Calls Try.prog 75 #[.agg (ics d).toArray, .agg (ics h).toArray] w (Gives (.agg (ics m).toArray) w)))
    (C6 : Hid (∀ w, Calls Try.prog 73 #[.agg (ics b).toArray, .agg (ics m).toArray] w (Gives (.agg (ics f).toArray) w)))
    (C7 : Hid (∀ w, Calls Try.prog 71 #[.agg (ics b).toArray, .agg (ics m).toArray] w (Gives (.agg (ics g).toArray) w)))
    (C8 : Hid (∀ w, Calls Try.prog 71 #[.agg (ics c).toArray, .agg (ics e).toArray] w (Gives (.agg (ics s).toArray) w)))
    (C9 : Hid (∀ w, Calls Try.prog 71 #[.agg (ics p1).toArray, .agg (ics p2).toArray] w (Gives (.agg (ics u).toArray) w)))
    (C10 : Hid (∀ w, Calls Try.prog 71 #[.agg (ics q1).toArray, .agg (ics q2).toArray] w (Gives (.agg (ics v).toArray) w)))
    (C11 : Hid (∀ w, Calls Try.prog 75 #[.agg (ics u).toArray, .agg (ics v).toArray] w (Gives (.agg (ics k).toArray) w)))
    (C12 : Hid (∀ w, Calls Try.prog 73 #[.agg (ics k).toArray, .agg (ics s).toArray] w (Gives (.agg (ics x).toArray) w)))
    (C13 : Hid (∀ w, Calls Try.prog 75 #[.agg (ics f).toArray, .agg (ics x).toArray] w (Gives (.agg (ics r1).toArray) w)))
    (C14 : Hid (∀ w, Calls Try.prog 75 #[.agg (ics a).toArray, .agg (ics r1).toArray] w (Gives (.agg (ics r2).toArray) w)))
    (C15 : Hid (∀ w, Calls Try.prog 75 #[.agg (ics g).toArray, .agg (ics s).toArray] w (Gives (.agg (ics r3).toArray) w)))
    (C16 : Hid (∀ w, Calls Try.prog 75 #[.agg (ics a).toArray, .agg (ics r3).toArray] w (Gives (.agg (ics r4).toArray) w)))
    (C17 : Hid (∀ w, Calls Try.prog 75 #[.agg (ics f).toArray, .agg (ics g).toArray] w (Gives (.agg (ics r5).toArray) w))) :
    Calls Try.prog 86 #[.agg (ics d).toArray, .agg (ics (fw p1 p2 p3)).toArray, .agg (ics (fw q1 q2 q3)).toArray] w (Gives (.agg (ics (fw r2 r4 r5)).toArray) w) := by
  have HM0 : Hid (Rws w []) := rw0 w
  have HF0 : Hid (Below w.heap.size w w) := Lib.hid (Below.refl _ _)
  go_enter Try.func86, Try.ntmps86
  go_wp2_with (first | ((with_reducible show wpList _ _ _ (⟨some 3, .box 65 (.tmp 0), _, _, _, _⟩ :: _) _ _); go_must (refine wpList_box_row rfl 65 (.tmp 0) rfl (ics d).toArray rfl ?_; intro u1 a1 b1 c1; have HG2 : Hid (w.heap.size ≤ w.heap.size) := Lib.hid HF0.out.size; have HM2 := rwN HM0 (below_of_grownBy c1) (cbS (cs := ics d) a1); have HF2 := bT HF0 (below_of_grownBy c1); clear a1 b1 c1 HM0 HF0)) | ((with_reducible show wpList _ _ _ (⟨some 4, .box 83 (.tmp 1), _, _, _, _⟩ :: _) _ _); go_must (refine wpList_box_row rfl 83 (.tmp 1) rfl (ics (fw p1 p2 p3)).toArray rfl ?_; intro u3 a3 b3 c3; have HG4 : Hid (w.heap.size ≤ u1.heap.size) := Lib.hid HF2.out.size; have HM4 := rwN HM2 (below_of_grownBy c3) (cbS (cs := ics (fw p1 p2 p3)) a3); have HF4 := bT HF2 (below_of_grownBy c3); clear a3 b3 c3 HM2 HF2)) | ((with_reducible show wpList _ _ _ (⟨some 5, .box 83 (.tmp 2), _, _, _, _⟩ :: _) _ _); go_must (refine wpList_box_row rfl 83 (.tmp 2) rfl (ics (fw q1 q2 q3)).toArray rfl ?_; intro u5 a5 b5 c5; have HG6 : Hid (w.heap.size ≤ u3.heap.size) := Lib.hid HF4.out.size; have HM6 := rwN HM4 (below_of_grownBy c5) (cbS (cs := ics (fw q1 q2 q3)) a5); have HF6 := bT HF4 (below_of_grownBy c5); clear a5 b5 c5 HM4 HF4)) | ((with_reducible show wpList _ _ _ (⟨some 6, .alloc 83, _, _, _, _⟩ :: _) _ _); go_must (refine wpList_alloc_row rfl 83 rfl (.agg zi30.toArray) zero83 ?_; intro u7 a7 b7 c7; have HG8 : Hid (w.heap.size ≤ u5.heap.size) := Lib.hid HF6.out.size; have HM8 := rwN HM6 (below_of_grownBy c7) (cbS (cs := zi30) a7); have HF8 := bT HF6 (below_of_grownBy c7); clear a7 b7 c7 HM6 HF6)) | ((with_reducible show wpList _ _ _ (⟨some 17, .load 65 (.tmp 16), _, _, _, _⟩ :: _) _ _); go_must (refine wpList_exec rfl (.agg (ics p3).toArray) (load2 (.tmp 16) rfl (u1.heap.size) p1 p2 p3 rfl (rwG HM8 2 rfl) Lp1.out Lp2.out Lp3.out) ?_)) | ((with_reducible show wpList _ _ _ (⟨some 19, .load 65 (.tmp 18), _, _, _, _⟩ :: _) _ _); go_must (refine wpList_exec rfl (.agg (ics q3).toArray) (load2 (.tmp 18) rfl (u3.heap.size) q1 q2 q3 rfl (rwG HM8 1 rfl) Lq1.out Lq2.out Lq3.out) ?_)) | fail)
  generalize u1.heap.size = gp at *
  generalize u3.heap.size = gq at *
  generalize u5.heap.size = gr at *
  refine (C0.out _).mono ?_
  rintro e9 x9 ⟨rfl, hb9⟩
  have HM9 := rwC HM8 hb9
  have HF9 := bT HF8 hb9
  clear hb9 HM8 HF8
  go_wp2_with (first | ((with_reducible show wpList _ _ _ (⟨some 7, .alloc 65, _, _, _, _⟩ :: _) _ _); go_must (refine wpList_mk rfl 65 rfl ziw zero65 (.tmp 7) (.tmp 20) rfl (ics a) rfl rfl rfl (by rw [ile La.out]; exact size65) (Eq.symm (by rw [ile La.out]; rfl)) (ics_one _) ?_; intro y10 a10 b10; have HG11 : Hid (w.heap.size ≤ x9.heap.size) := Lib.hid HF9.out.size; have HM11 := rwN HM9 b10 a10; have HF11 := bT HF9 b10; clear a10 b10 HM9 HF9)) | ((with_reducible show wpList _ _ _ (⟨some 21, .load 65 (.tmp 7), _, _, _, _⟩ :: _) _ _); go_must (refine wpList_exec rfl (.agg (ics a).toArray) (loadW (.tmp 7) rfl (x9.heap.size) a rfl (rwG HM11 0 rfl) La.out) ?_)) | ((with_reducible show wpList _ _ _ (⟨some 22, .load 65 (.tmp 7), _, _, _, _⟩ :: _) _ _); go_must (refine wpList_exec rfl (.agg (ics a).toArray) (loadW (.tmp 7) rfl (x9.heap.size) a rfl (rwG HM11 0 rfl) La.out) ?_)) | fail)
  generalize x9.heap.size = ga at *
  refine (C1.out _).mono ?_
  rintro e12 x12 ⟨rfl, hb12⟩
  have HM12 := rwC HM11 hb12
  have HF12 := bT HF11 hb12
  clear hb12 HM11 HF11
  go_wp2_with (first | ((with_reducible show wpList _ _ _ (⟨some 8, .alloc 65, _, _, _, _⟩ :: _) _ _); go_must (refine wpList_mk rfl 65 rfl ziw zero65 (.tmp 8) (.tmp 23) rfl (ics b) rfl rfl rfl (by rw [ile Lb.out]; exact size65) (Eq.symm (by rw [ile Lb.out]; rfl)) (ics_one _) ?_; intro y13 a13 b13; have HG14 : Hid (w.heap.size ≤ x12.heap.size) := Lib.hid HF12.out.size; have HM14 := rwN HM12 b13 a13; have HF14 := bT HF12 b13; clear a13 b13 HM12 HF12)) | fail)
  generalize x12.heap.size = gb at *
  refine RO.region_once (P := Try.prog) [.val (.pointer (some ⟨gp, 0, none⟩)), .val (.agg (ics p1).toArray), .val (.pointer (some ⟨gq, 0, none⟩)), .val (.agg (ics q1).toArray), .val (.agg (ics c).toArray), .val (.pointer (some ⟨gp, 10, none⟩)), .val (.agg (ics p2).toArray), .val (.pointer (some ⟨gq, 10, none⟩)), .val (.agg (ics q2).toArray), .val (.agg (ics e).toArray), .new ziw 65 (ics c).toArray, .new ziw 65 (ics e).toArray, .put 10, .put 11] 75 (by kernel_rfl) (by kernel_rfl) (by kernel_rfl) (by kernel_rfl) rfl rfl ⟨
    fun γ a_ w_ hb D => .inl (exec_field 83 (.tmp 4) 0 rfl (gp) 0 (D.2 4 rfl) (fld83_0 _)),
    fun γ a_ w_ hb D => .inl (load0 (.tmp 24) rfl (gp) p1 p2 p3 (D.1 0 24 rfl rfl) ((rwG HM14 4 rfl).keep hb) Lp1.out),
    fun γ a_ w_ hb D => .inl (exec_field 83 (.tmp 5) 0 rfl (gq) 0 (D.2 5 rfl) (fld83_0 _)),
    fun γ a_ w_ hb D => .inl (load0 (.tmp 26) rfl (gq) q1 q2 q3 (D.1 2 26 rfl rfl) ((rwG HM14 3 rfl).keep hb) Lq1.out),
    fun γ a_ w_ hb D => vcall 75 [.tmp 25, .tmp 27] #[65, 65] rfl [.agg (ics p1).toArray, .agg (ics q1).toArray] (hx2 (D.1 1 25 rfl rfl) (D.1 3 27 rfl rfl)) (CG75 _) C2.out,
    fun γ a_ w_ hb D => .inl (exec_field 83 (.tmp 4) 1 rfl (gp) 10 (D.2 4 rfl) (fld83_1 _)),
    fun γ a_ w_ hb D => .inl (load1 (.tmp 29) rfl (gp) p1 p2 p3 (D.1 5 29 rfl rfl) ((rwG HM14 4 rfl).keep hb) Lp1.out Lp2.out),
    fun γ a_ w_ hb D => .inl (exec_field 83 (.tmp 5) 1 rfl (gq) 10 (D.2 5 rfl) (fld83_1 _)),
    fun γ a_ w_ hb D => .inl (load1 (.tmp 31) rfl (gq) q1 q2 q3 (D.1 7 31 rfl rfl) ((rwG HM14 3 rfl).keep hb) Lq1.out Lq2.out),
    fun γ a_ w_ hb D => vcall 75 [.tmp 30, .tmp 32] #[65, 65] rfl [.agg (ics p2).toArray, .agg (ics q2).toArray] (hx2 (D.1 6 30 rfl rfl) (D.1 8 32 rfl rfl)) (CG75 _) C3.out,
    fun a_ w_ => exec_alloc 65 rfl (.agg ziw) zero65 w_,
    fun a_ w_ => exec_alloc 65 rfl (.agg ziw) zero65 w_,
    RO.put_ok rfl (fun γ a_ w_ D hz => fill 65 (.tmp 9) (.tmp 28) rfl (γ 10) (ics c) (zi10) (by rw [ile Lc.out]; exact size65) (by rw [ile Lc.out]; rfl) (ics_one _) (D.1 10 9 rfl rfl) (D.1 4 28 rfl rfl) hz),
    RO.put_ok rfl (fun γ a_ w_ D hz => fill 65 (.tmp 10) (.tmp 33) rfl (γ 11) (ics e) (zi10) (by rw [ile Le.out]; exact size65) (by rw [ile Le.out]; rfl) (ics_one _) (D.1 11 10 rfl rfl) (D.1 9 33 rfl rfl) hz),
    trivial⟩ ?_
  intro γ W15 F15
  simp only [RO.lexi, RO.vof, Act.put, List.setIfInBounds_toArray, List.set_cons_zero, List.set_cons_succ, List.getElem?_cons_zero, List.getElem?_cons_succ, List.take_succ_cons, List.take_zero]
  have HG15_10 : Hid (w.heap.size ≤ γ 10) := Lib.hid (Nat.le_trans HF14.out.size (F15.row 10 _ _ _ rfl).1)
  have HG15_11 : Hid (w.heap.size ≤ γ 11) := Lib.hid (Nat.le_trans HF14.out.size (F15.row 11 _ _ _ rfl).1)
  have HM15 := rwD (rwD (rwC HM14 F15.bel) (cbS (cs := ics c) (F15.row 10 _ _ _ rfl).2)) (cbS (cs := ics e) (F15.row 11 _ _ _ rfl).2)
  have HF15 := bT HF14 F15.bel
  clear F15 HM14 HF14
  generalize γ 10 = gc at *
  generalize γ 11 = ge at *
  clear γ
  go_wp2_with fail
  refine RO.region_once (P := Try.prog) [.val (.agg (ics d).toArray), .val (.agg (ics c).toArray), .val (.agg (ics e).toArray), .val (.agg (ics h).toArray), .val (.agg (ics m).toArray), .new ziw 65 (ics m).toArray, .put 5] 75 (by kernel_rfl) (by kernel_rfl) (by kernel_rfl) (by kernel_rfl) rfl rfl ⟨
    fun γ a_ w_ hb D => .inl (loadW (.tmp 3) rfl (w.heap.size) d (D.2 3 rfl) ((rwG HM15 7 rfl).keep hb) Ld.out),
    fun γ a_ w_ hb D => .inl (loadW (.tmp 9) rfl (gc) c (D.2 9 rfl) ((rwG HM15 1 rfl).keep hb) Lc.out),
    fun γ a_ w_ hb D => .inl (loadW (.tmp 10) rfl (ge) e (D.2 10 rfl) ((rwG HM15 0 rfl).keep hb) Le.out),
    fun γ a_ w_ hb D => vcall 75 [.tmp 35, .tmp 36] #[65, 65] rfl [.agg (ics c).toArray, .agg (ics e).toArray] (hx2 (D.1 1 35 rfl rfl) (D.1 2 36 rfl rfl)) (CG75 _) C4.out,
    fun γ a_ w_ hb D => vcall 75 [.tmp 34, .tmp 37] #[65, 65] rfl [.agg (ics d).toArray, .agg (ics h).toArray] (hx2 (D.1 0 34 rfl rfl) (D.1 3 37 rfl rfl)) (CG75 _) C5.out,
    fun a_ w_ => exec_alloc 65 rfl (.agg ziw) zero65 w_,
    RO.put_ok rfl (fun γ a_ w_ D hz => fill 65 (.tmp 11) (.tmp 38) rfl (γ 5) (ics m) (zi10) (by rw [ile Lm.out]; exact size65) (by rw [ile Lm.out]; rfl) (ics_one _) (D.1 5 11 rfl rfl) (D.1 4 38 rfl rfl) hz),
    trivial⟩ ?_
  intro γ W16 F16
  simp only [RO.lexi, RO.vof, Act.put, List.setIfInBounds_toArray, List.set_cons_zero, List.set_cons_succ, List.getElem?_cons_zero, List.getElem?_cons_succ, List.take_succ_cons, List.take_zero]
  have HG16_5 : Hid (w.heap.size ≤ γ 5) := Lib.hid (Nat.le_trans HF15.out.size (F16.row 5 _ _ _ rfl).1)
  have HM16 := rwD (rwC HM15 F16.bel) (cbS (cs := ics m) (F16.row 5 _ _ _ rfl).2)
  have HF16 := bT HF15 F16.bel
  clear F16 HM15 HF15
  generalize γ 5 = gm at *
  clear γ
  go_wp2_with fail
  refine RO.region_once (P := Try.prog) [.val (.agg (ics b).toArray), .val (.agg (ics m).toArray), .val (.agg (ics f).toArray), .val (.agg (ics b).toArray), .val (.agg (ics m).toArray), .val (.agg (ics g).toArray), .new ziw 65 (ics f).toArray, .new ziw 65 (ics g).toArray, .put 6, .put 7] 75 (by kernel_rfl) (by kernel_rfl) (by kernel_rfl) (by kernel_rfl) rfl rfl ⟨
    fun γ a_ w_ hb D => .inl (loadW (.tmp 8) rfl (gb) b (D.2 8 rfl) ((rwG HM16 3 rfl).keep hb) Lb.out),
    fun γ a_ w_ hb D => .inl (loadW (.tmp 11) rfl (gm) m (D.2 11 rfl) ((rwG HM16 0 rfl).keep hb) Lm.out),
    fun γ a_ w_ hb D => vcall 73 [.tmp 39, .tmp 40] #[65, 65] rfl [.agg (ics b).toArray, .agg (ics m).toArray] (hx2 (D.1 0 39 rfl rfl) (D.1 1 40 rfl rfl)) (CG73 _) C6.out,
    fun γ a_ w_ hb D => .inl (loadW (.tmp 8) rfl (gb) b (D.2 8 rfl) ((rwG HM16 3 rfl).keep hb) Lb.out),
    fun γ a_ w_ hb D => .inl (loadW (.tmp 11) rfl (gm) m (D.2 11 rfl) ((rwG HM16 0 rfl).keep hb) Lm.out),
    fun γ a_ w_ hb D => vcall 71 [.tmp 42, .tmp 43] #[65, 65] rfl [.agg (ics b).toArray, .agg (ics m).toArray] (hx2 (D.1 3 42 rfl rfl) (D.1 4 43 rfl rfl)) (CG71 _) C7.out,
    fun a_ w_ => exec_alloc 65 rfl (.agg ziw) zero65 w_,
    fun a_ w_ => exec_alloc 65 rfl (.agg ziw) zero65 w_,
    RO.put_ok rfl (fun γ a_ w_ D hz => fill 65 (.tmp 12) (.tmp 41) rfl (γ 6) (ics f) (zi10) (by rw [ile Lf.out]; exact size65) (by rw [ile Lf.out]; rfl) (ics_one _) (D.1 6 12 rfl rfl) (D.1 2 41 rfl rfl) hz),
    RO.put_ok rfl (fun γ a_ w_ D hz => fill 65 (.tmp 13) (.tmp 44) rfl (γ 7) (ics g) (zi10) (by rw [ile Lg.out]; exact size65) (by rw [ile Lg.out]; rfl) (ics_one _) (D.1 7 13 rfl rfl) (D.1 5 44 rfl rfl) hz),
    trivial⟩ ?_
  intro γ W17 F17
  simp only [RO.lexi, RO.vof, Act.put, List.setIfInBounds_toArray, List.set_cons_zero, List.set_cons_succ, List.getElem?_cons_zero, List.getElem?_cons_succ, List.take_succ_cons, List.take_zero]
  have HG17_6 : Hid (w.heap.size ≤ γ 6) := Lib.hid (Nat.le_trans HF16.out.size (F17.row 6 _ _ _ rfl).1)
  have HG17_7 : Hid (w.heap.size ≤ γ 7) := Lib.hid (Nat.le_trans HF16.out.size (F17.row 7 _ _ _ rfl).1)
  have HM17 := rwD (rwD (rwC HM16 F17.bel) (cbS (cs := ics f) (F17.row 6 _ _ _ rfl).2)) (cbS (cs := ics g) (F17.row 7 _ _ _ rfl).2)
  have HF17 := bT HF16 F17.bel
  clear F17 HM16 HF16
  generalize γ 6 = gf at *
  generalize γ 7 = gg at *
  clear γ
  go_wp2_with (first | ((with_reducible show wpList _ _ _ (⟨some 45, .load 65 (.tmp 9), _, _, _, _⟩ :: _) _ _); go_must (refine wpList_exec rfl (.agg (ics c).toArray) (loadW (.tmp 9) rfl (gc) c rfl (rwG HM17 4 rfl) Lc.out) ?_)) | ((with_reducible show wpList _ _ _ (⟨some 46, .load 65 (.tmp 10), _, _, _, _⟩ :: _) _ _); go_must (refine wpList_exec rfl (.agg (ics e).toArray) (loadW (.tmp 10) rfl (ge) e rfl (rwG HM17 3 rfl) Le.out) ?_)) | fail)
  refine (C8.out _).mono ?_
  rintro e18 x18 ⟨rfl, hb18⟩
  have HM18 := rwC HM17 hb18
  have HF18 := bT HF17 hb18
  clear hb18 HM17 HF17
  go_wp2_with (first | ((with_reducible show wpList _ _ _ (⟨some 14, .alloc 65, _, _, _, _⟩ :: _) _ _); go_must (refine wpList_mk rfl 65 rfl ziw zero65 (.tmp 14) (.tmp 47) rfl (ics s) rfl rfl rfl (by rw [ile Ls.out]; exact size65) (Eq.symm (by rw [ile Ls.out]; rfl)) (ics_one _) ?_; intro y19 a19 b19; have HG20 : Hid (w.heap.size ≤ x18.heap.size) := Lib.hid HF18.out.size; have HM20 := rwN HM18 b19 a19; have HF20 := bT HF18 b19; clear a19 b19 HM18 HF18)) | fail)
  generalize x18.heap.size = gs at *
  refine RO.region_once (P := Try.prog) [.val (.pointer (some ⟨gp, 0, none⟩)), .val (.agg (ics p1).toArray), .val (.pointer (some ⟨gp, 10, none⟩)), .val (.agg (ics p2).toArray), .val (.agg (ics u).toArray), .val (.pointer (some ⟨gq, 0, none⟩)), .val (.agg (ics q1).toArray), .val (.pointer (some ⟨gq, 10, none⟩)), .val (.agg (ics q2).toArray), .val (.agg (ics v).toArray), .val (.agg (ics k).toArray), .val (.agg (ics s).toArray), .val (.agg (ics x).toArray), .new ziw 65 (ics x).toArray, .put 13] 75 (by kernel_rfl) (by kernel_rfl) (by kernel_rfl) (by kernel_rfl) rfl rfl ⟨
    fun γ a_ w_ hb D => .inl (exec_field 83 (.tmp 4) 0 rfl (gp) 0 (D.2 4 rfl) (fld83_0 _)),
    fun γ a_ w_ hb D => .inl (load0 (.tmp 48) rfl (gp) p1 p2 p3 (D.1 0 48 rfl rfl) ((rwG HM20 10 rfl).keep hb) Lp1.out),
    fun γ a_ w_ hb D => .inl (exec_field 83 (.tmp 4) 1 rfl (gp) 10 (D.2 4 rfl) (fld83_1 _)),
    fun γ a_ w_ hb D => .inl (load1 (.tmp 50) rfl (gp) p1 p2 p3 (D.1 2 50 rfl rfl) ((rwG HM20 10 rfl).keep hb) Lp1.out Lp2.out),
    fun γ a_ w_ hb D => vcall 71 [.tmp 49, .tmp 51] #[65, 65] rfl [.agg (ics p1).toArray, .agg (ics p2).toArray] (hx2 (D.1 1 49 rfl rfl) (D.1 3 51 rfl rfl)) (CG71 _) C9.out,
    fun γ a_ w_ hb D => .inl (exec_field 83 (.tmp 5) 0 rfl (gq) 0 (D.2 5 rfl) (fld83_0 _)),
    fun γ a_ w_ hb D => .inl (load0 (.tmp 53) rfl (gq) q1 q2 q3 (D.1 5 53 rfl rfl) ((rwG HM20 9 rfl).keep hb) Lq1.out),
    fun γ a_ w_ hb D => .inl (exec_field 83 (.tmp 5) 1 rfl (gq) 10 (D.2 5 rfl) (fld83_1 _)),
    fun γ a_ w_ hb D => .inl (load1 (.tmp 55) rfl (gq) q1 q2 q3 (D.1 7 55 rfl rfl) ((rwG HM20 9 rfl).keep hb) Lq1.out Lq2.out),
    fun γ a_ w_ hb D => vcall 71 [.tmp 54, .tmp 56] #[65, 65] rfl [.agg (ics q1).toArray, .agg (ics q2).toArray] (hx2 (D.1 6 54 rfl rfl) (D.1 8 56 rfl rfl)) (CG71 _) C10.out,
    fun γ a_ w_ hb D => vcall 75 [.tmp 52, .tmp 57] #[65, 65] rfl [.agg (ics u).toArray, .agg (ics v).toArray] (hx2 (D.1 4 52 rfl rfl) (D.1 9 57 rfl rfl)) (CG75 _) C11.out,
    fun γ a_ w_ hb D => .inl (loadW (.tmp 14) rfl (gs) s (D.2 14 rfl) ((rwG HM20 0 rfl).keep hb) Ls.out),
    fun γ a_ w_ hb D => vcall 73 [.tmp 58, .tmp 59] #[65, 65] rfl [.agg (ics k).toArray, .agg (ics s).toArray] (hx2 (D.1 10 58 rfl rfl) (D.1 11 59 rfl rfl)) (CG73 _) C12.out,
    fun a_ w_ => exec_alloc 65 rfl (.agg ziw) zero65 w_,
    RO.put_ok rfl (fun γ a_ w_ D hz => fill 65 (.tmp 15) (.tmp 60) rfl (γ 13) (ics x) (zi10) (by rw [ile Lx.out]; exact size65) (by rw [ile Lx.out]; rfl) (ics_one _) (D.1 13 15 rfl rfl) (D.1 12 60 rfl rfl) hz),
    trivial⟩ ?_
  intro γ W21 F21
  simp only [RO.lexi, RO.vof, Act.put, List.setIfInBounds_toArray, List.set_cons_zero, List.set_cons_succ, List.getElem?_cons_zero, List.getElem?_cons_succ, List.take_succ_cons, List.take_zero]
  have HG21_13 : Hid (w.heap.size ≤ γ 13) := Lib.hid (Nat.le_trans HF20.out.size (F21.row 13 _ _ _ rfl).1)
  have HM21 := rwD (rwC HM20 F21.bel) (cbS (cs := ics x) (F21.row 13 _ _ _ rfl).2)
  have HF21 := bT HF20 F21.bel
  clear F21 HM20 HF20
  generalize γ 13 = gx at *
  clear γ
  go_wp2_with fail
  refine RO.region_out (P := Try.prog) [.val (.agg (ics a).toArray), .val (.agg (ics f).toArray), .val (.agg (ics x).toArray), .val (.agg (ics r1).toArray), .val (.agg (ics r2).toArray), .val (.agg (ics a).toArray), .val (.agg (ics g).toArray), .val (.agg (ics s).toArray), .val (.agg (ics r3).toArray), .val (.agg (ics r4).toArray), .val (.agg (ics f).toArray), .val (.agg (ics g).toArray), .val (.agg (ics r5).toArray), .val (.agg (ics (fw r2 r4 r5)).toArray)] 75 14 rfl (by kernel_rfl) (by kernel_rfl) (by kernel_rfl) (by kernel_rfl) rfl rfl ⟨
    fun γ a_ w_ hb D => .inl (loadW (.tmp 7) rfl (ga) a (D.2 7 rfl) ((rwG HM21 8 rfl).keep hb) La.out),
    fun γ a_ w_ hb D => .inl (loadW (.tmp 12) rfl (gf) f (D.2 12 rfl) ((rwG HM21 3 rfl).keep hb) Lf.out),
    fun γ a_ w_ hb D => .inl (loadW (.tmp 15) rfl (gx) x (D.2 15 rfl) ((rwG HM21 0 rfl).keep hb) Lx.out),
    fun γ a_ w_ hb D => vcall 75 [.tmp 62, .tmp 63] #[65, 65] rfl [.agg (ics f).toArray, .agg (ics x).toArray] (hx2 (D.1 1 62 rfl rfl) (D.1 2 63 rfl rfl)) (CG75 _) C13.out,
    fun γ a_ w_ hb D => vcall 75 [.tmp 61, .tmp 64] #[65, 65] rfl [.agg (ics a).toArray, .agg (ics r1).toArray] (hx2 (D.1 0 61 rfl rfl) (D.1 3 64 rfl rfl)) (CG75 _) C14.out,
    fun γ a_ w_ hb D => .inl (loadW (.tmp 7) rfl (ga) a (D.2 7 rfl) ((rwG HM21 8 rfl).keep hb) La.out),
    fun γ a_ w_ hb D => .inl (loadW (.tmp 13) rfl (gg) g (D.2 13 rfl) ((rwG HM21 2 rfl).keep hb) Lg.out),
    fun γ a_ w_ hb D => .inl (loadW (.tmp 14) rfl (gs) s (D.2 14 rfl) ((rwG HM21 1 rfl).keep hb) Ls.out),
    fun γ a_ w_ hb D => vcall 75 [.tmp 67, .tmp 68] #[65, 65] rfl [.agg (ics g).toArray, .agg (ics s).toArray] (hx2 (D.1 6 67 rfl rfl) (D.1 7 68 rfl rfl)) (CG75 _) C15.out,
    fun γ a_ w_ hb D => vcall 75 [.tmp 66, .tmp 69] #[65, 65] rfl [.agg (ics a).toArray, .agg (ics r3).toArray] (hx2 (D.1 5 66 rfl rfl) (D.1 8 69 rfl rfl)) (CG75 _) C16.out,
    fun γ a_ w_ hb D => .inl (loadW (.tmp 12) rfl (gf) f (D.2 12 rfl) ((rwG HM21 3 rfl).keep hb) Lf.out),
    fun γ a_ w_ hb D => .inl (loadW (.tmp 13) rfl (gg) g (D.2 13 rfl) ((rwG HM21 2 rfl).keep hb) Lg.out),
    fun γ a_ w_ hb D => vcall 75 [.tmp 71, .tmp 72] #[65, 65] rfl [.agg (ics f).toArray, .agg (ics g).toArray] (hx2 (D.1 10 71 rfl rfl) (D.1 11 72 rfl rfl)) (CG75 _) C17.out,
    fun γ a_ w_ hb D => .inl (exec_build83 (.tmp 65) (.tmp 70) (.tmp 73) rfl r2 r4 r5 (D.1 4 65 rfl rfl) (D.1 9 70 rfl rfl) (D.1 12 73 rfl rfl) Lr2.out Lr4.out Lr5.out),
    trivial⟩ (by kernel_rfl) _ rfl rfl ?_
  intro γ W22 F22
  simp only [RO.lexi, RO.vof, Act.put, List.setIfInBounds_toArray, List.set_cons_zero, List.set_cons_succ, List.getElem?_cons_zero, List.getElem?_cons_succ, List.take_succ_cons, List.take_zero]
  refine exec_putR (w0 := w) 83 (.tmp 6) (.tmp 74) rfl (gr) rfl (ics (fw r2 r4 r5)) (zi30) rfl ((rwG HM21 9 rfl).keep F22.bel) (by rw [fw_len Lr2.out Lr4.out Lr5.out]; exact size83) (by rw [fw_len Lr2.out Lr4.out Lr5.out]; rfl) (ics_one _) (bT HF21 F22.bel).out HG8.out ?_
  intro y22 hc22 hb22
  have HC22 := Lib.hid hc22
  have HF22 := Lib.hid hb22
  clear hc22 hb22 F22 HM21 HF21
  go_wp2_with fail
  obtain ⟨tr, htr⟩ := HC22.out
  exact bodyPost_ret (results_cell_row rfl _ _ (gr) tr (ics (fw r2 r4 r5)).toArray _ _ rfl htr Try.underlying83 rfl (by rw [List.size_toArray, fw_len Lr2.out Lr4.out Lr5.out]; exact size83)) rfl ⟨rfl, HF22.out⟩
end Go.Proofs.Ytgdimnbdnepbgaa
/- Bytes, bits and numbers. No statement is proved here. -/
namespace Go.Proofs.Ytgdimnbdnepbgaa
open Go.RowKit
set_option linter.unusedVariables false
set_option maxRecDepth 40000
set_option linter.unusedSimpArgs false

/-- Bit i of a number's bytes. -/
def bitL (l : List UInt8) (i : Nat) : Nat := (l.getD (i / 8) 0).toNat / 2 ^ (i % 8) % 2
/-- The number of bytes, the low one first. -/
def leb : List UInt8 → Nat
  | [] => 0
  | b :: t => b.toNat + 256 * leb t
theorem leb_bit : ∀ (l : List UInt8) (n : Nat), leb l / 2 ^ n % 2 = bitL l n
  | [], n => by simp [leb, bitL]
  | b :: t, n => by
    by_cases h : n < 8
    · unfold bitL leb
      rw [Nat.div_eq_of_lt h, Nat.mod_eq_of_lt h, List.getD_cons_zero]
      have hn : n = 0 ∨ n = 1 ∨ n = 2 ∨ n = 3 ∨ n = 4 ∨ n = 5 ∨ n = 6 ∨ n = 7 := by omega
      rcases hn with rfl | rfl | rfl | rfl | rfl | rfl | rfl | rfl <;> omega
    · obtain ⟨k, rfl⟩ : ∃ k, n = 8 + k := ⟨n - 8, by omega⟩
      have ih := leb_bit t k
      unfold bitL at ih ⊢
      unfold leb
      rw [show (8 + k) / 8 = k / 8 + 1 from by omega, show (8 + k) % 8 = k % 8 from by omega, List.getD_cons_succ, ← ih, Nat.pow_add, ← Nat.div_div_eq_div_mul]
      have hb := UInt8.toNat_lt b
      rw [show (b.toNat + 256 * leb t) / 2 ^ 8 = leb t from by omega]
theorem nv_leb (l : List UInt8) (h : l.length = 32) : nv l = leb l := by
  obtain ⟨x0, x1, x2, x3, x4, x5, x6, x7, x8, x9, x10, x11, x12, x13, x14, x15, x16, x17, x18, x19, x20, x21, x22, x23, x24, x25, x26, x27, x28, x29, x30, x31, rfl⟩ : ∃ x0 x1 x2 x3 x4 x5 x6 x7 x8 x9 x10 x11 x12 x13 x14 x15 x16 x17 x18 x19 x20 x21 x22 x23 x24 x25 x26 x27 x28 x29 x30 x31, l = [x0, x1, x2, x3, x4, x5, x6, x7, x8, x9, x10, x11, x12, x13, x14, x15, x16, x17, x18, x19, x20, x21, x22, x23, x24, x25, x26, x27, x28, x29, x30, x31] := by
    match l, h with
    | [x0, x1, x2, x3, x4, x5, x6, x7, x8, x9, x10, x11, x12, x13, x14, x15, x16, x17, x18, x19, x20, x21, x22, x23, x24, x25, x26, x27, x28, x29, x30, x31], _ => exact ⟨_, _, _, _, _, _, _, _, _, _, _, _, _, _, _, _, _, _, _, _, _, _, _, _, _, _, _, _, _, _, _, _, rfl⟩
  simp only [nv, q8, num8, bt, leb, List.getD_cons_zero, List.getD_cons_succ, Nat.reduceAdd]
  omega
theorem bit_step (l : List UInt8) (h : l.length = 32) (n : Nat) : nv l / 2 ^ n = 2 * (nv l / 2 ^ (n + 1)) + bitL l n := by
  rw [nv_leb l h, ← leb_bit, Nat.pow_succ, ← Nat.div_div_eq_div_mul]
  omega
theorem bit_int (l : List UInt8) (k : Nat) : ((((l[k / 8]?.getD 0).toNat : Nat) : Int) / 2 ^ (k % 8)).tmod 2 = ((bitL l k : Nat) : Int) := by
  unfold bitL
  rw [List.getD_eq_getElem?_getD, show ((2 : Int) ^ (k % 8)) = ((2 ^ (k % 8) : Nat) : Int) from by simp, ← Int.natCast_ediv]
  rfl
theorem bitL_lt (l : List UInt8) (k : Nat) : bitL l k < 2 := Nat.mod_lt _ (by decide)
theorem leb_lt : ∀ l : List UInt8, leb l < 256 ^ l.length
  | [] => by simp [leb]
  | b :: t => by
    have ih := leb_lt t
    have hb := UInt8.toNat_lt b
    simp only [leb, List.length_cons, Nat.pow_succ]
    omega
theorem leb_byte : ∀ (l : List UInt8) (j : Nat), leb l / 256 ^ j % 256 = (l.getD j 0).toNat
  | [], j => by simp [leb]
  | b :: t, 0 => by
    have hb := UInt8.toNat_lt b
    simp only [leb, Nat.pow_zero, Nat.div_one, List.getD_cons_zero]
    omega
  | b :: t, j + 1 => by
    have ih := leb_byte t j
    have hb := UInt8.toNat_lt b
    rw [List.getD_cons_succ, ← ih, Nat.pow_succ, Nat.mul_comm, ← Nat.div_div_eq_div_mul]
    simp only [leb]
    rw [show (b.toNat + 256 * leb t) / 256 = leb t from by omega]
theorem leb_set : ∀ (l : List UInt8) (j : Nat) (b : UInt8), j < l.length → leb (l.set j b) + 256 ^ j * (l.getD j 0).toNat = leb l + 256 ^ j * b.toNat
  | [], j, b, h => absurd h (by simp)
  | c :: t, 0, b, h => by
    simp only [leb, List.set_cons_zero, List.getD_cons_zero, Nat.pow_zero]
    omega
  | c :: t, j + 1, b, h => by
    have ih := leb_set t j b (by simpa using h)
    simp only [leb, List.set_cons_succ, List.getD_cons_succ]
    rw [Nat.pow_succ, Nat.mul_comm (256 ^ j) 256, Nat.mul_assoc, Nat.mul_assoc]
    omega
theorem leb_inj (l : List UInt8) (h : l.length = 32) : l = enc (leb l) := by
  rw [← nv_leb l h, enc_nv l h]
theorem bytes_eq (l : List UInt8) (u : Nat) (hu : u < TT) (hl : l.length = 32) (h : ∀ j, j < 32 → (l.getD j 0).toNat = u / 256 ^ j % 256) : l = enc u := by
  have hv : leb (enc u) = u := by rw [← nv_leb _ (enc_len u)]; exact nv_enc u hu
  apply List.ext_getElem
  · rw [hl, enc_len]
  · intro i h1 h2
    have e1 : l.getD i 0 = l[i] := by rw [List.getD_eq_getElem?_getD, List.getElem?_eq_getElem h1]; rfl
    have e2 : (enc u).getD i 0 = (enc u)[i] := by rw [List.getD_eq_getElem?_getD, List.getElem?_eq_getElem h2]; rfl
    apply UInt8.toNat_inj.1
    rw [← e1, ← e2, h i (by omega), ← leb_byte, hv]
theorem enc_byte (u : Nat) (hu : u < TT) (j : Nat) : ((enc u).getD j 0).toNat = u / 256 ^ j % 256 := by
  rw [← leb_byte, ← nv_leb _ (enc_len u), nv_enc u hu]
theorem getD_set_eq8 (l : List UInt8) (i : Nat) (b : UInt8) (h : i < l.length) : (l.set i b).getD i 0 = b := by
  rw [List.getD_eq_getElem?_getD, List.getElem?_set_self h]; rfl
theorem getD_set_ne8 (l : List UInt8) (i j : Nat) (b : UInt8) (h : i ≠ j) : (l.set i b).getD j 0 = l.getD j 0 := by
  rw [List.getD_eq_getElem?_getD, List.getElem?_set_ne h, ← List.getD_eq_getElem?_getD]

end Go.Proofs.Ytgdimnbdnepbgaa
/- The reference's carry, in numbers. No statement is proved here. -/
namespace Go.Proofs.Ytgdimnbdnepbgaa
open Go.RowKit
set_option linter.unusedVariables false
set_option maxRecDepth 40000
set_option linter.unusedSimpArgs false

/-- What word i holds at most, and one. -/
def m10 (i : Nat) : Nat := if i % 2 = 0 then 67108864 else 33554432
/-- One word carried. -/
def cst (o : List Nat) (i : Nat) : List Nat :=
  if i = 9 then (o.set 9 (o.getD 9 0 % 33554432)).set 0 ((o.set 9 (o.getD 9 0 % 33554432)).getD 0 0 + 19 * (o.getD 9 0 / 33554432))
  else (o.set i (o.getD i 0 % m10 i)).set (i + 1) ((o.set i (o.getD i 0 % m10 i)).getD (i + 1) 0 + o.getD i 0 / m10 i)
def cry (o : List Nat) : Nat → List Nat
  | 0 => o
  | n + 1 => cst (cry o n) n
theorem cst_len (o : List Nat) (i : Nat) : (cst o i).length = o.length := by
  unfold cst
  split <;> simp
theorem cry_len (o : List Nat) (n : Nat) : (cry o n).length = o.length := by
  induction n with
  | zero => rfl
  | succ n ih => unfold cry; rw [cst_len, ih]
theorem getD_set_eq (o : List Nat) (i x : Nat) (h : i < o.length) : (o.set i x).getD i 0 = x := by
  rw [List.getD_eq_getElem?_getD, List.getElem?_set_self h]
  rfl
theorem getD_set_other (o : List Nat) (i j x : Nat) (h : i ≠ j) : (o.set i x).getD j 0 = o.getD j 0 := by
  rw [List.getD_eq_getElem?_getD, List.getElem?_set_ne h, ← List.getD_eq_getElem?_getD]
/-- The number of ten words. -/
def val10 : List Nat → Nat
  | [a0, a1, a2, a3, a4, a5, a6, a7, a8, a9] => a0 + a1 * 67108864 + a2 * 2251799813685248 + a3 * 151115727451828646838272 + a4 * 5070602400912917605986812821504 + a5 * 340282366920938463463374607431768211456 + a6 * 11417981541647679048466287755595961091061972992 + a7 * 766247770432944429179173513575154591809369561091801088 + a8 * 25711008708143844408671393477458601640355247900524685364822016 + a9 * 1725436586697640946858688965569256363112777243042596638790631055949824
  | _ => 0
theorem ten (o : List Nat) (h : o.length = 10) : ∃ a0 a1 a2 a3 a4 a5 a6 a7 a8 a9, o = [a0, a1, a2, a3, a4, a5, a6, a7, a8, a9] := by
  match o, h with
  | [a0, a1, a2, a3, a4, a5, a6, a7, a8, a9], _ => exact ⟨a0, a1, a2, a3, a4, a5, a6, a7, a8, a9, rfl⟩
/-- One word carried keeps the number, but for a multiple of p. -/
theorem cst_val (o : List Nat) (h : o.length = 10) (i : Nat) (hi : i < 10) : ∃ q, val10 (cst o i) + q * 57896044618658097711785492504343953926634992332820282019728792003956564819949 = val10 o := by
  obtain ⟨a0, a1, a2, a3, a4, a5, a6, a7, a8, a9, rfl⟩ := ten o h
  match i, hi with
  | 0, _ =>
    refine ⟨0, ?_⟩
    show val10 [a0 % 67108864, a1 + a0 / 67108864, a2, a3, a4, a5, a6, a7, a8, a9] + 0 * _ = _
    simp only [val10]
    have d := Nat.div_add_mod a0 67108864
    generalize a0 / 67108864 = c at *
    generalize a0 % 67108864 = r at *
    omega
  | 1, _ =>
    refine ⟨0, ?_⟩
    show val10 [a0, a1 % 33554432, a2 + a1 / 33554432, a3, a4, a5, a6, a7, a8, a9] + 0 * _ = _
    simp only [val10]
    have d := Nat.div_add_mod a1 33554432
    generalize a1 / 33554432 = c at *
    generalize a1 % 33554432 = r at *
    omega
  | 2, _ =>
    refine ⟨0, ?_⟩
    show val10 [a0, a1, a2 % 67108864, a3 + a2 / 67108864, a4, a5, a6, a7, a8, a9] + 0 * _ = _
    simp only [val10]
    have d := Nat.div_add_mod a2 67108864
    generalize a2 / 67108864 = c at *
    generalize a2 % 67108864 = r at *
    omega
  | 3, _ =>
    refine ⟨0, ?_⟩
    show val10 [a0, a1, a2, a3 % 33554432, a4 + a3 / 33554432, a5, a6, a7, a8, a9] + 0 * _ = _
    simp only [val10]
    have d := Nat.div_add_mod a3 33554432
    generalize a3 / 33554432 = c at *
    generalize a3 % 33554432 = r at *
    omega
  | 4, _ =>
    refine ⟨0, ?_⟩
    show val10 [a0, a1, a2, a3, a4 % 67108864, a5 + a4 / 67108864, a6, a7, a8, a9] + 0 * _ = _
    simp only [val10]
    have d := Nat.div_add_mod a4 67108864
    generalize a4 / 67108864 = c at *
    generalize a4 % 67108864 = r at *
    omega
  | 5, _ =>
    refine ⟨0, ?_⟩
    show val10 [a0, a1, a2, a3, a4, a5 % 33554432, a6 + a5 / 33554432, a7, a8, a9] + 0 * _ = _
    simp only [val10]
    have d := Nat.div_add_mod a5 33554432
    generalize a5 / 33554432 = c at *
    generalize a5 % 33554432 = r at *
    omega
  | 6, _ =>
    refine ⟨0, ?_⟩
    show val10 [a0, a1, a2, a3, a4, a5, a6 % 67108864, a7 + a6 / 67108864, a8, a9] + 0 * _ = _
    simp only [val10]
    have d := Nat.div_add_mod a6 67108864
    generalize a6 / 67108864 = c at *
    generalize a6 % 67108864 = r at *
    omega
  | 7, _ =>
    refine ⟨0, ?_⟩
    show val10 [a0, a1, a2, a3, a4, a5, a6, a7 % 33554432, a8 + a7 / 33554432, a9] + 0 * _ = _
    simp only [val10]
    have d := Nat.div_add_mod a7 33554432
    generalize a7 / 33554432 = c at *
    generalize a7 % 33554432 = r at *
    omega
  | 8, _ =>
    refine ⟨0, ?_⟩
    show val10 [a0, a1, a2, a3, a4, a5, a6, a7, a8 % 67108864, a9 + a8 / 67108864] + 0 * _ = _
    simp only [val10]
    have d := Nat.div_add_mod a8 67108864
    generalize a8 / 67108864 = c at *
    generalize a8 % 67108864 = r at *
    omega
  | 9, _ =>
    refine ⟨a9 / 33554432, ?_⟩
    show val10 [a0 + 19 * (a9 / 33554432), a1, a2, a3, a4, a5, a6, a7, a8, a9 % 33554432] + a9 / 33554432 * _ = _
    simp only [val10]
    have d := Nat.div_add_mod a9 33554432
    generalize a9 / 33554432 = c at *
    generalize a9 % 33554432 = r at *
    omega
theorem cry_val (o : List Nat) (h : o.length = 10) : ∀ n, n ≤ 10 → ∃ q, val10 (cry o n) + q * 57896044618658097711785492504343953926634992332820282019728792003956564819949 = val10 o
  | 0, _ => ⟨0, by simp [cry]⟩
  | n + 1, hn => by
    obtain ⟨q, hq⟩ := cry_val o h n (by omega)
    obtain ⟨r, hr⟩ := cst_val (cry o n) ((cry_len o n).trans h) n (by omega)
    exact ⟨r + q, by rw [Nat.add_mul, ← Nat.add_assoc]; show val10 (cst (cry o n) n) + _ + _ = _; rw [hr, hq]⟩
/-- Later words are as they were. -/
theorem cry_later (o : List Nat) : ∀ n j, n < j → n ≤ 9 → (cry o n).getD j 0 = o.getD j 0
  | 0, _, _, _ => rfl
  | n + 1, j, h, h9 => by
    show (cst (cry o n) n).getD j 0 = _
    unfold cst
    rw [if_neg (by omega), getD_set_other _ _ _ _ (by omega), getD_set_other _ _ _ _ (by omega)]
    exact cry_later o n j (by omega) (by omega)
/-- Words below B stay below B and a little, whatever is carried into them. -/
theorem cry_bnd (o : List Nat) (h : o.length = 10) (B C : Nat) (hB : ∀ i, i < 10 → o.getD i 0 < B) (hC : (B + C) / 33554432 < C) :
    ∀ n, n ≤ 10 → (∀ i, i < n → 0 < i → (cry o n).getD i 0 < m10 i) ∧ (n ≤ 9 → 0 < n → (cry o n).getD 0 0 < 67108864) ∧ (n ≤ 9 → (cry o n).getD n 0 < B + C) ∧ (n = 10 → (cry o n).getD 0 0 < 67108864 + 19 * C)
  | 0, _ => ⟨fun i hi => absurd hi (by omega), fun _ h => absurd h (by omega), fun _ => by have := hB 0 (by omega); show o.getD 0 0 < _; omega, fun h => absurd h (by omega)⟩
  | n + 1, hn => by
    obtain ⟨k1, k2, k3, _⟩ := cry_bnd o h B C hB hC n (by omega)
    have k3 := k3 (by omega)
    have hl : (cry o n).length = 10 := (cry_len o n).trans h
    have hlat : n ≤ 8 → (cry o n).getD (n + 1) 0 < B := fun h8 => by rw [cry_later o n (n + 1) (by omega) (by omega)]; exact hB _ (by omega)
    have hc : (cry o n).getD n 0 / m10 n < C := by
      refine Nat.lt_of_le_of_lt ?_ hC
      unfold m10
      split
      · exact Nat.le_trans (Nat.div_le_div_left (show 33554432 ≤ 67108864 by decide) (by decide)) (Nat.div_le_div_right (Nat.le_of_lt k3))
      · exact Nat.div_le_div_right (Nat.le_of_lt k3)
    have hm : (cry o n).getD n 0 % m10 n < m10 n := Nat.mod_lt _ (by unfold m10; split <;> decide)
    have hm0 : m10 n ≤ 67108864 := by unfold m10; split <;> decide
    show (∀ i, i < n + 1 → 0 < i → (cst (cry o n) n).getD i 0 < m10 i) ∧ (n + 1 ≤ 9 → 0 < n + 1 → (cst (cry o n) n).getD 0 0 < 67108864) ∧ (n + 1 ≤ 9 → (cst (cry o n) n).getD (n + 1) 0 < B + C) ∧ (n + 1 = 10 → (cst (cry o n) n).getD 0 0 < 67108864 + 19 * C)
    unfold cst
    by_cases h9 : n = 9
    · subst h9
      rw [if_pos rfl]
      refine ⟨fun i hi h0 => ?_, fun h => absurd h (by omega), fun h => absurd h (by omega), fun _ => ?_⟩
      · rw [getD_set_other _ _ _ _ (by omega)]
        by_cases hi9 : i = 9
        · subst hi9
          rw [getD_set_eq _ _ _ (by omega)]
          exact hm
        · rw [getD_set_other _ _ _ _ (by omega)]
          exact k1 i (by omega) h0
      · rw [getD_set_eq _ _ _ (by rw [List.length_set]; omega), getD_set_other _ _ _ _ (by omega)]
        have := k2 (by omega) (by omega)
        have hc' : (cry o 9).getD 9 0 / 33554432 < C := hc
        omega
    · rw [if_neg h9]
      refine ⟨fun i hi h0 => ?_, fun _ _ => ?_, fun _ => ?_, fun h => absurd h (by omega)⟩
      · rw [getD_set_other _ _ _ _ (by omega)]
        by_cases hin : i = n
        · subst hin
          rw [getD_set_eq _ _ _ (by omega)]
          exact hm
        · rw [getD_set_other _ _ _ _ (by omega)]
          exact k1 i (by omega) h0
      · rw [getD_set_other _ _ _ _ (by omega)]
        by_cases hn0 : n = 0
        · subst hn0
          rw [getD_set_eq _ _ _ (by omega)]
          exact hm
        · rw [getD_set_other _ _ _ _ (by omega)]
          exact k2 (by omega) (by omega)
      · rw [getD_set_eq _ _ _ (by rw [List.length_set]; omega), getD_set_other _ _ _ _ (by omega)]
        have := hlat (by omega)
        omega
end Go.Proofs.Ytgdimnbdnepbgaa
/- The reference's carry, walked. No statement is proved here. -/
namespace Go.Proofs.Ytgdimnbdnepbgaa
open Go.RowKit
set_option linter.unusedVariables false
set_option maxRecDepth 40000
set_option linter.unusedSimpArgs false

/-- The memory of carry. -/
structure Cy (w : World) (o : List Nat) (w' : World) : Prop where
  len : o.length = 10
  row : w'.heap[w.heap.size]? = some (.cells (ics o).toArray 65 (0, 0))
  res : w'.heap[w.heap.size + 1]? = some (.cells ziw 65 (0, 0))
  bel : Below w.heap.size w w'
theorem Cy.cell {w : World} {o : List Nat} {w' : World} (h : Cy w o w') (i : Nat) (hi : i < 10) : w'.cell? ⟨w.heap.size, i, none⟩ = some (.int .i64 (o.getD i 0 : Nat)) := iword_cell h.row i (by have := h.len; omega)
theorem Cy.set {w : World} {o : List Nat} {w' w'' : World} (h : Cy w o w') (hg : w'.grownBy w'' (some w.heap.size)) (i x : Nat) (hh : w''.heap[w.heap.size]? = some (.cells (ics (o.set i x)).toArray 65 (0, 0))) : Cy w (o.set i x) w'' :=
  ⟨by rw [List.length_set]; exact h.len, hh, (hg.block _ (Array.getElem?_eq_some_iff.1 h.res).1 (by simp)).trans h.res, h.bel.grown hg h.bel.size (fun r hr => by injection hr; omega)⟩
theorem Cy.drew1 {w : World} {o : List Nat} {w' : World} (h : Cy w o w') : Cy w o { heap := w'.heap, tape := w'.tape, drawn := w'.drawn + 1, os := w'.os, output := w'.output } :=
  ⟨h.len, h.row, h.res, below_drewN' h.bel 1⟩

theorem cry_even (o : List Nat) (n : Nat) (he : n % 2 = 0) (h9 : n ≠ 9) : cry o (n + 1) = ((cry o n).set n ((cry o n).getD n 0 % 67108864)).set (n + 1) ((cry o n).getD (n + 1) 0 + (cry o n).getD n 0 / 67108864) := by
  show cst (cry o n) n = _
  unfold cst m10
  rw [if_neg h9, if_pos he, getD_set_other _ _ _ _ (by omega)]
theorem cry_odd (o : List Nat) (n : Nat) (he : n % 2 = 1) (h9 : n ≠ 9) : cry o (n + 1) = ((cry o n).set n ((cry o n).getD n 0 % 33554432)).set (n + 1) ((cry o n).getD (n + 1) 0 + (cry o n).getD n 0 / 33554432) := by
  show cst (cry o n) n = _
  unfold cst m10
  rw [if_neg h9, if_neg (by omega), getD_set_other _ _ _ _ (by omega)]
theorem cry_nine (o : List Nat) : cry o (9 + 1) = ((cry o 9).set 9 ((cry o 9).getD 9 0 % 33554432)).set 0 ((cry o 9).getD 0 0 + 19 * ((cry o 9).getD 9 0 / 33554432)) := by
  show cst (cry o 9) 9 = _
  unfold cst
  rw [if_pos rfl, getD_set_other _ _ _ _ (by omega)]
theorem i64_lo (a : Nat) (M : Int) (h : (a : Int) < 9223372036854775808) : IntKind.i64.wrap (a : Int) = (a : Int) := by rw [IntKind.wrap_i64]; omega

set_option maxHeartbeats 2000000 in
theorem carry_core (o : List Nat) (w : World) (HL : Hid (o.length = 10)) (HB : Hid (∀ n, n ≤ 9 → (cry o n).getD n 0 < 4611686293305294848)) (HO : Hid (∀ n, n < 10 → o.getD n 0 < 4611686018427387904)) (H0 : Hid ((cry o 9).getD 0 0 < 67108864)) :
    Calls Try.prog 94 #[.agg (ics o).toArray] w (Gives (.agg (ics (cry o 10)).toArray) w) := by
  go_enter Try.func94, Try.ntmps94
  go_wp2_with (first | ((with_reducible show wpList _ _ _ (⟨some 1, .box 65 (.tmp 0), _, _, _, _⟩ :: _) _ _); go_must (refine wpList_box_row rfl 65 (.tmp 0) rfl (ics o).toArray rfl ?_; intro w1 h1 z1 g1; have H1 := Lib.hid h1; have Z1 := Lib.hid z1; have G1 := Lib.hid g1; clear h1 z1 g1)) | ((with_reducible show wpList _ _ _ (⟨some 2, .alloc 65, _, _, _, _⟩ :: _) _ _); go_must (refine wpList_alloc_row rfl 65 rfl (.agg ziw) zero65 ?_; intro w2 h1 z1 g1; have H2 := Lib.hid h1; have Z2 := Lib.hid z1; have G2 := Lib.hid g1; clear h1 z1 g1)))
  have S : Hid (Cy w (cry o 0) w2) := by
    refine ⟨HL.out, ((below_of_grownBy G2.out).block _ (by have := Z1.out; omega)).trans H1.out, ?_, (below_of_grownBy G1.out).trans ((below_of_grownBy G2.out).mono (by have := Z1.out; omega))⟩
    have h := H2.out
    rw [Z1.out] at h
    exact h
  rw [show w1.heap.size = w.heap.size + 1 from Z1.out]
  clear H1 Z1 G1 H2 Z2 G2
  go_loopw [3] (fun i wr => ∃ n : Nat, n ≤ 10 ∧ i = .int .i64 n ∧ Cy w (cry o n) wr) (fun i _ => 10 - (intOf i).toNat)
  case atStart => exact ⟨0, by omega, rfl, S.out⟩
  case round =>
    obtain ⟨n, hn, rfl, hp⟩ := hrel
    have H := Lib.hid hp
    clear hp S
    by_cases hlt : n < 10
    · have hni : (n : Int) < 10 := by omega
      by_cases h9 : n = 9
      · subst h9
        have B := Lib.hid (bits_odd 9 hlt (by omega))
        have HE := Lib.hid (cry_nine o)
        have HA := Lib.hid (HB.out 9 (by omega))
        have HX : Hid ((cry o 9).getD 0 0 < 4611686293305294848) := by have := H0.out; exact Lib.hid (by omega)
        have c0 := H.out.cell 9 (by omega)
        generalize cry o 9 = on at *
        generalize hga : on.getD 9 0 = a at *
        generalize hgx : on.getD (0) 0 = x at *
        have HGA := Lib.hid hga
        have HGX := Lib.hid hgx
        clear hga hgx
        have HON : Hid (on.length = 10) := H.out.len
        have HC : Hid (((a : Nat) : Int) / 33554432 = ((a / 33554432 : Nat) : Int)) := Lib.hid (by omega)
        have HCB : Hid (a / 33554432 < 274877906944) := by have := HA.out; exact Lib.hid (by omega)
        have V1 : Hid (IntKind.i64.wrap (((a : Nat) : Int) - IntKind.i64.wrap (((a / 33554432 : Nat) : Int) * 33554432)) = ((a % 33554432 : Nat) : Int)) := by have := HA.out; rw [IntKind.wrap_i64, IntKind.wrap_i64]; exact Lib.hid (by omega)
        generalize a % 33554432 = r at *
        go_wp2_with fail
        refine wp_region_still_lit (by kernel_rfl) (by kernel_rfl) ?_
        repeat (first | still_step | (refine wpStill_step (fun K hK => ?_); go_simp; (with_reducible refine ⟨_, B.out _, hK _ ?_⟩); clear hK K))
        refine wpStill_nil ?_
        rw [HC.out]
        generalize a / 33554432 = c at *
        have HD : Hid (Cy w on { heap := wr.heap, tape := wr.tape, drawn := wr.drawn + 1, os := wr.os, output := wr.output }) := H.out.drew1
        clear H c0 HC
        obtain ⟨wd, hwd⟩ : ∃ z, z = ({ heap := wr.heap, tape := wr.tape, drawn := wr.drawn + 1, os := wr.os, output := wr.output } : World) := ⟨_, rfl⟩
        rw [← hwd] at HD
        rw [← hwd]
        clear hwd
        have c1 : wd.cell? ⟨w.heap.size, 9, none⟩ = some (.int .i64 (a : Nat)) := by have h := HD.out.cell 9 (by omega); rw [HGA.out] at h; exact h
        have c1' : ({ heap := wd.heap, tape := wd.tape, drawn := wd.drawn + 1, os := wd.os, output := wd.output } : World).cell? ⟨w.heap.size, 9, none⟩ = some (.int .i64 (a : Nat)) := c1
        go_wp2_with fail
        refine wp_region_still_tail 10 (by kernel_rfl) (by kernel_rfl) ?_
        simp only [List.take_succ_cons, List.take_zero, List.drop_succ_cons, List.drop_zero]
        repeat (first | still_step | (refine wpStill_step (fun K hK => ?_); go_simp; (with_reducible refine ⟨_, B.out _, hK _ ?_⟩); clear hK K))
        try refine wpStill_nil ?_
        have HF : Hid (Cy w on { heap := wd.heap, tape := wd.tape, drawn := wd.drawn + 1, os := wd.os, output := wd.output }) := HD.out.drew1
        clear HD c1 c1' B
        obtain ⟨we, hwe⟩ : ∃ z, z = ({ heap := wd.heap, tape := wd.tape, drawn := wd.drawn + 1, os := wd.os, output := wd.output } : World) := ⟨_, rfl⟩
        rw [← hwe] at HF
        rw [← hwe]
        clear hwe
        refine wpList_store_one rfl 2 (.tmp 24) (.tmp 23) rfl w.heap.size 9 rfl .i64 _ rfl 65 _ HF.out.row size2 (by simp only [List.size_toArray, ics_len]; have := HON.out; omega) ?_
        intro w3 hh hg hz
        rw [V1.out, ics_set] at hh
        have H1 := Lib.hid (HF.out.set hg 9 r hh)
        clear hh hg hz HF V1 HA
        have c2 := H1.out.cell (0) (by omega)
        rw [getD_set_other _ _ _ _ (by omega), HGX.out] at c2
        have V2 : Hid (wrap64 (((x : Nat) : Int) + wrap64 (19 * ((c : Nat) : Int))) = ((x + 19 * c : Nat) : Int)) := by have := HX.out; have := HCB.out; exact Lib.hid (by rw [IntWalk.wrap64_in (19 * ((c : Nat) : Int)) (by omega), IntWalk.wrap64_in _ (by omega)]; omega)
        go_wp2_with (first | ((with_reducible show wpList _ _ _ (⟨none, .store 2 (.tmp 32) (.tmp 31), _, _, _, _⟩ :: _) _ _); go_must (refine wpList_store_one rfl 2 (.tmp 32) (.tmp 31) rfl w.heap.size 0 rfl .i64 _ rfl 65 _ H1.out.row size2 (by simp only [List.size_toArray, ics_len, List.length_set]; have := HON.out; omega) ?_; intro w4 hh hg hz; rw [V2.out, ics_set] at hh; have H2 := Lib.hid (H1.out.set hg 0 _ hh); clear hh hg hz H1 V2 HX HCB; clear c2)) | fail)
        exact ⟨⟨9 + 1, by omega, by go_num, by rw [HE.out]; exact H2.out⟩, by first | (simp [intOf]; omega) | simp [intOf]⟩
      · by_cases hpar : n % 2 = 0
        · have B := Lib.hid (bits_even n hlt (by omega))
          have HE := Lib.hid (cry_even o n (by omega) h9)
          have HA := Lib.hid (HB.out n (by omega))
          have HX : Hid ((cry o n).getD (n + 1) 0 < 4611686018427387904) := by rw [cry_later o n (n + 1) (by omega) (by omega)]; exact Lib.hid (HO.out (n + 1) (by omega))
          have c0 := H.out.cell n (by omega)
          generalize cry o n = on at *
          generalize hga : on.getD n 0 = a at *
          generalize hgx : on.getD (n + 1) 0 = x at *
          have HGA := Lib.hid hga
          have HGX := Lib.hid hgx
          clear hga hgx
          have HON : Hid (on.length = 10) := H.out.len
          have HC : Hid (((a : Nat) : Int) / 67108864 = ((a / 67108864 : Nat) : Int)) := Lib.hid (by omega)
          have HCB : Hid (a / 67108864 < 274877906944) := by have := HA.out; exact Lib.hid (by omega)
          have V1 : Hid (IntKind.i64.wrap (((a : Nat) : Int) - IntKind.i64.wrap (((a / 67108864 : Nat) : Int) * 67108864)) = ((a % 67108864 : Nat) : Int)) := by have := HA.out; rw [IntKind.wrap_i64, IntKind.wrap_i64]; exact Lib.hid (by omega)
          generalize a % 67108864 = r at *
          go_wp2_with fail
          refine wp_region_still_lit (by kernel_rfl) (by kernel_rfl) ?_
          repeat (first | still_step | (refine wpStill_step (fun K hK => ?_); go_simp; (with_reducible refine ⟨_, B.out _, hK _ ?_⟩); clear hK K))
          refine wpStill_nil ?_
          rw [HC.out]
          generalize a / 67108864 = c at *
          have HD : Hid (Cy w on { heap := wr.heap, tape := wr.tape, drawn := wr.drawn + 1, os := wr.os, output := wr.output }) := H.out.drew1
          clear H c0 HC
          obtain ⟨wd, hwd⟩ : ∃ z, z = ({ heap := wr.heap, tape := wr.tape, drawn := wr.drawn + 1, os := wr.os, output := wr.output } : World) := ⟨_, rfl⟩
          rw [← hwd] at HD
          rw [← hwd]
          clear hwd
          have c1 : wd.cell? ⟨w.heap.size, n, none⟩ = some (.int .i64 (a : Nat)) := by have h := HD.out.cell n (by omega); rw [HGA.out] at h; exact h
          have c1' : ({ heap := wd.heap, tape := wd.tape, drawn := wd.drawn + 1, os := wd.os, output := wd.output } : World).cell? ⟨w.heap.size, n, none⟩ = some (.int .i64 (a : Nat)) := c1
          go_wp2_with fail
          refine wp_region_still_tail 10 (by kernel_rfl) (by kernel_rfl) ?_
          simp only [List.take_succ_cons, List.take_zero, List.drop_succ_cons, List.drop_zero]
          repeat (first | still_step | (refine wpStill_step (fun K hK => ?_); go_simp; (with_reducible refine ⟨_, B.out _, hK _ ?_⟩); clear hK K))
          try refine wpStill_nil ?_
          have HF : Hid (Cy w on { heap := wd.heap, tape := wd.tape, drawn := wd.drawn + 1, os := wd.os, output := wd.output }) := HD.out.drew1
          clear HD c1 c1' B
          obtain ⟨we, hwe⟩ : ∃ z, z = ({ heap := wd.heap, tape := wd.tape, drawn := wd.drawn + 1, os := wd.os, output := wd.output } : World) := ⟨_, rfl⟩
          rw [← hwe] at HF
          rw [← hwe]
          clear hwe
          refine wpList_store_one rfl 2 (.tmp 24) (.tmp 23) rfl w.heap.size n rfl .i64 _ rfl 65 _ HF.out.row size2 (by simp only [List.size_toArray, ics_len]; have := HON.out; omega) ?_
          intro w3 hh hg hz
          rw [V1.out, ics_set] at hh
          have H1 := Lib.hid (HF.out.set hg n r hh)
          clear hh hg hz HF V1 HA
          have c2 := H1.out.cell (n + 1) (by omega)
          rw [getD_set_other _ _ _ _ (by omega), HGX.out] at c2
          have V2 : Hid (wrap64 (((x : Nat) : Int) + ((c : Nat) : Int)) = ((x + c : Nat) : Int)) := by have := HX.out; have := HCB.out; exact Lib.hid (by rw [IntWalk.wrap64_in _ (by omega)]; omega)
          have s1 : IntKind.i64.wrap ((n : Int) + 1) = ((n + 1 : Nat) : Int) := (IntWalk.i64_in _ (by omega)).trans (by omega)
          have l1 : ((n + 1 : Nat) : Int) < 10 := by omega
          have n9 : ((n : Int) == 9) = false := by simp; omega
          go_wp2_with (first | ((with_reducible show wpList _ _ _ (⟨none, .store 2 (.tmp 41) (.tmp 40), _, _, _, _⟩ :: _) _ _); go_must (refine wpList_store_one rfl 2 (.tmp 41) (.tmp 40) rfl w.heap.size (n + 1) rfl .i64 _ rfl 65 _ H1.out.row size2 (by simp only [List.size_toArray, ics_len, List.length_set]; have := HON.out; omega) ?_; intro w4 hh hg hz; rw [V2.out, ics_set] at hh; have H2 := Lib.hid (H1.out.set hg (n + 1) _ hh); clear hh hg hz H1 V2 HX HCB; clear c2)) | fail)
          exact ⟨⟨n + 1, by omega, by go_num, by rw [HE.out]; exact H2.out⟩, by first | (simp [intOf]; omega) | simp [intOf]⟩
        · have B := Lib.hid (bits_odd n hlt (by omega))
          have HE := Lib.hid (cry_odd o n (by omega) h9)
          have HA := Lib.hid (HB.out n (by omega))
          have HX : Hid ((cry o n).getD (n + 1) 0 < 4611686018427387904) := by rw [cry_later o n (n + 1) (by omega) (by omega)]; exact Lib.hid (HO.out (n + 1) (by omega))
          have c0 := H.out.cell n (by omega)
          generalize cry o n = on at *
          generalize hga : on.getD n 0 = a at *
          generalize hgx : on.getD (n + 1) 0 = x at *
          have HGA := Lib.hid hga
          have HGX := Lib.hid hgx
          clear hga hgx
          have HON : Hid (on.length = 10) := H.out.len
          have HC : Hid (((a : Nat) : Int) / 33554432 = ((a / 33554432 : Nat) : Int)) := Lib.hid (by omega)
          have HCB : Hid (a / 33554432 < 274877906944) := by have := HA.out; exact Lib.hid (by omega)
          have V1 : Hid (IntKind.i64.wrap (((a : Nat) : Int) - IntKind.i64.wrap (((a / 33554432 : Nat) : Int) * 33554432)) = ((a % 33554432 : Nat) : Int)) := by have := HA.out; rw [IntKind.wrap_i64, IntKind.wrap_i64]; exact Lib.hid (by omega)
          generalize a % 33554432 = r at *
          go_wp2_with fail
          refine wp_region_still_lit (by kernel_rfl) (by kernel_rfl) ?_
          repeat (first | still_step | (refine wpStill_step (fun K hK => ?_); go_simp; (with_reducible refine ⟨_, B.out _, hK _ ?_⟩); clear hK K))
          refine wpStill_nil ?_
          rw [HC.out]
          generalize a / 33554432 = c at *
          have HD : Hid (Cy w on { heap := wr.heap, tape := wr.tape, drawn := wr.drawn + 1, os := wr.os, output := wr.output }) := H.out.drew1
          clear H c0 HC
          obtain ⟨wd, hwd⟩ : ∃ z, z = ({ heap := wr.heap, tape := wr.tape, drawn := wr.drawn + 1, os := wr.os, output := wr.output } : World) := ⟨_, rfl⟩
          rw [← hwd] at HD
          rw [← hwd]
          clear hwd
          have c1 : wd.cell? ⟨w.heap.size, n, none⟩ = some (.int .i64 (a : Nat)) := by have h := HD.out.cell n (by omega); rw [HGA.out] at h; exact h
          have c1' : ({ heap := wd.heap, tape := wd.tape, drawn := wd.drawn + 1, os := wd.os, output := wd.output } : World).cell? ⟨w.heap.size, n, none⟩ = some (.int .i64 (a : Nat)) := c1
          go_wp2_with fail
          refine wp_region_still_tail 10 (by kernel_rfl) (by kernel_rfl) ?_
          simp only [List.take_succ_cons, List.take_zero, List.drop_succ_cons, List.drop_zero]
          repeat (first | still_step | (refine wpStill_step (fun K hK => ?_); go_simp; (with_reducible refine ⟨_, B.out _, hK _ ?_⟩); clear hK K))
          try refine wpStill_nil ?_
          have HF : Hid (Cy w on { heap := wd.heap, tape := wd.tape, drawn := wd.drawn + 1, os := wd.os, output := wd.output }) := HD.out.drew1
          clear HD c1 c1' B
          obtain ⟨we, hwe⟩ : ∃ z, z = ({ heap := wd.heap, tape := wd.tape, drawn := wd.drawn + 1, os := wd.os, output := wd.output } : World) := ⟨_, rfl⟩
          rw [← hwe] at HF
          rw [← hwe]
          clear hwe
          refine wpList_store_one rfl 2 (.tmp 24) (.tmp 23) rfl w.heap.size n rfl .i64 _ rfl 65 _ HF.out.row size2 (by simp only [List.size_toArray, ics_len]; have := HON.out; omega) ?_
          intro w3 hh hg hz
          rw [V1.out, ics_set] at hh
          have H1 := Lib.hid (HF.out.set hg n r hh)
          clear hh hg hz HF V1 HA
          have c2 := H1.out.cell (n + 1) (by omega)
          rw [getD_set_other _ _ _ _ (by omega), HGX.out] at c2
          have V2 : Hid (wrap64 (((x : Nat) : Int) + ((c : Nat) : Int)) = ((x + c : Nat) : Int)) := by have := HX.out; have := HCB.out; exact Lib.hid (by rw [IntWalk.wrap64_in _ (by omega)]; omega)
          have s1 : IntKind.i64.wrap ((n : Int) + 1) = ((n + 1 : Nat) : Int) := (IntWalk.i64_in _ (by omega)).trans (by omega)
          have l1 : ((n + 1 : Nat) : Int) < 10 := by omega
          have n9 : ((n : Int) == 9) = false := by simp; omega
          go_wp2_with (first | ((with_reducible show wpList _ _ _ (⟨none, .store 2 (.tmp 41) (.tmp 40), _, _, _, _⟩ :: _) _ _); go_must (refine wpList_store_one rfl 2 (.tmp 41) (.tmp 40) rfl w.heap.size (n + 1) rfl .i64 _ rfl 65 _ H1.out.row size2 (by simp only [List.size_toArray, ics_len, List.length_set]; have := HON.out; omega) ?_; intro w4 hh hg hz; rw [V2.out, ics_set] at hh; have H2 := Lib.hid (H1.out.set hg (n + 1) _ hh); clear hh hg hz H1 V2 HX HCB; clear c2)) | fail)
          exact ⟨⟨n + 1, by omega, by go_num, by rw [HE.out]; exact H2.out⟩, by first | (simp [intOf]; omega) | simp [intOf]⟩
    · obtain rfl : n = 10 := by omega
      have HLen : Hid ((cry o 10).length = 10) := H.out.len
      obtain ⟨R, hR⟩ : ∃ l, l = cry o 10 := ⟨_, rfl⟩
      rw [← hR] at H HLen
      have HRE := Lib.hid hR
      clear hR
      go_wp2_with (first | ((with_reducible show wpList _ _ _ (⟨_, .load 65 (.tmp 1), _, _, _, _⟩ :: _) _ _); go_must (refine wpList_load_arr rfl 65 (.tmp 1) rfl w.heap.size 0 rfl (ics R) (fun i u hu => by rw [Nat.zero_add]; exact row_cells H.out.row i u (by simpa using hu)) _ under65 rfl (by rw [ics_len, HLen.out]; exact size65) ?_)) | ((with_reducible show wpList _ _ _ (⟨none, .store 65 (.tmp 2) (.tmp 42), _, _, _, _⟩ :: _) _ _); go_must (refine wpList_store_all rfl 65 (.tmp 2) (.tmp 42) rfl (w.heap.size + 1) rfl (ics R).toArray rfl 65 _ H.out.res (by rw [List.size_toArray, ics_len, HLen.out]; exact size65) (by rw [List.size_toArray, ics_len, HLen.out]; rfl) (ics_one _) ?_; intro x5 hh hg hz; have HH := Lib.hid hh; have HG := Lib.hid hg; clear hh hg hz)) | fail)
      refine bodyPost_ret (results_cell_row rfl _ _ (w.heap.size + 1) 65 (ics R).toArray _ _ rfl HH.out under65 rfl (by rw [List.size_toArray, ics_len, HLen.out]; exact size65)) rfl ?_
      exact ⟨by rw [HRE.out], H.out.bel.grown HG.out H.out.bel.size (fun r hr => by injection hr; omega)⟩

theorem carry_any (o : List Nat) (h : o.length = 10) (hB : ∀ i, i < 10 → o.getD i 0 < 4611686018427387904) (w : World) : Calls Try.prog 94 #[.agg (ics o).toArray] w (Gives (.agg (ics (cry o 10)).toArray) w) := by
  refine carry_core o w h ?_ (Lib.hid hB) ?_
  · exact Lib.hid fun n hn => (cry_bnd o h 4611686018427387904 274877906944 hB (by decide) n (by omega)).2.2.1 hn
  · exact Lib.hid ((cry_bnd o h 4611686018427387904 274877906944 hB (by decide) 9 (by omega)).2.1 (by omega) (by omega))
end Go.Proofs.Ytgdimnbdnepbgaa
/- The reference's Plus. No statement is proved here. -/
namespace Go.Proofs.Ytgdimnbdnepbgaa
open Go.RowKit
set_option linter.unusedVariables false
set_option maxRecDepth 40000
set_option linter.unusedSimpArgs false

/-- The memory of a function of two ten-word numbers: rows s and s + 1, the result at s + 2. -/
structure Dy (w : World) (o b : List Nat) (w' : World) : Prop where
  a : IAt w' w.heap.size o
  b : IAt w' (w.heap.size + 1) b
  res : w'.heap[w.heap.size + 2]? = some (.cells ziw 65 (0, 0))
  bel : Below w.heap.size w w'
theorem Dy.set {w : World} {o b : List Nat} {w' w'' : World} {t : TypeId} (h : Dy w o b w') (hg : w'.grownBy w'' (some w.heap.size)) (i x : Nat) (hh : w''.heap[w.heap.size]? = some (.cells (ics (o.set i x)).toArray t (0, 0))) : Dy w (o.set i x) b w'' :=
  ⟨⟨by rw [List.length_set]; exact h.a.1, t, hh⟩, h.b.grown hg (by simp), (hg.block _ (Array.getElem?_eq_some_iff.1 h.res).1 (by simp)).trans h.res, h.bel.grown hg h.bel.size (fun r hr => by injection hr; omega)⟩
theorem Dy.drew1 {w : World} {o b : List Nat} {w' : World} (h : Dy w o b w') : Dy w o b { heap := w'.heap, tape := w'.tape, drawn := w'.drawn + 1, os := w'.os, output := w'.output } :=
  ⟨h.a, h.b, h.res, below_drewN' h.bel 1⟩
theorem Dy.keep {w : World} {o b : List Nat} {w' w'' : World} (h : Dy w o b w') (hb : Below w'.heap.size w' w'') : Dy w o b w'' :=
  ⟨h.a.keep hb, h.b.keep hb, (hb.block _ (Array.getElem?_eq_some_iff.1 h.res).1).trans h.res, h.bel.trans (hb.mono h.bel.size)⟩
theorem Dy.start {w : World} {la lb : List Nat} {w1 w2 w3 : World} (ha : la.length = 10) (hb : lb.length = 10)
    (h1 : w1.heap[w.heap.size]? = some (.cells (ics la).toArray 65 (0, 0))) (z1 : w1.heap.size = w.heap.size + 1) (g1 : w.grownBy w1 none)
    (h2 : w2.heap[w1.heap.size]? = some (.cells (ics lb).toArray 65 (0, 0))) (z2 : w2.heap.size = w1.heap.size + 1) (g2 : w1.grownBy w2 none)
    (h3 : w3.heap[w2.heap.size]? = some (.cells ziw 65 (0, 0))) (g3 : w2.grownBy w3 none) : Dy w la lb w3 := by
  have b1 := below_of_grownBy g1
  have b2 := below_of_grownBy g2
  have b3 := below_of_grownBy g3
  rw [z1] at h2 b2 z2
  rw [z2] at h3 b3
  refine ⟨⟨ha, 65, ?_⟩, ⟨hb, 65, ?_⟩, h3, ?_⟩
  · exact (b3.block _ (by omega)).trans ((b2.block _ (by omega)).trans h1)
  · exact (b3.block _ (by omega)).trans h2
  · exact b1.trans ((b2.mono (by omega)).trans (b3.mono (by omega)))

set_option maxHeartbeats 1000000 in
theorem Plus_core (o b : List Nat) (w : World) (HLA : Hid (o.length = 10)) (HLB : Hid (b.length = 10)) (HO : Hid (∀ i, i < 10 → o.getD i 0 < 1152921504606846976)) (HB : Hid (∀ i, i < 10 → b.getD i 0 < 1152921504606846976))
    (HR : Hid (∀ w, Calls Try.prog 94 #[.agg (ics (addk o b 10)).toArray] w (Gives (.agg (ics (cry (addk o b 10) 10)).toArray) w))) :
    Calls Try.prog 71 #[.agg (ics o).toArray, .agg (ics b).toArray] w (Gives (.agg (ics (cry (addk o b 10) 10)).toArray) w) := by
  go_enter Try.func71, Try.ntmps71
  go_wp2_with (first | ((with_reducible show wpList _ _ _ (⟨some 2, .box 65 (.tmp 0), _, _, _, _⟩ :: _) _ _); go_must (refine wpList_box_row rfl 65 (.tmp 0) rfl (ics o).toArray rfl ?_; intro w1 h1 z1 g1; have H1 := Lib.hid h1; have Z1 := Lib.hid z1; have G1 := Lib.hid g1; clear h1 z1 g1)) | ((with_reducible show wpList _ _ _ (⟨some 3, .box 65 (.tmp 1), _, _, _, _⟩ :: _) _ _); go_must (refine wpList_box_row rfl 65 (.tmp 1) rfl (ics b).toArray rfl ?_; intro w2 h1 z1 g1; have H2 := Lib.hid h1; have Z2 := Lib.hid z1; have G2 := Lib.hid g1; clear h1 z1 g1)) | ((with_reducible show wpList _ _ _ (⟨some 4, .alloc 65, _, _, _, _⟩ :: _) _ _); go_must (refine wpList_alloc_row rfl 65 rfl (.agg ziw) zero65 ?_; intro w3 h1 z1 g1; have H3 := Lib.hid h1; have Z3 := Lib.hid z1; have G3 := Lib.hid g1; clear h1 z1 g1)))
  have S : Hid (Dy w (addk o b 0) b w3) := Dy.start HLA.out HLB.out H1.out Z1.out G1.out H2.out Z2.out G2.out H3.out G3.out
  rw [show w2.heap.size = w.heap.size + 2 from by rw [Z2.out, Z1.out], show w1.heap.size = w.heap.size + 1 from Z1.out]
  clear H1 Z1 G1 H2 Z2 G2 H3 Z3 G3
  go_loopw [5] (fun i wr => ∃ n : Nat, n ≤ 10 ∧ i = .int .i64 n ∧ Dy w (addk o b n) b wr) (fun i _ => 10 - (intOf i).toNat)
  case atStart => exact ⟨0, by omega, rfl, S.out⟩
  case round =>
    obtain ⟨n, hn, rfl, hp⟩ := hrel
    have H := Lib.hid hp
    clear hp S
    by_cases hlt : n < 10
    · have hni : (n : Int) < 10 := by omega
      have c0 := H.out.a.cell n hlt
      have c1 := H.out.b.cell n hlt
      have HE : Hid (addk o b (n + 1) = (addk o b n).set n ((addk o b n).getD n 0 + b.getD n 0)) := rfl
      have HX : Hid ((addk o b n).getD n 0 < 1152921504606846976) := by rw [addk_later o b n n (Nat.le_refl _)]; exact Lib.hid (HO.out n hlt)
      have HY := Lib.hid (HB.out n hlt)
      have HL : Hid ((addk o b n).length = 10) := H.out.a.1
      generalize addk o b n = on at *
      generalize on.getD n 0 = a at *
      generalize b.getD n 0 = c at *
      have HV : Hid (IntKind.i64.wrap ((a : Int) + (c : Int)) = ((a + c : Nat) : Int)) := by have := HX.out; have := HY.out; rw [IntKind.wrap_i64]; exact Lib.hid (by omega)
      have c0' : ({ heap := wr.heap, tape := wr.tape, drawn := wr.drawn + 1, os := wr.os, output := wr.output } : World).cell? ⟨w.heap.size, n, none⟩ = some (.int .i64 (a : Int)) := c0
      have c1' : ({ heap := wr.heap, tape := wr.tape, drawn := wr.drawn + 1, os := wr.os, output := wr.output } : World).cell? ⟨w.heap.size + 1, n, none⟩ = some (.int .i64 (c : Int)) := c1
      clear HX HY
      go_wp2_with fail
      go_still_tail 9, (by kernel_rfl)
      clear c0 c0' c1 c1'
      have HD : Hid (Dy w on b { heap := wr.heap, tape := wr.tape, drawn := wr.drawn + 1, os := wr.os, output := wr.output }) := H.out.drew1
      clear H
      obtain ⟨wd, hwd⟩ : ∃ z, z = ({ heap := wr.heap, tape := wr.tape, drawn := wr.drawn + 1, os := wr.os, output := wr.output } : World) := ⟨_, rfl⟩
      rw [← hwd] at HD
      rw [← hwd]
      clear hwd
      obtain ⟨t, ht⟩ := HD.out.a.2
      refine wpList_store_one rfl 2 (.tmp 18) (.tmp 17) rfl w.heap.size n rfl .i64 _ rfl t _ ht size2 (by simp only [List.size_toArray, ics_len]; have := HL.out; omega) ?_
      intro w3 hh hg hz
      rw [HV.out, ics_set] at hh
      have H1 := Lib.hid (HD.out.set hg n _ hh)
      clear hh hg hz ht HD HV
      go_wp2_with fail
      exact ⟨⟨n + 1, by omega, by go_num, by rw [HE.out]; exact H1.out⟩, by simp [intOf]; omega⟩
    · obtain rfl : n = 10 := by omega
      have HLen : Hid ((cry (addk o b 10) 10).length = 10) := Lib.hid ((cry_len _ _).trans H.out.a.1)
      have HL : Hid ((addk o b 10).length = 10) := H.out.a.1
      generalize cry (addk o b 10) 10 = R at *
      generalize addk o b 10 = on at *
      obtain ⟨t, ht⟩ := H.out.a.2
      have HT := Lib.hid ht
      clear ht
      go_wp2_with (first | ((with_reducible show wpList _ _ _ (⟨_, .load 65 (.tmp 2), _, _, _, _⟩ :: _) _ _); go_must (refine wpList_load_arr rfl 65 (.tmp 2) rfl w.heap.size 0 rfl (ics on) (fun i u hu => by rw [Nat.zero_add]; exact row_cells HT.out i u (by simpa using hu)) _ under65 rfl (by rw [ics_len, HL.out]; exact size65) ?_)) | fail)
      refine (HR.out _).mono ?_
      rintro e x4 ⟨rfl, hb⟩
      have H1 := Lib.hid (H.out.keep hb)
      clear hb H HR HT
      go_wp2_with (first | ((with_reducible show wpList _ _ _ (⟨none, .store 65 (.tmp 4) (.tmp 20), _, _, _, _⟩ :: _) _ _); go_must (refine wpList_store_all rfl 65 (.tmp 4) (.tmp 20) rfl (w.heap.size + 2) rfl (ics R).toArray rfl 65 _ H1.out.res (by rw [List.size_toArray, ics_len, HLen.out]; exact size65) (by rw [List.size_toArray, ics_len, HLen.out]; rfl) (ics_one _) ?_; intro x5 hh hg hz; have HH := Lib.hid hh; have HG := Lib.hid hg; clear hh hg hz)) | fail)
      refine bodyPost_ret (results_cell_row rfl _ _ (w.heap.size + 2) 65 (ics R).toArray _ _ rfl HH.out under65 rfl (by rw [List.size_toArray, ics_len, HLen.out]; exact size65)) rfl ?_
      exact ⟨rfl, H1.out.bel.grown HG.out H1.out.bel.size (fun r hr => by injection hr; omega)⟩
end Go.Proofs.Ytgdimnbdnepbgaa
/- The reference's Minus. No statement is proved here. -/
namespace Go.Proofs.Ytgdimnbdnepbgaa
open Go.RowKit
set_option linter.unusedVariables false
set_option maxRecDepth 40000
set_option linter.unusedSimpArgs false

/-- The words of 4p. -/
def k10 (n : Nat) : Nat := if n = 0 then 268435380 else if n % 2 = 0 then 268435452 else 134217724
/-- The first n words of b taken from those of o, 4p added. -/
def msk (o b : List Nat) : Nat → List Nat
  | 0 => o
  | n + 1 => (msk o b n).set n ((msk o b n).getD n 0 + (k10 n - b.getD n 0))
theorem msk_later (o b : List Nat) (n i : Nat) (h : n ≤ i) : (msk o b n).getD i 0 = o.getD i 0 := by
  induction n with
  | zero => rfl
  | succ n ih =>
    unfold msk
    rw [getD_set_other _ _ _ _ (by omega)]
    exact ih (by omega)

set_option maxHeartbeats 2000000 in
theorem Minus_core (o b : List Nat) (w : World) (HLA : Hid (o.length = 10)) (HLB : Hid (b.length = 10)) (HO : Hid (∀ i, i < 10 → o.getD i 0 < 1152921504606846976)) (HB : Hid (∀ i, i < 10 → b.getD i 0 ≤ k10 i))
    (HR : Hid (∀ w, Calls Try.prog 94 #[.agg (ics (msk o b 10)).toArray] w (Gives (.agg (ics (cry (msk o b 10) 10)).toArray) w))) :
    Calls Try.prog 73 #[.agg (ics o).toArray, .agg (ics b).toArray] w (Gives (.agg (ics (cry (msk o b 10) 10)).toArray) w) := by
  go_enter Try.func73, Try.ntmps73
  go_wp2_with (first | ((with_reducible show wpList _ _ _ (⟨some 2, .box 65 (.tmp 0), _, _, _, _⟩ :: _) _ _); go_must (refine wpList_box_row rfl 65 (.tmp 0) rfl (ics o).toArray rfl ?_; intro w1 h1 z1 g1; have H1 := Lib.hid h1; have Z1 := Lib.hid z1; have G1 := Lib.hid g1; clear h1 z1 g1)) | ((with_reducible show wpList _ _ _ (⟨some 3, .box 65 (.tmp 1), _, _, _, _⟩ :: _) _ _); go_must (refine wpList_box_row rfl 65 (.tmp 1) rfl (ics b).toArray rfl ?_; intro w2 h1 z1 g1; have H2 := Lib.hid h1; have Z2 := Lib.hid z1; have G2 := Lib.hid g1; clear h1 z1 g1)) | ((with_reducible show wpList _ _ _ (⟨some 4, .alloc 65, _, _, _, _⟩ :: _) _ _); go_must (refine wpList_alloc_row rfl 65 rfl (.agg ziw) zero65 ?_; intro w3 h1 z1 g1; have H3 := Lib.hid h1; have Z3 := Lib.hid z1; have G3 := Lib.hid g1; clear h1 z1 g1)))
  have S : Hid (Dy w (msk o b 0) b w3) := Dy.start HLA.out HLB.out H1.out Z1.out G1.out H2.out Z2.out G2.out H3.out G3.out
  rw [show w2.heap.size = w.heap.size + 2 from by rw [Z2.out, Z1.out], show w1.heap.size = w.heap.size + 1 from Z1.out]
  clear H1 Z1 G1 H2 Z2 G2 H3 Z3 G3
  go_loopw [5] (fun i wr => ∃ n : Nat, n ≤ 10 ∧ i = .int .i64 n ∧ Dy w (msk o b n) b wr) (fun i _ => 10 - (intOf i).toNat)
  case atStart => exact ⟨0, by omega, rfl, S.out⟩
  case round =>
    obtain ⟨n, hn, rfl, hp⟩ := hrel
    have H := Lib.hid hp
    clear hp S
    by_cases hlt : n < 10
    · have hni : (n : Int) < 10 := by omega
      by_cases h0 : n = 0
      · subst h0
        have B := Lib.hid (bits_even 0 (by omega) (by omega))
        have HE : Hid (msk o b (0 + 1) = (msk o b 0).set 0 ((msk o b 0).getD 0 0 + (268435380 - b.getD 0 0))) := by
          show (msk o b 0).set 0 ((msk o b 0).getD 0 0 + (k10 0 - b.getD 0 0)) = _
          rfl
        have HY : Hid (b.getD 0 0 ≤ 268435380) := by
          have h := HB.out 0 (by omega)
          exact Lib.hid h
        have HX : Hid ((msk o b 0).getD 0 0 < 1152921504606846976) := by rw [msk_later o b 0 0 (Nat.le_refl _)]; exact Lib.hid (HO.out 0 (by omega))
        have c0 := H.out.a.cell 0 (by omega)
        have c1 := H.out.b.cell 0 (by omega)
        have HL : Hid ((msk o b 0).length = 10) := H.out.a.1
        generalize msk o b 0 = on at *
        generalize on.getD 0 0 = a at *
        generalize b.getD 0 0 = c at *
        have HV : Hid (IntKind.i64.wrap (IntKind.i64.wrap ((a : Int) + IntKind.i64.wrap 268435380) - (c : Int)) = ((a + (268435380 - c) : Nat) : Int)) := by have := HX.out; have := HY.out; rw [IntKind.wrap_i64, IntKind.wrap_i64, IntKind.wrap_i64]; exact Lib.hid (by omega)
        have c0' : ({ heap := wr.heap, tape := wr.tape, drawn := wr.drawn + 1, os := wr.os, output := wr.output } : World).cell? ⟨w.heap.size, 0, none⟩ = some (.int .i64 (a : Int)) := c0
        have c1' : ({ heap := wr.heap, tape := wr.tape, drawn := wr.drawn + 1, os := wr.os, output := wr.output } : World).cell? ⟨w.heap.size + 1, 0, none⟩ = some (.int .i64 (c : Int)) := c1
        clear HX HY
        go_wp2_with fail
        refine (B.out _).mono ?_
        rintro e x9 ⟨rfl, hx9⟩
        subst x9
        go_wp2_with fail
        go_still_tail 12, (by kernel_rfl)
        clear c0 c0' c1 c1'
        have HD : Hid (Dy w on b { heap := wr.heap, tape := wr.tape, drawn := wr.drawn + 1, os := wr.os, output := wr.output }) := H.out.drew1
        clear H
        obtain ⟨wd, hwd⟩ : ∃ z, z = ({ heap := wr.heap, tape := wr.tape, drawn := wr.drawn + 1, os := wr.os, output := wr.output } : World) := ⟨_, rfl⟩
        rw [← hwd] at HD
        rw [← hwd]
        clear hwd
        obtain ⟨t, ht⟩ := HD.out.a.2
        refine wpList_store_one rfl 2 (.tmp 30) (.tmp 29) rfl w.heap.size 0 rfl .i64 _ rfl t _ ht size2 (by simp only [List.size_toArray, ics_len]; have := HL.out; omega) ?_
        intro w3 hh hg hz
        rw [HV.out, ics_set] at hh
        have H1 := Lib.hid (HD.out.set hg 0 _ hh)
        clear hh hg hz ht HD HV
        go_wp2_with fail
        exact ⟨⟨0 + 1, by omega, by go_num, by rw [HE.out]; exact H1.out⟩, by first | (simp [intOf]; omega) | simp [intOf]⟩
      · by_cases hpar : n % 2 = 0
        · have B := Lib.hid (bits_even n (by omega) (by omega))
          have HE : Hid (msk o b (n + 1) = (msk o b n).set n ((msk o b n).getD n 0 + (268435452 - b.getD n 0))) := by
            show (msk o b n).set n ((msk o b n).getD n 0 + (k10 n - b.getD n 0)) = _
            rw [show k10 n = 268435452 from by unfold k10; rw [if_neg h0, if_pos (by omega)]]
          have HY : Hid (b.getD n 0 ≤ 268435452) := by
            have h := HB.out n (by omega)
            rw [show k10 n = 268435452 from by unfold k10; rw [if_neg h0, if_pos (by omega)]] at h
            exact Lib.hid h
          have HX : Hid ((msk o b n).getD n 0 < 1152921504606846976) := by rw [msk_later o b n n (Nat.le_refl _)]; exact Lib.hid (HO.out n (by omega))
          have c0 := H.out.a.cell n (by omega)
          have c1 := H.out.b.cell n (by omega)
          have HL : Hid ((msk o b n).length = 10) := H.out.a.1
          generalize msk o b n = on at *
          generalize on.getD n 0 = a at *
          generalize b.getD n 0 = c at *
          have HV : Hid (IntKind.i64.wrap (IntKind.i64.wrap ((a : Int) + IntKind.i64.wrap 268435452) - (c : Int)) = ((a + (268435452 - c) : Nat) : Int)) := by have := HX.out; have := HY.out; rw [IntKind.wrap_i64, IntKind.wrap_i64, IntKind.wrap_i64]; exact Lib.hid (by omega)
          have c0' : ({ heap := wr.heap, tape := wr.tape, drawn := wr.drawn + 1, os := wr.os, output := wr.output } : World).cell? ⟨w.heap.size, n, none⟩ = some (.int .i64 (a : Int)) := c0
          have c1' : ({ heap := wr.heap, tape := wr.tape, drawn := wr.drawn + 1, os := wr.os, output := wr.output } : World).cell? ⟨w.heap.size + 1, n, none⟩ = some (.int .i64 (c : Int)) := c1
          clear HX HY
          have n0 : ((n : Int) == 0) = false := by simp; omega
          go_wp2_with fail
          refine (B.out _).mono ?_
          rintro e x9 ⟨rfl, hx9⟩
          subst x9
          go_wp2_with fail
          go_still_tail 12, (by kernel_rfl)
          clear c0 c0' c1 c1'
          have HD : Hid (Dy w on b { heap := wr.heap, tape := wr.tape, drawn := wr.drawn + 1, os := wr.os, output := wr.output }) := H.out.drew1
          clear H
          obtain ⟨wd, hwd⟩ : ∃ z, z = ({ heap := wr.heap, tape := wr.tape, drawn := wr.drawn + 1, os := wr.os, output := wr.output } : World) := ⟨_, rfl⟩
          rw [← hwd] at HD
          rw [← hwd]
          clear hwd
          obtain ⟨t, ht⟩ := HD.out.a.2
          refine wpList_store_one rfl 2 (.tmp 30) (.tmp 29) rfl w.heap.size n rfl .i64 _ rfl t _ ht size2 (by simp only [List.size_toArray, ics_len]; have := HL.out; omega) ?_
          intro w3 hh hg hz
          rw [HV.out, ics_set] at hh
          have H1 := Lib.hid (HD.out.set hg n _ hh)
          clear hh hg hz ht HD HV
          go_wp2_with fail
          exact ⟨⟨n + 1, by omega, by go_num, by rw [HE.out]; exact H1.out⟩, by first | (simp [intOf]; omega) | simp [intOf]⟩
        · have B := Lib.hid (bits_odd n (by omega) (by omega))
          have HE : Hid (msk o b (n + 1) = (msk o b n).set n ((msk o b n).getD n 0 + (134217724 - b.getD n 0))) := by
            show (msk o b n).set n ((msk o b n).getD n 0 + (k10 n - b.getD n 0)) = _
            rw [show k10 n = 134217724 from by unfold k10; rw [if_neg h0, if_neg (by omega)]]
          have HY : Hid (b.getD n 0 ≤ 134217724) := by
            have h := HB.out n (by omega)
            rw [show k10 n = 134217724 from by unfold k10; rw [if_neg h0, if_neg (by omega)]] at h
            exact Lib.hid h
          have HX : Hid ((msk o b n).getD n 0 < 1152921504606846976) := by rw [msk_later o b n n (Nat.le_refl _)]; exact Lib.hid (HO.out n (by omega))
          have c0 := H.out.a.cell n (by omega)
          have c1 := H.out.b.cell n (by omega)
          have HL : Hid ((msk o b n).length = 10) := H.out.a.1
          generalize msk o b n = on at *
          generalize on.getD n 0 = a at *
          generalize b.getD n 0 = c at *
          have HV : Hid (IntKind.i64.wrap (IntKind.i64.wrap ((a : Int) + IntKind.i64.wrap 134217724) - (c : Int)) = ((a + (134217724 - c) : Nat) : Int)) := by have := HX.out; have := HY.out; rw [IntKind.wrap_i64, IntKind.wrap_i64, IntKind.wrap_i64]; exact Lib.hid (by omega)
          have c0' : ({ heap := wr.heap, tape := wr.tape, drawn := wr.drawn + 1, os := wr.os, output := wr.output } : World).cell? ⟨w.heap.size, n, none⟩ = some (.int .i64 (a : Int)) := c0
          have c1' : ({ heap := wr.heap, tape := wr.tape, drawn := wr.drawn + 1, os := wr.os, output := wr.output } : World).cell? ⟨w.heap.size + 1, n, none⟩ = some (.int .i64 (c : Int)) := c1
          clear HX HY
          have n0 : ((n : Int) == 0) = false := by simp; omega
          go_wp2_with fail
          refine (B.out _).mono ?_
          rintro e x9 ⟨rfl, hx9⟩
          subst x9
          go_wp2_with fail
          go_still_tail 12, (by kernel_rfl)
          clear c0 c0' c1 c1'
          have HD : Hid (Dy w on b { heap := wr.heap, tape := wr.tape, drawn := wr.drawn + 1, os := wr.os, output := wr.output }) := H.out.drew1
          clear H
          obtain ⟨wd, hwd⟩ : ∃ z, z = ({ heap := wr.heap, tape := wr.tape, drawn := wr.drawn + 1, os := wr.os, output := wr.output } : World) := ⟨_, rfl⟩
          rw [← hwd] at HD
          rw [← hwd]
          clear hwd
          obtain ⟨t, ht⟩ := HD.out.a.2
          refine wpList_store_one rfl 2 (.tmp 30) (.tmp 29) rfl w.heap.size n rfl .i64 _ rfl t _ ht size2 (by simp only [List.size_toArray, ics_len]; have := HL.out; omega) ?_
          intro w3 hh hg hz
          rw [HV.out, ics_set] at hh
          have H1 := Lib.hid (HD.out.set hg n _ hh)
          clear hh hg hz ht HD HV
          go_wp2_with fail
          exact ⟨⟨n + 1, by omega, by go_num, by rw [HE.out]; exact H1.out⟩, by first | (simp [intOf]; omega) | simp [intOf]⟩
    · obtain rfl : n = 10 := by omega
      have HLen : Hid ((cry (msk o b 10) 10).length = 10) := Lib.hid ((cry_len _ _).trans H.out.a.1)
      have HL : Hid ((msk o b 10).length = 10) := H.out.a.1
      generalize cry (msk o b 10) 10 = R at *
      generalize msk o b 10 = on at *
      obtain ⟨t, ht⟩ := H.out.a.2
      have HT := Lib.hid ht
      clear ht
      go_wp2_with (first | ((with_reducible show wpList _ _ _ (⟨_, .load 65 (.tmp 2), _, _, _, _⟩ :: _) _ _); go_must (refine wpList_load_arr rfl 65 (.tmp 2) rfl w.heap.size 0 rfl (ics on) (fun i u hu => by rw [Nat.zero_add]; exact row_cells HT.out i u (by simpa using hu)) _ under65 rfl (by rw [ics_len, HL.out]; exact size65) ?_)) | fail)
      refine (HR.out _).mono ?_
      rintro e x4 ⟨rfl, hb⟩
      have H1 := Lib.hid (H.out.keep hb)
      clear hb H HR HT
      go_wp2_with (first | ((with_reducible show wpList _ _ _ (⟨none, .store 65 (.tmp 4) (.tmp 32), _, _, _, _⟩ :: _) _ _); go_must (refine wpList_store_all rfl 65 (.tmp 4) (.tmp 32) rfl (w.heap.size + 2) rfl (ics R).toArray rfl 65 _ H1.out.res (by rw [List.size_toArray, ics_len, HLen.out]; exact size65) (by rw [List.size_toArray, ics_len, HLen.out]; rfl) (ics_one _) ?_; intro x5 hh hg hz; have HH := Lib.hid hh; have HG := Lib.hid hg; clear hh hg hz)) | fail)
      refine bodyPost_ret (results_cell_row rfl _ _ (w.heap.size + 2) 65 (ics R).toArray _ _ rfl HH.out under65 rfl (by rw [List.size_toArray, ics_len, HLen.out]; exact size65)) rfl ?_
      exact ⟨rfl, H1.out.bel.grown HG.out H1.out.bel.size (fun r hr => by injection hr; omega)⟩
end Go.Proofs.Ytgdimnbdnepbgaa
/- The reference's Times, in numbers. No statement is proved here. -/
namespace Go.Proofs.Ytgdimnbdnepbgaa
open Go.RowKit
set_option linter.unusedVariables false
set_option maxRecDepth 40000
set_option linter.unusedSimpArgs false

/-- Where word i counts. -/
def E10 (i : Nat) : Nat := [1, 67108864, 2251799813685248, 151115727451828646838272, 5070602400912917605986812821504, 340282366920938463463374607431768211456, 11417981541647679048466287755595961091061972992, 766247770432944429179173513575154591809369561091801088, 25711008708143844408671393477458601640355247900524685364822016, 1725436586697640946858688965569256363112777243042596638790631055949824].getD i 0
/-- The product of word i and word k, as it counts. -/
def tp (x y : List Nat) (i k : Nat) : Nat := (if 9 < i + k then 19 else 1) * ((if i % 2 = 1 ∧ k % 2 = 1 then 2 else 1) * (x.getD i 0 * y.getD k 0))
/-- The first k products of word i. -/
def trow (x y out : List Nat) (i : Nat) : Nat → List Nat
  | 0 => out
  | k + 1 => (trow x y out i k).set ((i + k) % 10) ((trow x y out i k).getD ((i + k) % 10) 0 + tp x y i k)
def tims (x y : List Nat) : Nat → List Nat
  | 0 => List.replicate 10 0
  | i + 1 => trow x y (tims x y i) i 10
theorem trow_len (x y out : List Nat) (i k : Nat) : (trow x y out i k).length = out.length := by
  induction k with
  | zero => rfl
  | succ k ih => unfold trow; rw [List.length_set, ih]
theorem tims_len (x y : List Nat) (i : Nat) : (tims x y i).length = 10 := by
  induction i with
  | zero => rfl
  | succ i ih => unfold tims; rw [trow_len, ih]
theorem val10_add (o : List Nat) (h : o.length = 10) (j p : Nat) (hj : j < 10) : val10 (o.set j (o.getD j 0 + p)) = val10 o + p * E10 j := by
  obtain ⟨a0, a1, a2, a3, a4, a5, a6, a7, a8, a9, rfl⟩ := ten o h
  have hi : j = 0 ∨ j = 1 ∨ j = 2 ∨ j = 3 ∨ j = 4 ∨ j = 5 ∨ j = 6 ∨ j = 7 ∨ j = 8 ∨ j = 9 := by omega
  rcases hi with rfl | rfl | rfl | rfl | rfl | rfl | rfl | rfl | rfl | rfl <;>
  · simp only [List.set, List.getD_cons_zero, List.getD_cons_succ, val10, E10]
    omega
/-- Partial sums. -/
def pv (y : List Nat) : Nat → Nat
  | 0 => 0
  | k + 1 => pv y k + y.getD k 0 * E10 k
theorem pv_all (y : List Nat) (h : y.length = 10) : pv y 10 = val10 y := by
  obtain ⟨a0, a1, a2, a3, a4, a5, a6, a7, a8, a9, rfl⟩ := ten y h
  simp only [pv, List.getD_cons_zero, List.getD_cons_succ, val10, E10]
  omega
theorem E_mul : ∀ i, i < 10 → ∀ k, k < 10 → E10 i * E10 k % PP = (if 9 < i + k then 19 else 1) * ((if i % 2 = 1 ∧ k % 2 = 1 then 2 else 1) * E10 ((i + k) % 10)) % PP := by decide +kernel
theorem tp_val (x y : List Nat) (i k : Nat) (hi : i < 10) (hk : k < 10) : tp x y i k * E10 ((i + k) % 10) % PP = x.getD i 0 * E10 i * (y.getD k 0 * E10 k) % PP := by
  have h := E_mul i hi k hk
  unfold tp
  generalize x.getD i 0 = a at *
  generalize y.getD k 0 = b at *
  generalize E10 ((i + k) % 10) = e at *
  generalize (if 9 < i + k then 19 else 1) = s at *
  generalize (if i % 2 = 1 ∧ k % 2 = 1 then 2 else 1) = t at *
  rw [show s * (t * (a * b)) * e = a * b * (s * (t * e)) from by grind, show a * E10 i * (b * E10 k) = a * b * (E10 i * E10 k) from by grind, Nat.mul_mod, ← h, ← Nat.mul_mod]
theorem trow_val (x y out : List Nat) (ho : out.length = 10) (i : Nat) (hi : i < 10) : ∀ k, k ≤ 10 → val10 (trow x y out i k) % PP = (val10 out + x.getD i 0 * E10 i * pv y k) % PP
  | 0, _ => by simp [trow, pv]
  | k + 1, hk => by
    have ih := trow_val x y out ho i hi k (by omega)
    show val10 ((trow x y out i k).set ((i + k) % 10) ((trow x y out i k).getD ((i + k) % 10) 0 + tp x y i k)) % PP = _
    rw [val10_add _ ((trow_len x y out i k).trans ho) _ _ (Nat.mod_lt _ (by omega)), Nat.add_mod, ih, tp_val x y i k hi (by omega), ← Nat.add_mod]
    show _ = (val10 out + x.getD i 0 * E10 i * (pv y k + y.getD k 0 * E10 k)) % PP
    rw [Nat.mul_add, Nat.add_assoc]
theorem tims_val (x y : List Nat) (hy : y.length = 10) : ∀ i, i ≤ 10 → val10 (tims x y i) % PP = pv x i * val10 y % PP
  | 0, _ => by simp [tims, pv, val10, List.replicate]
  | i + 1, hi => by
    have ih := tims_val x y hy i (by omega)
    show val10 (trow x y (tims x y i) i 10) % PP = _
    rw [trow_val x y _ (tims_len x y i) i (by omega) 10 (Nat.le_refl _), pv_all y hy, Nat.add_mod, ih, ← Nat.add_mod]
    show _ = (pv x i + x.getD i 0 * E10 i) * val10 y % PP
    rw [Nat.add_mul]
/-- What the words of a number are below. -/
def R10 (o : List Nat) : Prop := o.length = 10 ∧ ∀ i, i < 10 → o.getD i 0 ≤ 67109888 ∧ (i % 2 = 1 → o.getD i 0 ≤ 33554432)
theorem tp_le (x y : List Nat) (hx : R10 x) (hy : R10 y) (i k : Nat) (hi : i < 10) (hk : k < 10) : x.getD i 0 * y.getD k 0 ≤ 4503737067532544 ∧ (if i % 2 = 1 ∧ k % 2 = 1 then 2 else 1) * (x.getD i 0 * y.getD k 0) ≤ 4503737067532544 ∧ tp x y i k ≤ 85571004283118336 := by
  obtain ⟨a1, a2⟩ := hx.2 i hi
  obtain ⟨b1, b2⟩ := hy.2 k hk
  have h1 : x.getD i 0 * y.getD k 0 ≤ 4503737067532544 := Nat.le_trans (Nat.mul_le_mul a1 b1) (by decide)
  have h2 : (if i % 2 = 1 ∧ k % 2 = 1 then 2 else 1) * (x.getD i 0 * y.getD k 0) ≤ 4503737067532544 := by
    split
    · rename_i h
      have := Nat.mul_le_mul (a2 h.1) (b2 h.2)
      omega
    · omega
  refine ⟨h1, h2, ?_⟩
  unfold tp
  split <;> omega
theorem trow_bnd (c : Nat) (hc : 85571004283118336 = c) (x y out : List Nat) (hx : R10 x) (hy : R10 y) (ho : out.length = 10) (i : Nat) (hi : i < 10) (hb : ∀ j, j < 10 → out.getD j 0 ≤ i * c) :
    ∀ k, k ≤ 10 → ∀ j, j < 10 → (trow x y out i k).getD j 0 ≤ i * c + (if (j + 10 - i) % 10 < k then c else 0)
  | 0, _, j, hj => by
    have := hb j hj
    exact Nat.le_trans this (Nat.le_add_right _ _)
  | k + 1, hk, j, hj => by
    have ih := trow_bnd c hc x y out hx hy ho i hi hb k (by omega)
    have ht : tp x y i k ≤ c := hc ▸ (tp_le x y hx hy i k hi (by omega)).2.2
    show ((trow x y out i k).set ((i + k) % 10) ((trow x y out i k).getD ((i + k) % 10) 0 + tp x y i k)).getD j 0 ≤ _
    by_cases hj2 : (i + k) % 10 = j
    · have h1 := ih j hj
      have hl := (trow_len x y out i k).trans ho
      rw [hj2, getD_set_eq _ _ _ (by omega)]
      rw [if_neg (by omega)] at h1
      rw [if_pos (by omega)]
      omega
    · have h1 := ih j hj
      rw [getD_set_other _ _ _ _ hj2]
      refine Nat.le_trans h1 (Nat.add_le_add_left ?_ _)
      split
      · rw [if_pos (by omega)]
        exact Nat.le_refl _
      · exact Nat.zero_le _
theorem tims_bnd (c : Nat) (hc : 85571004283118336 = c) (x y : List Nat) (hx : R10 x) (hy : R10 y) (i : Nat) : i ≤ 10 → ∀ j, j < 10 → (tims x y i).getD j 0 ≤ i * c := by
  induction i with
  | zero =>
    intro _ j hj
    have e : (tims x y 0).getD j 0 = 0 := by
      have : j = 0 ∨ j = 1 ∨ j = 2 ∨ j = 3 ∨ j = 4 ∨ j = 5 ∨ j = 6 ∨ j = 7 ∨ j = 8 ∨ j = 9 := by omega
      rcases this with rfl | rfl | rfl | rfl | rfl | rfl | rfl | rfl | rfl | rfl <;> rfl
    rw [e]
    exact Nat.zero_le _
  | succ i ih =>
    intro hi j hj
    have hb := ih (by omega)
    have h := trow_bnd c hc x y (tims x y i) hx hy (tims_len x y i) i (by omega) hb 10 (Nat.le_refl _) j hj
    have e : tims x y (i + 1) = trow x y (tims x y i) i 10 := rfl
    rw [e]
    have h2 : (if (j + 10 - i) % 10 < 10 then c else 0) = c := if_pos (Nat.mod_lt _ (by decide))
    rw [h2] at h
    rw [Nat.succ_mul]
    exact h
end Go.Proofs.Ytgdimnbdnepbgaa
/- The reference's Times. No statement is proved here. -/
namespace Go.Proofs.Ytgdimnbdnepbgaa
open Go.RowKit
set_option linter.unusedVariables false
set_option maxRecDepth 40000
set_option linter.unusedSimpArgs false

/-- The memory of Times: rows s and s + 1, the result at s + 2, the sums at s + 3. -/
structure Ty (w : World) (x y o : List Nat) (w' : World) : Prop where
  a : IAt w' w.heap.size x
  b : IAt w' (w.heap.size + 1) y
  res : w'.heap[w.heap.size + 2]? = some (.cells ziw 65 (0, 0))
  o : IAt w' (w.heap.size + 3) o
  bel : Below w.heap.size w w'
theorem Ty.set {w : World} {x y o : List Nat} {w' w'' : World} {t : TypeId} (h : Ty w x y o w') (hg : w'.grownBy w'' (some (w.heap.size + 3))) (i v : Nat) (hh : w''.heap[w.heap.size + 3]? = some (.cells (ics (o.set i v)).toArray t (0, 0))) : Ty w x y (o.set i v) w'' :=
  ⟨h.a.grown hg (by simp), h.b.grown hg (by simp), (hg.block _ (Array.getElem?_eq_some_iff.1 h.res).1 (by simp)).trans h.res, ⟨by rw [List.length_set]; exact h.o.1, t, hh⟩, h.bel.grown hg h.bel.size (fun r hr => by injection hr; omega)⟩
theorem Ty.drew1 {w : World} {x y o : List Nat} {w' : World} (h : Ty w x y o w') : Ty w x y o { heap := w'.heap, tape := w'.tape, drawn := w'.drawn + 1, os := w'.os, output := w'.output } :=
  ⟨h.a, h.b, h.res, h.o, below_drewN' h.bel 1⟩
theorem Ty.keep {w : World} {x y o : List Nat} {w' w'' : World} (h : Ty w x y o w') (hb : Below w'.heap.size w' w'') : Ty w x y o w'' :=
  ⟨h.a.keep hb, h.b.keep hb, (hb.block _ (Array.getElem?_eq_some_iff.1 h.res).1).trans h.res, h.o.keep hb, h.bel.trans (hb.mono h.bel.size)⟩
theorem Ty.start {w : World} {x y : List Nat} {w3 w4 : World} (h : Dy w x y w3) (z3 : w3.heap.size = w.heap.size + 3)
    (h4 : w4.heap[w3.heap.size]? = some (.cells ziw 65 (0, 0))) (g4 : w3.grownBy w4 none) : Ty w x y (List.replicate 10 0) w4 := by
  have b4 := below_of_grownBy g4
  rw [z3] at h4
  exact ⟨h.a.keep b4, h.b.keep b4, (b4.block _ (Array.getElem?_eq_some_iff.1 h.res).1).trans h.res, ⟨rfl, 65, h4⟩, h.bel.trans (b4.mono h.bel.size)⟩

set_option maxHeartbeats 1000000 in
theorem Times_core (x y : List Nat) (w : World) (HX : Hid (R10 x)) (HY : Hid (R10 y))
    (HR : Hid (∀ w, Calls Try.prog 94 #[.agg (ics (tims x y 10)).toArray] w (Gives (.agg (ics (cry (tims x y 10) 10)).toArray) w)))
    (HR2 : Hid (∀ w, Calls Try.prog 94 #[.agg (ics (cry (tims x y 10) 10)).toArray] w (Gives (.agg (ics (cry (cry (tims x y 10) 10) 10)).toArray) w))) :
    Calls Try.prog 75 #[.agg (ics x).toArray, .agg (ics y).toArray] w (Gives (.agg (ics (cry (cry (tims x y 10) 10) 10)).toArray) w) := by
  go_enter Try.func75, Try.ntmps75
  go_wp2_with (first | ((with_reducible show wpList _ _ _ (⟨some 2, .box 65 (.tmp 0), _, _, _, _⟩ :: _) _ _); go_must (refine wpList_box_row rfl 65 (.tmp 0) rfl (ics x).toArray rfl ?_; intro w1 h1 z1 g1; have H1 := Lib.hid h1; have Z1 := Lib.hid z1; have G1 := Lib.hid g1; clear h1 z1 g1)) | ((with_reducible show wpList _ _ _ (⟨some 3, .box 65 (.tmp 1), _, _, _, _⟩ :: _) _ _); go_must (refine wpList_box_row rfl 65 (.tmp 1) rfl (ics y).toArray rfl ?_; intro w2 h1 z1 g1; have H2 := Lib.hid h1; have Z2 := Lib.hid z1; have G2 := Lib.hid g1; clear h1 z1 g1)) | ((with_reducible show wpList _ _ _ (⟨some 4, .alloc 65, _, _, _, _⟩ :: _) _ _); go_must (refine wpList_alloc_row rfl 65 rfl (.agg ziw) zero65 ?_; intro w3 h1 z1 g1; have H3 := Lib.hid h1; have Z3 := Lib.hid z1; have G3 := Lib.hid g1; clear h1 z1 g1)) | ((with_reducible show wpList _ _ _ (⟨some 5, .alloc 65, _, _, _, _⟩ :: _) _ _); go_must (refine wpList_alloc_row rfl 65 rfl (.agg ziw) zero65 ?_; intro w4 h1 z1 g1; have H4 := Lib.hid h1; have Z4 := Lib.hid z1; have G4 := Lib.hid g1; clear h1 z1 g1)))
  have Z3' : w3.heap.size = w.heap.size + 3 := by rw [Z3.out, Z2.out, Z1.out]
  have S : Hid (Ty w x y (tims x y 0) w4) := Ty.start (Dy.start HX.out.1 HY.out.1 H1.out Z1.out G1.out H2.out Z2.out G2.out H3.out G3.out) Z3' H4.out G4.out
  rw [Z3', show w2.heap.size = w.heap.size + 2 from by rw [Z2.out, Z1.out], show w1.heap.size = w.heap.size + 1 from Z1.out]
  clear H1 Z1 G1 H2 Z2 G2 H3 Z3 G3 H4 Z4 G4 Z3'
  go_loopw [6, 7, 8] (fun i _ _ wr => ∃ n : Nat, n ≤ 10 ∧ i = .int .i64 n ∧ Ty w x y (tims x y n) wr) (fun i _ _ _ => 10 - (intOf i).toNat)
  case atStart => exact ⟨0, by omega, rfl, S.out⟩
  case round =>
    obtain ⟨n, hn, rfl, hp⟩ := hrel
    have H := Lib.hid hp
    clear hp S
    by_cases hlt : n < 10
    · have hni : (n : Int) < 10 := by omega
      go_wp2_with fail
      have HBD : Hid (∀ k, k ≤ 10 → ∀ j, j < 10 → (trow x y (tims x y n) n k).getD j 0 ≤ 855710042831183360) := Lib.hid fun k hk j hj => by
        have h := trow_bnd _ rfl x y (tims x y n) HX.out HY.out (tims_len x y n) n hlt (tims_bnd _ rfl x y HX.out HY.out n (by omega)) k hk j hj
        refine Nat.le_trans h ?_
        split <;> omega
      have HS : Hid (tims x y (n + 1) = trow x y (tims x y n) n 10) := rfl
      generalize tims x y n = on at *
      go_loopw [7, 8] (fun j _ wi => ∃ m : Nat, m ≤ 10 ∧ j = .int .i64 m ∧ Ty w x y (trow x y on n m) wi) (fun j _ _ => 10 - (intOf j).toNat)
      case atStart => exact ⟨0, by omega, rfl, H.out⟩
      case round =>
        obtain ⟨m, hm, rfl, hp⟩ := hrel
        have H1 := Lib.hid hp
        clear hp H
        by_cases hlm : m < 10
        · have hmi : (m : Int) < 10 := by omega
          have c0 := H1.out.a.cell n hlt
          have c1 := H1.out.b.cell m hlm
          have HTP := Lib.hid (tp_le x y HX.out HY.out n m hlt hlm)
          have HE : Hid (trow x y on n (m + 1) = (trow x y on n m).set ((n + m) % 10) ((trow x y on n m).getD ((n + m) % 10) 0 + (if 9 < n + m then 19 else 1) * ((if n % 2 = 1 ∧ m % 2 = 1 then 2 else 1) * (x.getD n 0 * y.getD m 0)))) := rfl
          have HB := Lib.hid (HBD.out m (by omega) ((n + m) % 10) (Nat.mod_lt _ (by omega)))
          unfold tp at HTP
          generalize trow x y on n m = oo at *
          have HL : Hid (oo.length = 10) := H1.out.o.1
          generalize x.getD n 0 = a at *
          generalize y.getD m 0 = c at *
          have HV : Hid (IntKind.i64.wrap ((a : Int) * (c : Int)) = ((a * c : Nat) : Int)) := by have := HTP.out.1; rw [IntKind.wrap_i64]; rw [← Int.natCast_mul]; generalize a * c = p at *; exact Lib.hid (by omega)
          have c0' : ({ heap := wr.heap, tape := wr.tape, drawn := wr.drawn + 1, os := wr.os, output := wr.output } : World).cell? ⟨w.heap.size, n, none⟩ = some (.int .i64 (a : Int)) := c0
          have c1' : ({ heap := wr.heap, tape := wr.tape, drawn := wr.drawn + 1, os := wr.os, output := wr.output } : World).cell? ⟨w.heap.size + 1, m, none⟩ = some (.int .i64 (c : Int)) := c1
          go_wp2_with fail
          refine wp_region_still_lit (by kernel_rfl) (by kernel_rfl) ?_
          repeat still_step
          refine wpStill_nil ?_
          rw [HV.out]
          clear c0 c1 c0' c1' HV
          have HD : Hid (Ty w x y oo { heap := wr.heap, tape := wr.tape, drawn := wr.drawn + 1, os := wr.os, output := wr.output }) := H1.out.drew1
          clear H1
          obtain ⟨wd, hwd⟩ : ∃ z, z = ({ heap := wr.heap, tape := wr.tape, drawn := wr.drawn + 1, os := wr.os, output := wr.output } : World) := ⟨_, rfl⟩
          rw [← hwd] at HD
          rw [← hwd]
          clear hwd
          generalize a * c = p at *
          have co := HD.out.o.cell ((n + m) % 10) (Nat.mod_lt _ (by omega))
          obtain ⟨t, ht⟩ := HD.out.o.2
          have HT := Lib.hid ht
          clear ht
          generalize oo.getD ((n + m) % 10) 0 = ok at *
          rcases Nat.mod_two_eq_zero_or_one n with hp1 | hp1
          · skip
            by_cases h9 : 9 < n + m
            · skip
              have h := HE.out
              have hb := HTP.out.2
              rw [if_pos h9, if_neg (by omega : ¬ (n % 2 = 1 ∧ m % 2 = 1))] at h hb
              have HE2 := Lib.hid h
              have HV2 : Hid (wrap64 ((ok : Int) + wrap64 (19 * (p : Int))) = ((ok + 19 * (1 * p) : Nat) : Int)) := Lib.hid (by have := HB.out; obtain ⟨b1, b2⟩ := hb; rw [IntWalk.wrap64_in (19 * (p : Int)) (by omega), IntWalk.wrap64_in _ (by omega)]; omega)
              clear h hb HE HTP HB
              go_wp2_with (first | ((with_reducible show wpList _ _ _ (⟨none, .store 2 (.tmp 52) (.tmp 51), _, _, _, _⟩ :: _) _ _); go_must (refine wpList_store_one rfl 2 (.tmp 52) (.tmp 51) rfl (w.heap.size + 3) ((n + m) % 10) rfl .i64 _ rfl t _ HT.out size2 (by simp only [List.size_toArray, ics_len]; have := HL.out; omega) ?_; intro w5 hh hg hz; rw [HV2.out, ics_set] at hh; have H2 := Lib.hid (HD.out.set hg ((n + m) % 10) _ hh); clear hh hg hz HD HT HV2 co)) | fail)
              exact ⟨⟨m + 1, by omega, by go_num, by rw [HE2.out]; exact H2.out⟩, by simp [intOf]; omega⟩
            · skip
              have h := HE.out
              have hb := HTP.out.2
              rw [if_neg h9, if_neg (by omega : ¬ (n % 2 = 1 ∧ m % 2 = 1))] at h hb
              have HE2 := Lib.hid h
              have HV2 : Hid (wrap64 ((ok : Int) + (p : Int)) = ((ok + 1 * (1 * p) : Nat) : Int)) := Lib.hid (by have := HB.out; obtain ⟨b1, b2⟩ := hb; rw [IntWalk.wrap64_in _ (by omega)]; omega)
              clear h hb HE HTP HB
              go_wp2_with (first | ((with_reducible show wpList _ _ _ (⟨none, .store 2 (.tmp 52) (.tmp 51), _, _, _, _⟩ :: _) _ _); go_must (refine wpList_store_one rfl 2 (.tmp 52) (.tmp 51) rfl (w.heap.size + 3) ((n + m) % 10) rfl .i64 _ rfl t _ HT.out size2 (by simp only [List.size_toArray, ics_len]; have := HL.out; omega) ?_; intro w5 hh hg hz; rw [HV2.out, ics_set] at hh; have H2 := Lib.hid (HD.out.set hg ((n + m) % 10) _ hh); clear hh hg hz HD HT HV2 co)) | fail)
              exact ⟨⟨m + 1, by omega, by go_num, by rw [HE2.out]; exact H2.out⟩, by simp [intOf]; omega⟩
          · rcases Nat.mod_two_eq_zero_or_one m with hp2 | hp2
            · skip
              by_cases h9 : 9 < n + m
              · skip
                have h := HE.out
                have hb := HTP.out.2
                rw [if_pos h9, if_neg (by omega : ¬ (n % 2 = 1 ∧ m % 2 = 1))] at h hb
                have HE2 := Lib.hid h
                have HV2 : Hid (wrap64 ((ok : Int) + wrap64 (19 * (p : Int))) = ((ok + 19 * (1 * p) : Nat) : Int)) := Lib.hid (by have := HB.out; obtain ⟨b1, b2⟩ := hb; rw [IntWalk.wrap64_in (19 * (p : Int)) (by omega), IntWalk.wrap64_in _ (by omega)]; omega)
                clear h hb HE HTP HB
                go_wp2_with (first | ((with_reducible show wpList _ _ _ (⟨none, .store 2 (.tmp 52) (.tmp 51), _, _, _, _⟩ :: _) _ _); go_must (refine wpList_store_one rfl 2 (.tmp 52) (.tmp 51) rfl (w.heap.size + 3) ((n + m) % 10) rfl .i64 _ rfl t _ HT.out size2 (by simp only [List.size_toArray, ics_len]; have := HL.out; omega) ?_; intro w5 hh hg hz; rw [HV2.out, ics_set] at hh; have H2 := Lib.hid (HD.out.set hg ((n + m) % 10) _ hh); clear hh hg hz HD HT HV2 co)) | fail)
                exact ⟨⟨m + 1, by omega, by go_num, by rw [HE2.out]; exact H2.out⟩, by simp [intOf]; omega⟩
              · skip
                have h := HE.out
                have hb := HTP.out.2
                rw [if_neg h9, if_neg (by omega : ¬ (n % 2 = 1 ∧ m % 2 = 1))] at h hb
                have HE2 := Lib.hid h
                have HV2 : Hid (wrap64 ((ok : Int) + (p : Int)) = ((ok + 1 * (1 * p) : Nat) : Int)) := Lib.hid (by have := HB.out; obtain ⟨b1, b2⟩ := hb; rw [IntWalk.wrap64_in _ (by omega)]; omega)
                clear h hb HE HTP HB
                go_wp2_with (first | ((with_reducible show wpList _ _ _ (⟨none, .store 2 (.tmp 52) (.tmp 51), _, _, _, _⟩ :: _) _ _); go_must (refine wpList_store_one rfl 2 (.tmp 52) (.tmp 51) rfl (w.heap.size + 3) ((n + m) % 10) rfl .i64 _ rfl t _ HT.out size2 (by simp only [List.size_toArray, ics_len]; have := HL.out; omega) ?_; intro w5 hh hg hz; rw [HV2.out, ics_set] at hh; have H2 := Lib.hid (HD.out.set hg ((n + m) % 10) _ hh); clear hh hg hz HD HT HV2 co)) | fail)
                exact ⟨⟨m + 1, by omega, by go_num, by rw [HE2.out]; exact H2.out⟩, by simp [intOf]; omega⟩
            · skip
              by_cases h9 : 9 < n + m
              · skip
                have h := HE.out
                have hb := HTP.out.2
                rw [if_pos h9, if_pos ⟨hp1, hp2⟩] at h hb
                have HE2 := Lib.hid h
                have HV2 : Hid (wrap64 ((ok : Int) + wrap64 (19 * wrap64 (2 * (p : Int)))) = ((ok + 19 * (2 * p) : Nat) : Int)) := Lib.hid (by have := HB.out; obtain ⟨b1, b2⟩ := hb; rw [IntWalk.wrap64_in (2 * (p : Int)) (by omega), IntWalk.wrap64_in (19 * (2 * (p : Int))) (by omega), IntWalk.wrap64_in _ (by omega)]; omega)
                clear h hb HE HTP HB
                go_wp2_with (first | ((with_reducible show wpList _ _ _ (⟨none, .store 2 (.tmp 52) (.tmp 51), _, _, _, _⟩ :: _) _ _); go_must (refine wpList_store_one rfl 2 (.tmp 52) (.tmp 51) rfl (w.heap.size + 3) ((n + m) % 10) rfl .i64 _ rfl t _ HT.out size2 (by simp only [List.size_toArray, ics_len]; have := HL.out; omega) ?_; intro w5 hh hg hz; rw [HV2.out, ics_set] at hh; have H2 := Lib.hid (HD.out.set hg ((n + m) % 10) _ hh); clear hh hg hz HD HT HV2 co)) | fail)
                exact ⟨⟨m + 1, by omega, by go_num, by rw [HE2.out]; exact H2.out⟩, by simp [intOf]; omega⟩
              · skip
                have h := HE.out
                have hb := HTP.out.2
                rw [if_neg h9, if_pos ⟨hp1, hp2⟩] at h hb
                have HE2 := Lib.hid h
                have HV2 : Hid (wrap64 ((ok : Int) + wrap64 (2 * (p : Int))) = ((ok + 1 * (2 * p) : Nat) : Int)) := Lib.hid (by have := HB.out; obtain ⟨b1, b2⟩ := hb; rw [IntWalk.wrap64_in (2 * (p : Int)) (by omega), IntWalk.wrap64_in _ (by omega)]; omega)
                clear h hb HE HTP HB
                go_wp2_with (first | ((with_reducible show wpList _ _ _ (⟨none, .store 2 (.tmp 52) (.tmp 51), _, _, _, _⟩ :: _) _ _); go_must (refine wpList_store_one rfl 2 (.tmp 52) (.tmp 51) rfl (w.heap.size + 3) ((n + m) % 10) rfl .i64 _ rfl t _ HT.out size2 (by simp only [List.size_toArray, ics_len]; have := HL.out; omega) ?_; intro w5 hh hg hz; rw [HV2.out, ics_set] at hh; have H2 := Lib.hid (HD.out.set hg ((n + m) % 10) _ hh); clear hh hg hz HD HT HV2 co)) | fail)
                exact ⟨⟨m + 1, by omega, by go_num, by rw [HE2.out]; exact H2.out⟩, by simp [intOf]; omega⟩
        · obtain rfl : m = 10 := by omega
          go_wp2_with fail
          exact ⟨⟨n + 1, by omega, by go_num, by rw [HS.out]; exact H1.out⟩, by simp [intOf]; omega⟩
    · obtain rfl : n = 10 := by omega
      have HL1 : Hid ((cry (tims x y 10) 10).length = 10) := Lib.hid ((cry_len _ _).trans H.out.o.1)
      have HL2 : Hid ((cry (cry (tims x y 10) 10) 10).length = 10) := Lib.hid ((cry_len _ _).trans HL1.out)
      have HL : Hid ((tims x y 10).length = 10) := H.out.o.1
      generalize cry (cry (tims x y 10) 10) 10 = R2 at *
      generalize cry (tims x y 10) 10 = R at *
      generalize tims x y 10 = on at *
      obtain ⟨t, ht⟩ := H.out.o.2
      have HT := Lib.hid ht
      clear ht
      go_wp2_with (first | ((with_reducible show wpList _ _ _ (⟨_, .load 65 (.tmp 5), _, _, _, _⟩ :: _) _ _); go_must (refine wpList_load_arr rfl 65 (.tmp 5) rfl (w.heap.size + 3) 0 rfl (ics on) (fun i u hu => by rw [Nat.zero_add]; exact row_cells HT.out i u (by simpa using hu)) _ under65 rfl (by rw [ics_len, HL.out]; exact size65) ?_)) | fail)
      refine (HR.out _).mono ?_
      rintro e x4 ⟨rfl, hb⟩
      have H1 := Lib.hid (H.out.keep hb)
      clear hb H HR HT
      go_wp2_with fail
      refine (HR2.out _).mono ?_
      rintro e x5 ⟨rfl, hb⟩
      have H2 := Lib.hid (H1.out.keep hb)
      clear hb H1 HR2
      go_wp2_with (first | ((with_reducible show wpList _ _ _ (⟨none, .store 65 (.tmp 4) (.tmp 55), _, _, _, _⟩ :: _) _ _); go_must (refine wpList_store_all rfl 65 (.tmp 4) (.tmp 55) rfl (w.heap.size + 2) rfl (ics R2).toArray rfl 65 _ H2.out.res (by rw [List.size_toArray, ics_len, HL2.out]; exact size65) (by rw [List.size_toArray, ics_len, HL2.out]; rfl) (ics_one _) ?_; intro x6 hh hg hz; have HH := Lib.hid hh; have HG := Lib.hid hg; clear hh hg hz)) | fail)
      refine bodyPost_ret (results_cell_row rfl _ _ (w.heap.size + 2) 65 (ics R2).toArray _ _ rfl HH.out under65 rfl (by rw [List.size_toArray, ics_len, HL2.out]; exact size65)) rfl ?_
      exact ⟨rfl, H2.out.bel.grown HG.out H2.out.bel.size (fun r hr => by injection hr; omega)⟩
end Go.Proofs.Ytgdimnbdnepbgaa
/- The reference's Plus, Minus and Times as numbers. No statement is proved here. -/
namespace Go.Proofs.Ytgdimnbdnepbgaa
open Go.RowKit
set_option linter.unusedVariables false
set_option maxRecDepth 40000
set_option linter.unusedSimpArgs false

theorem m10_le (i : Nat) : m10 i ≤ 67108864 := by unfold m10; split <;> decide
theorem m10_ge (i : Nat) : 33554432 ≤ m10 i := by unfold m10; split <;> decide
theorem m10_odd (i : Nat) (h : i % 2 = 1) : m10 i = 33554432 := by unfold m10; rw [if_neg (by omega)]
/-- A carry of words of which only the lowest is long. -/
theorem cry_bnd2 (o : List Nat) (h : o.length = 10) (h0 : o.getD 0 0 < 1125899906842624) (hi : ∀ i, i < 10 → 0 < i → o.getD i 0 < m10 i) :
    ∀ n, n ≤ 10 → (∀ i, i < n → 0 < i → (cry o n).getD i 0 < m10 i) ∧ (n ≤ 9 → 0 < n → (cry o n).getD 0 0 < 67108864) ∧ (n ≤ 9 → (cry o n).getD n 0 / m10 n < 16777216 ∧ (0 < n → (cry o n).getD n 0 / m10 n < 2)) ∧ (n = 10 → (cry o n).getD 0 0 < 67108902)
  | 0, _ => ⟨fun i hi => absurd hi (by omega), fun _ h => absurd h (by omega), fun _ => ⟨by show o.getD 0 0 / 67108864 < _; omega, fun h => absurd h (by omega)⟩, fun h => absurd h (by omega)⟩
  | n + 1, hn => by
    obtain ⟨k1, k2, k3, _⟩ := cry_bnd2 o h h0 hi n (by omega)
    obtain ⟨hc, hc2⟩ := k3 (by omega)
    have hl : (cry o n).length = 10 := (cry_len o n).trans h
    have hlat : n ≤ 8 → (cry o n).getD (n + 1) 0 < m10 (n + 1) := fun h8 => by rw [cry_later o n (n + 1) (by omega) (by omega)]; exact hi _ (by omega) (by omega)
    have hm : (cry o n).getD n 0 % m10 n < m10 n := Nat.mod_lt _ (by have := m10_ge n; omega)
    have hm0 := m10_le n
    show (∀ i, i < n + 1 → 0 < i → (cst (cry o n) n).getD i 0 < m10 i) ∧ (n + 1 ≤ 9 → 0 < n + 1 → (cst (cry o n) n).getD 0 0 < 67108864) ∧ (n + 1 ≤ 9 → (cst (cry o n) n).getD (n + 1) 0 / m10 (n + 1) < 16777216 ∧ (0 < n + 1 → (cst (cry o n) n).getD (n + 1) 0 / m10 (n + 1) < 2)) ∧ (n + 1 = 10 → (cst (cry o n) n).getD 0 0 < 67108902)
    unfold cst
    by_cases h9 : n = 9
    · subst h9
      rw [if_pos rfl]
      refine ⟨fun i hi h0 => ?_, fun h => absurd h (by omega), fun h => absurd h (by omega), fun _ => ?_⟩
      · rw [getD_set_other _ _ _ _ (by omega)]
        by_cases hi9 : i = 9
        · subst hi9
          rw [getD_set_eq _ _ _ (by omega)]
          exact hm
        · rw [getD_set_other _ _ _ _ (by omega)]
          exact k1 i (by omega) h0
      · rw [getD_set_eq _ _ _ (by rw [List.length_set]; omega), getD_set_other _ _ _ _ (by omega)]
        have := k2 (by omega) (by omega)
        have hc' : (cry o 9).getD 9 0 / 33554432 < 2 := hc2 (by omega)
        omega
    · rw [if_neg h9]
      refine ⟨fun i hi h0 => ?_, fun _ _ => ?_, fun _ => ?_, fun h => absurd h (by omega)⟩
      · rw [getD_set_other _ _ _ _ (by omega)]
        by_cases hin : i = n
        · subst hin
          rw [getD_set_eq _ _ _ (by omega)]
          exact hm
        · rw [getD_set_other _ _ _ _ (by omega)]
          exact k1 i (by omega) h0
      · rw [getD_set_other _ _ _ _ (by omega)]
        by_cases hn0 : n = 0
        · subst hn0
          rw [getD_set_eq _ _ _ (by omega)]
          exact hm
        · rw [getD_set_other _ _ _ _ (by omega)]
          exact k2 (by omega) (by omega)
      · rw [getD_set_eq _ _ _ (by rw [List.length_set]; omega), getD_set_other _ _ _ _ (by omega)]
        have hw := hlat (by omega)
        have hg := m10_ge (n + 1)
        have : ((cry o n).getD (n + 1) 0 + (cry o n).getD n 0 / m10 n) / m10 (n + 1) < 2 := by
          rw [Nat.div_lt_iff_lt_mul (by omega)]
          omega
        exact ⟨by omega, fun _ => this⟩
/-- A carry's words, where the words before are below B. -/
theorem cry_R (o : List Nat) (h : o.length = 10) (B C : Nat) (hB : ∀ i, i < 10 → o.getD i 0 < B) (hC : (B + C) / 33554432 < C) (hC2 : 19 * C ≤ 1024) : R10 (cry o 10) := by
  obtain ⟨k1, _, _, k4⟩ := cry_bnd o h B C hB hC 10 (Nat.le_refl _)
  refine ⟨(cry_len _ _).trans h, fun i hi => ?_⟩
  by_cases hi0 : i = 0
  · subst hi0
    have := k4 rfl
    exact ⟨by omega, fun h => absurd h (by omega)⟩
  · have h1 := k1 i hi (by omega)
    have h2 := m10_le i
    exact ⟨by omega, fun h => by rw [m10_odd i h] at h1; omega⟩
/-- What is kept of a number by its residue. -/
theorem cry_res (o : List Nat) (h : o.length = 10) : val10 (cry o 10) % PP = val10 o % PP := by
  obtain ⟨q, hq⟩ := cry_val o h 10 (Nat.le_refl _)
  rw [← hq]
  show _ = (val10 (cry o 10) + q * PP) % PP
  rw [Nat.add_mul_mod_self_right]
theorem addk_len (o b : List Nat) (n : Nat) : (addk o b n).length = o.length := by
  induction n with
  | zero => rfl
  | succ n ih => unfold addk; rw [List.length_set, ih]
theorem msk_len (o b : List Nat) (n : Nat) : (msk o b n).length = o.length := by
  induction n with
  | zero => rfl
  | succ n ih => unfold msk; rw [List.length_set, ih]
theorem addk_word (o b : List Nat) (h : o.length = 10) : ∀ n, n ≤ 10 → ∀ i, i < n → (addk o b n).getD i 0 = o.getD i 0 + b.getD i 0
  | 0, _, i, hi => absurd hi (by omega)
  | n + 1, hn, i, hi => by
    show ((addk o b n).set n ((addk o b n).getD n 0 + b.getD n 0)).getD i 0 = _
    by_cases hin : i = n
    · subst hin
      rw [getD_set_eq _ _ _ (by rw [addk_len]; omega), addk_later o b i i (Nat.le_refl _)]
    · rw [getD_set_other _ _ _ _ (by omega)]
      exact addk_word o b h n (by omega) i (by omega)
theorem msk_word (o b : List Nat) (h : o.length = 10) : ∀ n, n ≤ 10 → ∀ i, i < n → (msk o b n).getD i 0 = o.getD i 0 + (k10 i - b.getD i 0)
  | 0, _, i, hi => absurd hi (by omega)
  | n + 1, hn, i, hi => by
    show ((msk o b n).set n ((msk o b n).getD n 0 + (k10 n - b.getD n 0))).getD i 0 = _
    by_cases hin : i = n
    · subst hin
      rw [getD_set_eq _ _ _ (by rw [msk_len]; omega), msk_later o b i i (Nat.le_refl _)]
    · rw [getD_set_other _ _ _ _ (by omega)]
      exact msk_word o b h n (by omega) i (by omega)
theorem addk_ten (o b : List Nat) (h : o.length = 10) : ∀ n, n ≤ 10 → val10 (addk o b n) = val10 o + pv b n
  | 0, _ => rfl
  | n + 1, hn => by
    show val10 ((addk o b n).set n ((addk o b n).getD n 0 + b.getD n 0)) = val10 o + (pv b n + b.getD n 0 * E10 n)
    rw [val10_add _ ((addk_len o b n).trans h) n _ (by omega), addk_ten o b h n (by omega), Nat.add_assoc]
/-- The partial sums of 4 p. -/
def pk : Nat → Nat
  | 0 => 0
  | k + 1 => pk k + k10 k * E10 k
theorem pk_all : pk 10 = 4 * PP := by decide +kernel
theorem msk_val (o b : List Nat) (h : o.length = 10) (hb : ∀ i, i < 10 → b.getD i 0 ≤ k10 i) : ∀ n, n ≤ 10 → val10 (msk o b n) + pv b n = val10 o + pk n
  | 0, _ => rfl
  | n + 1, hn => by
    have ih := msk_val o b h hb n (by omega)
    have hw := hb n (by omega)
    show val10 ((msk o b n).set n ((msk o b n).getD n 0 + (k10 n - b.getD n 0))) + (pv b n + b.getD n 0 * E10 n) = val10 o + (pk n + k10 n * E10 n)
    rw [val10_add _ ((msk_len o b n).trans h) n _ (by omega)]
    have he : (k10 n - b.getD n 0) * E10 n + b.getD n 0 * E10 n = k10 n * E10 n := by rw [← Nat.add_mul, Nat.sub_add_cancel hw]
    generalize (k10 n - b.getD n 0) * E10 n = x at *
    generalize b.getD n 0 * E10 n = y at *
    generalize k10 n * E10 n = z at *
    omega
theorem R10_k (b : List Nat) (h : R10 b) (i : Nat) (hi : i < 10) : b.getD i 0 ≤ k10 i := by
  obtain ⟨h1, h2⟩ := h.2 i hi
  unfold k10
  split
  · omega
  · split
    · omega
    · have := h2 (by omega); omega

theorem Plus_gives (x y : List Nat) (hx : R10 x) (hy : R10 y) : ∃ z, R10 z ∧ val10 z % PP = (val10 x + val10 y) % PP ∧ ∀ w, Calls Try.prog 71 #[.agg (ics x).toArray, .agg (ics y).toArray] w (Gives (.agg (ics z).toArray) w) := by
  have hl : (addk x y 10).length = 10 := (addk_len x y 10).trans hx.1
  have hB : ∀ i, i < 10 → (addk x y 10).getD i 0 < 134219777 := fun i hi => by
    rw [addk_word x y hx.1 10 (Nat.le_refl _) i hi]
    have := (hx.2 i hi).1
    have := (hy.2 i hi).1
    omega
  refine ⟨cry (addk x y 10) 10, cry_R _ hl 134219777 5 hB (by decide) (by decide), ?_, fun w => ?_⟩
  · rw [cry_res _ hl, addk_ten x y hx.1 10 (Nat.le_refl _), pv_all y hy.1]
  · refine Plus_core x y w (Lib.hid hx.1) (Lib.hid hy.1) (Lib.hid fun i hi => ?_) (Lib.hid fun i hi => ?_) (Lib.hid fun w => carry_any _ hl (fun i hi => ?_) w)
    · have := (hx.2 i hi).1; omega
    · have := (hy.2 i hi).1; omega
    · have := hB i hi; omega
theorem Minus_gives (x y : List Nat) (hx : R10 x) (hy : R10 y) : ∃ z, R10 z ∧ (val10 z + val10 y) % PP = val10 x % PP ∧ ∀ w, Calls Try.prog 73 #[.agg (ics x).toArray, .agg (ics y).toArray] w (Gives (.agg (ics z).toArray) w) := by
  have hl : (msk x y 10).length = 10 := (msk_len x y 10).trans hx.1
  have hk10 : ∀ i, k10 i ≤ 268435452 := fun i => by unfold k10; split; decide; split <;> decide
  have hB : ∀ i, i < 10 → (msk x y 10).getD i 0 < 335545341 := fun i hi => by
    rw [msk_word x y hx.1 10 (Nat.le_refl _) i hi]
    have := (hx.2 i hi).1
    have := hk10 i
    omega
  refine ⟨cry (msk x y 10) 10, cry_R _ hl 335545341 11 hB (by decide) (by decide), ?_, fun w => ?_⟩
  · have h := msk_val x y hx.1 (R10_k y hy) 10 (Nat.le_refl _)
    rw [pv_all y hy.1, pk_all] at h
    rw [Nat.add_mod, cry_res _ hl, ← Nat.add_mod, h, Nat.add_mul_mod_self_right]
  · refine Minus_core x y w (Lib.hid hx.1) (Lib.hid hy.1) (Lib.hid fun i hi => ?_) (Lib.hid (R10_k y hy)) (Lib.hid fun w => carry_any _ hl (fun i hi => ?_) w)
    · have := (hx.2 i hi).1; omega
    · have := hB i hi; omega
theorem Times_gives (x y : List Nat) (hx : R10 x) (hy : R10 y) : ∃ z, R10 z ∧ val10 z % PP = (val10 x * val10 y) % PP ∧ ∀ w, Calls Try.prog 75 #[.agg (ics x).toArray, .agg (ics y).toArray] w (Gives (.agg (ics z).toArray) w) := by
  have hl := tims_len x y 10
  have hB : ∀ i, i < 10 → (tims x y 10).getD i 0 < 855710042831183361 := fun i hi => by
    have := tims_bnd _ rfl x y hx hy 10 (Nat.le_refl _) i hi
    omega
  obtain ⟨k1, _, _, k4⟩ := cry_bnd (tims x y 10) hl 855710042831183361 34359738368 hB (by decide) 10 (Nat.le_refl _)
  have k4 := k4 rfl
  have hl1 : (cry (tims x y 10) 10).length = 10 := (cry_len _ _).trans hl
  have hl2 : (cry (cry (tims x y 10) 10) 10).length = 10 := (cry_len _ _).trans hl1
  obtain ⟨j1, _, _, j4⟩ := cry_bnd2 (cry (tims x y 10) 10) hl1 (by omega) (fun i hi h0 => k1 i hi h0) 10 (Nat.le_refl _)
  have j4 := j4 rfl
  refine ⟨cry (cry (tims x y 10) 10) 10, ⟨hl2, fun i hi => ?_⟩, ?_, fun w => ?_⟩
  · by_cases hi0 : i = 0
    · subst hi0
      exact ⟨by omega, fun h => absurd h (by omega)⟩
    · have h1 := j1 i hi (by omega)
      have h2 := m10_le i
      exact ⟨by omega, fun h => by rw [m10_odd i h] at h1; omega⟩
  · rw [cry_res _ hl1, cry_res _ hl, tims_val x y hy.1 10 (Nat.le_refl _), pv_all x hx.1]
  · refine Times_core x y w (Lib.hid hx) (Lib.hid hy) (Lib.hid fun w => carry_any _ hl (fun i hi => ?_) w) (Lib.hid fun w => carry_any _ hl1 (fun i hi => ?_) w)
    · have := hB i hi; omega
    · by_cases hi0 : i = 0
      · subst hi0; omega
      · have h1 := k1 i hi (by omega)
        have h2 := m10_le i
        omega
end Go.Proofs.Ytgdimnbdnepbgaa
/- The reference's Power. No statement is proved here. -/
namespace Go.Proofs.Ytgdimnbdnepbgaa
open Go.RowKit
set_option linter.unusedVariables false
set_option maxRecDepth 40000
set_option linter.unusedSimpArgs false

/-- The memory of Power. -/
structure Py (w : World) (x : List Nat) (l : List UInt8) (o : List Nat) (w' : World) : Prop where
  a : IAt w' w.heap.size x
  b : BAt w' (w.heap.size + 1) l
  res : w'.heap[w.heap.size + 2]? = some (.cells ziw 65 (0, 0))
  out : w'.heap[w.heap.size + 3]? = some (.cells (ics o).toArray 65 (0, 0))
  ol : o.length = 10
  bel : Below w.heap.size w w'
theorem Py.put {w : World} {x : List Nat} {l : List UInt8} {o o' : List Nat} {w' w'' : World} (h : Py w x l o w') (hl : o'.length = 10) (hg : w'.grownBy w'' (some (w.heap.size + 3))) (hh : w''.heap[w.heap.size + 3]? = some (.cells (ics o').toArray 65 (0, 0))) : Py w x l o' w'' :=
  ⟨h.a.grown hg (by simp), h.b.grown hg (by simp), (hg.block _ (Array.getElem?_eq_some_iff.1 h.res).1 (by simp)).trans h.res, hh, hl, h.bel.grown hg h.bel.size (fun r hr => by injection hr; omega)⟩
theorem Py.keep {w : World} {x : List Nat} {l : List UInt8} {o : List Nat} {w' w'' : World} (h : Py w x l o w') (hb : Below w'.heap.size w' w'') : Py w x l o w'' :=
  ⟨h.a.keep hb, h.b.keep hb, (hb.block _ (Array.getElem?_eq_some_iff.1 h.res).1).trans h.res, (hb.block _ (Array.getElem?_eq_some_iff.1 h.out).1).trans h.out, h.ol, h.bel.trans (hb.mono h.bel.size)⟩
theorem Py.start {w : World} {x : List Nat} {l : List UInt8} {o : List Nat} {w1 w2 w3 w4 w5 : World} (hx : x.length = 10) (hl : l.length = 32) (ho : o.length = 10)
    (h1 : w1.heap[w.heap.size]? = some (.cells (ics x).toArray 65 (0, 0))) (z1 : w1.heap.size = w.heap.size + 1) (g1 : w.grownBy w1 none)
    (h2 : w2.heap[w1.heap.size]? = some (.cells (bcs l).toArray 23 (0, 0))) (z2 : w2.heap.size = w1.heap.size + 1) (g2 : w1.grownBy w2 none)
    (h3 : w3.heap[w2.heap.size]? = some (.cells ziw 65 (0, 0))) (z3 : w3.heap.size = w2.heap.size + 1) (g3 : w2.grownBy w3 none)
    (z4 : w4.heap.size = w3.heap.size + 1) (g4 : w3.grownBy w4 none)
    (h5 : w5.heap[w3.heap.size]? = some (.cells (ics o).toArray 65 (0, 0))) (g5 : w4.grownBy w5 (some w3.heap.size)) : Py w x l o w5 := by
  have b1 := below_of_grownBy g1
  have b2 := below_of_grownBy g2
  have b3 := below_of_grownBy g3
  have b4 := below_of_grownBy g4
  have b5 : Below w3.heap.size w4 w5 := (Below.refl _ _).grown g5 (by omega) (fun r hr => by injection hr; omega)
  rw [z1] at h2 b2 z2
  rw [z2] at h3 b3 z3
  rw [z3] at h5 b4 b5
  refine ⟨⟨hx, 65, ?_⟩, ⟨hl, 23, ?_⟩, ?_, h5, ho, ?_⟩
  · exact (b5.block _ (by omega)).trans ((b4.block _ (by omega)).trans ((b3.block _ (by omega)).trans ((b2.block _ (by omega)).trans h1)))
  · exact (b5.block _ (by omega)).trans ((b4.block _ (by omega)).trans ((b3.block _ (by omega)).trans h2))
  · exact (b5.block _ (by omega)).trans ((b4.block _ (by omega)).trans h3)
  · exact b1.trans ((b2.mono (by omega)).trans ((b3.mono (by omega)).trans ((b4.mono (by omega)).trans (b5.mono (by omega)))))
/-- The power after bits 255 .. n. -/
structure Pq (v : Nat) (l : List UInt8) (n : Nat) (o : List Nat) : Prop where
  r : R10 o
  num : val10 o % PP = v ^ (nv l / 2 ^ n) % PP
theorem Pq.zero {v : Nat} {l : List UInt8} {n : Nat} {o z : List Nat} (h : Pq v l (n + 1) o) (hl : l.length = 32) (hb : bitL l n = 0) (hz : R10 z) (hv : val10 z % PP = val10 o * val10 o % PP) : Pq v l n z :=
  ⟨hz, by rw [bit_step l hl n, hb, Nat.add_zero, Nat.two_mul, Nat.pow_add, hv, Nat.mul_mod, h.num, ← Nat.mul_mod]⟩
theorem Pq.one {v : Nat} {l : List UInt8} {n : Nat} {o z y x : List Nat} (h : Pq v l (n + 1) o) (hl : l.length = 32) (hb : bitL l n = 1) (hv : val10 z % PP = val10 o * val10 o % PP) (hy : R10 y) (hyv : val10 y % PP = val10 z * val10 x % PP) (hx : val10 x = v) : Pq v l n y :=
  ⟨hy, by
    have e : val10 o * val10 o % PP = v ^ (nv l / 2 ^ (n + 1)) * v ^ (nv l / 2 ^ (n + 1)) % PP := by rw [Nat.mul_mod, h.num, ← Nat.mul_mod]
    rw [bit_step l hl n, hb, Nat.two_mul, Nat.pow_add, Nat.pow_add, Nat.pow_one, hyv, Nat.mul_mod, hv, e, hx, ← Nat.mul_mod]⟩
theorem Pq.start (v : Nat) (l : List UInt8) : Pq v l 256 [1, 0, 0, 0, 0, 0, 0, 0, 0, 0] := by
  refine ⟨⟨rfl, fun i hi => ?_⟩, ?_⟩
  · have hn : i = 0 ∨ i = 1 ∨ i = 2 ∨ i = 3 ∨ i = 4 ∨ i = 5 ∨ i = 6 ∨ i = 7 ∨ i = 8 ∨ i = 9 := by omega
    rcases hn with rfl | rfl | rfl | rfl | rfl | rfl | rfl | rfl | rfl | rfl <;> decide
  · rw [Nat.div_eq_of_lt (nv_lt l)]
    rfl

set_option maxHeartbeats 2000000 in
theorem Power_core (x : List Nat) (l : List UInt8) (w : World) (HX : Hid (R10 x)) (HL : Hid (l.length = 32)) :
    Calls Try.prog 77 #[.agg (ics x).toArray, .agg (bcs l).toArray] w (fun e w' => ∃ o, R10 o ∧ val10 o % PP = val10 x ^ nv l % PP ∧ e = .returned (.agg (ics o).toArray) ∧ Below w.heap.size w w') := by
  go_enter Try.func77, Try.ntmps77
  go_wp2_with (first | ((with_reducible show wpList _ _ _ (⟨some 2, .box 65 (.tmp 0), _, _, _, _⟩ :: _) _ _); go_must (refine wpList_box_row rfl 65 (.tmp 0) rfl (ics x).toArray rfl ?_; intro w1 h1 z1 g1; have H1 := Lib.hid h1; have Z1 := Lib.hid z1; have G1 := Lib.hid g1; clear h1 z1 g1)) | ((with_reducible show wpList _ _ _ (⟨some 3, .box 23 (.tmp 1), _, _, _, _⟩ :: _) _ _); go_must (refine wpList_box_row rfl 23 (.tmp 1) rfl (bcs l).toArray rfl ?_; intro w2 h1 z1 g1; have H2 := Lib.hid h1; have Z2 := Lib.hid z1; have G2 := Lib.hid g1; clear h1 z1 g1)) | ((with_reducible show wpList _ _ _ (⟨some 4, .alloc 65, _, _, _, _⟩ :: _) _ _); go_must (refine wpList_alloc_row rfl 65 rfl (.agg ziw) zero65 ?_; intro w3 h1 z1 g1; have H3 := Lib.hid h1; have Z3 := Lib.hid z1; have G3 := Lib.hid g1; clear h1 z1 g1)) | ((with_reducible show wpList _ _ _ (⟨some 5, .alloc 65, _, _, _, _⟩ :: _) _ _); go_must (refine wpList_alloc_row rfl 65 rfl (.agg ziw) zero65 ?_; intro w4 h1 z1 g1; have H4 := Lib.hid h1; have Z4 := Lib.hid z1; have G4 := Lib.hid g1; clear h1 z1 g1)) | ((with_reducible show wpList _ _ _ (⟨none, .store 65 (.tmp 5) (.tmp 7), _, _, _, _⟩ :: _) _ _); go_must (refine wpList_store_all rfl 65 (.tmp 5) (.tmp 7) rfl w3.heap.size rfl (ics [1, 0, 0, 0, 0, 0, 0, 0, 0, 0]).toArray rfl 65 _ H4.out size65 rfl (ics_one _) ?_; intro w5 hh hg hz; have H5 := Lib.hid hh; have G5 := Lib.hid hg; clear hh hg hz)))
  have S : Hid (Py w x l [1, 0, 0, 0, 0, 0, 0, 0, 0, 0] w5) := Py.start HX.out.1 HL.out rfl H1.out Z1.out G1.out H2.out Z2.out G2.out H3.out Z3.out G3.out Z4.out G4.out H5.out G5.out
  rw [show w3.heap.size = w.heap.size + 3 from by rw [Z3.out, Z2.out, Z1.out], show w2.heap.size = w.heap.size + 2 from by rw [Z2.out, Z1.out], show w1.heap.size = w.heap.size + 1 from Z1.out]
  clear H1 Z1 G1 H2 Z2 G2 H3 Z3 G3 H4 Z4 G4 H5 G5
  have HP : Hid (Pq (val10 x) l 256 [1, 0, 0, 0, 0, 0, 0, 0, 0, 0]) := Pq.start _ l
  go_loopw [6] (fun i wr => ∃ n : Nat, ∃ o : List Nat, n ≤ 256 ∧ i = .int .i64 ((n : Int) - 1) ∧ Pq (val10 x) l n o ∧ Py w x l o wr) (fun i _ => (intOf i + 1).toNat)
  case atStart => exact ⟨256, _, by omega, rfl, HP.out, S.out⟩
  case round =>
    obtain ⟨n, o, hn, rfl, hp, hy⟩ := hrel
    have P := Lib.hid hp
    have H := Lib.hid hy
    clear hp hy S HP
    by_cases h0 : n = 0
    · subst h0
      have HN : Hid (val10 o % PP = val10 x ^ nv l % PP) := by have h := P.out.num; rw [Nat.pow_zero, Nat.div_one] at h; exact h
      have HR := Lib.hid P.out.r
      have HOL := Lib.hid H.out.ol
      go_wp2_with (first | ((with_reducible show wpList _ _ _ (⟨_, .load 65 (.tmp 5), _, _, _, _⟩ :: _) _ _); go_must (refine wpList_load_arr rfl 65 (.tmp 5) rfl (w.heap.size + 3) 0 rfl (ics o) (fun i u hu => by rw [Nat.zero_add]; exact row_cells H.out.out i u (by simpa using hu)) _ under65 rfl (by rw [ics_len, HOL.out]; exact size65) ?_)) | ((with_reducible show wpList _ _ _ (⟨none, .store 65 (.tmp 4) (.tmp 28), _, _, _, _⟩ :: _) _ _); go_must (refine wpList_store_all rfl 65 (.tmp 4) (.tmp 28) rfl (w.heap.size + 2) rfl (ics o).toArray rfl 65 _ H.out.res (by rw [List.size_toArray, ics_len, HOL.out]; exact size65) (by rw [List.size_toArray, ics_len, HOL.out]; rfl) (ics_one _) ?_; intro x6 hh hg hz; have HH := Lib.hid hh; have HG := Lib.hid hg; clear hh hg hz)) | fail)
      refine bodyPost_ret (results_cell_row rfl _ _ (w.heap.size + 2) 65 (ics o).toArray _ _ rfl HH.out under65 rfl (by rw [List.size_toArray, ics_len, HOL.out]; exact size65)) rfl ?_
      exact ⟨o, HR.out, HN.out, rfl, H.out.bel.grown HG.out H.out.bel.size (fun r hr => by injection hr; omega)⟩
    · obtain ⟨k, rfl⟩ : ∃ k, n = k + 1 := ⟨n - 1, by omega⟩
      rw [show (((k + 1 : Nat) : Int) - 1) = (k : Int) from by omega]
      obtain ⟨z, hz, hzv, hzc⟩ := Times_gives o o P.out.r P.out.r
      have HZ := Lib.hid hz
      have HZV := Lib.hid hzv
      have HZC := Lib.hid hzc
      have HOL := Lib.hid H.out.ol
      have HZL : Hid (z.length = 10) := hz.1
      clear hz hzv hzc
      go_wp2_with (first | ((with_reducible show wpList _ _ _ (⟨_, .load 65 (.tmp 5), _, _, _, _⟩ :: _) _ _); go_must (refine wpList_load_arr rfl 65 (.tmp 5) rfl (w.heap.size + 3) 0 rfl (ics o) (fun i u hu => by rw [Nat.zero_add]; exact row_cells H.out.out i u (by simpa using hu)) _ under65 rfl (by rw [ics_len, HOL.out]; exact size65) ?_)) | fail)
      refine (HZC.out _).mono ?_
      rintro e x4 ⟨rfl, hb⟩
      have H1 := Lib.hid (H.out.keep hb)
      clear hb H HZC
      obtain ⟨y, hy, hyv, hyc⟩ := Times_gives z x HZ.out HX.out
      have HY := Lib.hid hy
      have HYV := Lib.hid hyv
      have HYC := Lib.hid hyc
      have HYL : Hid (y.length = 10) := hy.1
      clear hy hyv hyc
      go_wp2_with (first | ((with_reducible show wpList _ _ _ (⟨none, .store 65 (.tmp 5) (.tmp 14), _, _, _, _⟩ :: _) _ _); go_must (refine wpList_store_all rfl 65 (.tmp 5) (.tmp 14) rfl (w.heap.size + 3) rfl (ics z).toArray rfl 65 _ H1.out.out (by rw [List.size_toArray, ics_len, HZL.out]; exact size65) (by rw [List.size_toArray, List.size_toArray, ics_len, ics_len, HZL.out, HOL.out]) (ics_one _) ?_; intro x5 hh hg hz; have H2 := Lib.hid (H1.out.put HZL.out hg hh); clear hh hg hz H1; have cb := H2.out.b.cell (k / 8) (by omega); have HTX := Lib.hid H2.out.a.2.choose_spec; have HXL : Hid (x.length = 10) := H2.out.a.1)) | ((with_reducible show wpList _ _ _ (⟨some 25, .load 65 (.tmp 5), _, _, _, _⟩ :: _) _ _); go_must (refine wpList_load_arr rfl 65 (.tmp 5) rfl (w.heap.size + 3) 0 rfl (ics z) (fun i u hu => by rw [Nat.zero_add]; exact row_cells H2.out.out i u (by simpa using hu)) _ under65 rfl (by rw [ics_len, HZL.out]; exact size65) ?_)) | ((with_reducible show wpList _ _ _ (⟨some 26, .load 65 (.tmp 2), _, _, _, _⟩ :: _) _ _); go_must (refine wpList_load_arr rfl 65 (.tmp 2) rfl w.heap.size 0 rfl (ics x) (fun i u hu => by rw [Nat.zero_add]; exact row_cells HTX.out i u (by simpa using hu)) _ under65 rfl (by rw [ics_len, HXL.out]; exact size65) ?_)) | fail)
      · rename ((((((l[k / 8]?.getD 0).toNat : Nat) : Int) / 2 ^ (k % 8)).tmod 2 == 1) = true) => h
        have hb1 : bitL l k = 1 := by rw [bit_int] at h; have := eq_of_beq h; omega
        have P1 := Lib.hid (P.out.one HL.out hb1 HZV.out HY.out HYV.out rfl)
        clear h hb1 P HTX
        refine (HYC.out _).mono ?_
        rintro e x6 ⟨rfl, hb⟩
        have H3 := Lib.hid (H2.out.keep hb)
        clear hb H2 HYC cb
        go_wp2_with (first | ((with_reducible show wpList _ _ _ (⟨none, .store 65 (.tmp 5) (.tmp 27), _, _, _, _⟩ :: _) _ _); go_must (refine wpList_store_all rfl 65 (.tmp 5) (.tmp 27) rfl (w.heap.size + 3) rfl (ics y).toArray rfl 65 _ H3.out.out (by rw [List.size_toArray, ics_len, HYL.out]; exact size65) (by rw [List.size_toArray, List.size_toArray, ics_len, ics_len, HYL.out, HZL.out]) (ics_one _) ?_; intro x7 hh hg hz; have H4 := Lib.hid (H3.out.put HYL.out hg hh); clear hh hg hz H3)) | fail)
        exact ⟨⟨k, y, by omega, rfl, P1.out, H4.out⟩, by simp [intOf]⟩
      · rename ((((((l[k / 8]?.getD 0).toNat : Nat) : Int) / 2 ^ (k % 8)).tmod 2 == 1) = false) => h
        have hb1 : bitL l k = 0 := by
          rw [bit_int] at h
          have h2 := bitL_lt l k
          by_cases e : bitL l k = 1
          · rw [e] at h; exact absurd h (by decide)
          · omega
        exact ⟨⟨k, z, by omega, rfl, P.out.zero HL.out hb1 HZ.out HZV.out, H2.out⟩, by simp [intOf]⟩
end Go.Proofs.Ytgdimnbdnepbgaa
/- The reference's Open. No statement is proved here. -/
namespace Go.Proofs.Ytgdimnbdnepbgaa
open Go.RowKit
set_option linter.unusedVariables false
set_option maxRecDepth 40000
set_option linter.unusedSimpArgs false

/-- The memory of Open. -/
structure Oy (w : World) (l : List UInt8) (o : List Nat) (w' : World) : Prop where
  b : BAt w' w.heap.size l
  res : w'.heap[w.heap.size + 1]? = some (.cells ziw 65 (0, 0))
  o : IAt w' (w.heap.size + 2) o
  bel : Below w.heap.size w w'
theorem Oy.set {w : World} {l : List UInt8} {o : List Nat} {w' w'' : World} {t : TypeId} (h : Oy w l o w') (hg : w'.grownBy w'' (some (w.heap.size + 2))) (i v : Nat) (hh : w''.heap[w.heap.size + 2]? = some (.cells (ics (o.set i v)).toArray t (0, 0))) : Oy w l (o.set i v) w'' :=
  ⟨h.b.grown hg (by simp), (hg.block _ (Array.getElem?_eq_some_iff.1 h.res).1 (by simp)).trans h.res, ⟨by rw [List.length_set]; exact h.o.1, t, hh⟩, h.bel.grown hg h.bel.size (fun r hr => by injection hr; omega)⟩
theorem Oy.keep {w : World} {l : List UInt8} {o : List Nat} {w' w'' : World} (h : Oy w l o w') (hb : Below w'.heap.size w' w'') : Oy w l o w'' :=
  ⟨h.b.keep hb, (hb.block _ (Array.getElem?_eq_some_iff.1 h.res).1).trans h.res, h.o.keep hb, h.bel.trans (hb.mono h.bel.size)⟩
theorem Oy.start {w : World} {l : List UInt8} {w1 w2 w3 : World} (hl : l.length = 32)
    (h1 : w1.heap[w.heap.size]? = some (.cells (bcs l).toArray 23 (0, 0))) (z1 : w1.heap.size = w.heap.size + 1) (g1 : w.grownBy w1 none)
    (h2 : w2.heap[w1.heap.size]? = some (.cells ziw 65 (0, 0))) (z2 : w2.heap.size = w1.heap.size + 1) (g2 : w1.grownBy w2 none)
    (h3 : w3.heap[w2.heap.size]? = some (.cells ziw 65 (0, 0))) (g3 : w2.grownBy w3 none) : Oy w l (List.replicate 10 0) w3 := by
  have b1 := below_of_grownBy g1
  have b2 := below_of_grownBy g2
  have b3 := below_of_grownBy g3
  rw [z1] at h2 b2 z2
  rw [z2] at h3 b3
  refine ⟨⟨hl, 23, ?_⟩, ?_, ⟨rfl, 65, h3⟩, ?_⟩
  · exact (b3.block _ (by omega)).trans ((b2.block _ (by omega)).trans h1)
  · exact (b3.block _ (by omega)).trans h2
  · exact b1.trans ((b2.mono (by omega)).trans (b3.mono (by omega)))
/-- Where word i starts, and how many bits it takes. -/
def off : Nat → Nat
  | 0 => 0
  | i + 1 => off i + b10 i
def ob (i : Nat) : Nat := if i = 9 then 26 else b10 i
theorem off_le : ∀ i, i < 10 → off i + ob i ≤ 256 := by decide
def opn (l : List UInt8) : Nat → List Nat
  | 0 => List.replicate 10 0
  | i + 1 => (opn l i).set i (nv l / 2 ^ off i % 2 ^ ob i)
theorem opn_len (l : List UInt8) (n : Nat) : (opn l n).length = 10 := by
  induction n with
  | zero => rfl
  | succ n ih => unfold opn; rw [List.length_set, ih]
theorem opn_later (l : List UInt8) (n i : Nat) (h : n ≤ i) (hi : i < 10) : (opn l n).getD i 0 = 0 := by
  induction n with
  | zero =>
    have hn : i = 0 ∨ i = 1 ∨ i = 2 ∨ i = 3 ∨ i = 4 ∨ i = 5 ∨ i = 6 ∨ i = 7 ∨ i = 8 ∨ i = 9 := by omega
    rcases hn with rfl | rfl | rfl | rfl | rfl | rfl | rfl | rfl | rfl | rfl <;> rfl
  | succ n ih =>
    unfold opn
    rw [getD_set_other _ _ _ _ (by omega)]
    exact ih (by omega)
theorem set_same (o : List Nat) (n : Nat) (h : n < o.length) : o.set n (o.getD n 0) = o := by
  rw [List.getD_eq_getElem?_getD, List.getElem?_eq_getElem h]
  exact List.set_getElem_self h
theorem opn_bit (l : List UInt8) (hl : l.length = 32) (at' k : Nat) : nv l / 2 ^ at' % 2 ^ (k + 1) = nv l / 2 ^ at' % 2 ^ k + 2 ^ k * bitL l (at' + k) := by
  rw [Nat.mod_pow_succ, Nat.div_div_eq_div_mul, ← Nat.pow_add, ← leb_bit, nv_leb l hl]

set_option maxRecDepth 40000 in
set_option maxHeartbeats 2000000 in
theorem Open_core (l : List UInt8) (w : World) (HL : Hid (l.length = 32))
    (HR : Hid (∀ w, Calls Try.prog 94 #[.agg (ics (opn l 10)).toArray] w (Gives (.agg (ics (cry (opn l 10) 10)).toArray) w))) :
    Calls Try.prog 68 #[.agg (bcs l).toArray] w (Gives (.agg (ics (cry (opn l 10) 10)).toArray) w) := by
  go_enter Try.func68, Try.ntmps68
  go_wp2_with (first | ((with_reducible show wpList _ _ _ (⟨some 1, .box 23 (.tmp 0), _, _, _, _⟩ :: _) _ _); go_must (refine wpList_box_row rfl 23 (.tmp 0) rfl (bcs l).toArray rfl ?_; intro w1 h1 z1 g1; have H1 := Lib.hid h1; have Z1 := Lib.hid z1; have G1 := Lib.hid g1; clear h1 z1 g1)) | ((with_reducible show wpList _ _ _ (⟨some 2, .alloc 65, _, _, _, _⟩ :: _) _ _); go_must (refine wpList_alloc_row rfl 65 rfl (.agg ziw) zero65 ?_; intro w2 h1 z1 g1; have H2 := Lib.hid h1; have Z2 := Lib.hid z1; have G2 := Lib.hid g1; clear h1 z1 g1)) | ((with_reducible show wpList _ _ _ (⟨some 3, .alloc 65, _, _, _, _⟩ :: _) _ _); go_must (refine wpList_alloc_row rfl 65 rfl (.agg ziw) zero65 ?_; intro w3 h1 z1 g1; have H3 := Lib.hid h1; have Z3 := Lib.hid z1; have G3 := Lib.hid g1; clear h1 z1 g1)))
  have S : Hid (Oy w l (opn l 0) w3) := Oy.start HL.out H1.out Z1.out G1.out H2.out Z2.out G2.out H3.out G3.out
  rw [show w2.heap.size = w.heap.size + 2 from by rw [Z2.out, Z1.out], show w1.heap.size = w.heap.size + 1 from Z1.out]
  clear H1 Z1 G1 H2 Z2 G2 H3 Z3 G3
  go_loopw [4, 5, 6, 7] (fun a i _ _ wr => ∃ n : Nat, n ≤ 10 ∧ a = .int .i64 (off n : Nat) ∧ i = .int .i64 n ∧ Oy w l (opn l n) wr) (fun _ i _ _ _ => 10 - (intOf i).toNat)
  case atStart => exact ⟨0, by omega, rfl, rfl, S.out⟩
  case round =>
    obtain ⟨n, hn, rfl, rfl, hp⟩ := hrel
    have H := Lib.hid hp
    clear hp S
    by_cases hlt : n < 10
    · have hni : (n : Int) < 10 := by omega
      have HBT := Lib.hid (bits_any n hlt)
      have HOB := off_le n hlt
      have HS : Hid (opn l (n + 1) = (opn l n).set n (nv l / 2 ^ off n % 2 ^ ob n)) := rfl
      have HZ := Lib.hid (opn_later l n n (Nat.le_refl _) hlt)
      have HLN := Lib.hid (opn_len l n)
      have HON : Hid (off (n + 1) = off n + b10 n) := rfl
      have hnb : b10 n ≤ 26 := by unfold b10; split <;> decide
      have hob : ob n = if n = 9 then 26 else b10 n := rfl
      generalize opn l n = oo at *
      generalize off n = st at *
      generalize b10 n = nb at *
      generalize ob n = N at *
      have hst : (st : Int) < 257 := by omega
      have hnbi : (nb : Int) < 27 := by omega
      go_wp2_with fail
      refine (HBT.out _).mono ?_
      rintro e x1 ⟨rfl, rfl⟩
      by_cases h9 : n = 9
      · rw [if_pos h9] at hob
        subst hob
        have HBT : Hid (∀ w, Calls Try.prog 95 #[.int .i64 9] w fun e w' => e = .returned (.int .u64 (nb : Nat)) ∧ w' = w) := by have h := HBT; rw [h9] at h; exact h
        subst h9
        go_wp2_with fail
        skip
        go_loopw [7] (fun j wi => ∃ m : Nat, m ≤ 26 ∧ j = .int .i64 m ∧ Oy w l (oo.set 9 (nv l / 2 ^ st % 2 ^ m)) wi) (fun j _ => 26 - (intOf j).toNat)
        case atStart => exact ⟨0, by omega, rfl, by rw [Nat.pow_zero, Nat.mod_one, ← HZ.out, set_same _ _ (by have := HLN.out; omega)]; exact H.out⟩
        case round =>
          obtain ⟨m, hm, rfl, hp⟩ := hrel
          have H1 := Lib.hid hp
          clear hp H
          by_cases hlm : m < 26
          · have hmi : (m : Int) < 26 := by omega
            have hsm : (st : Int) + (m : Int) < 256 := by omega
            have cb := H1.out.b.cell ((st + m) / 8) (by omega)
            have co := H1.out.o.cell 9 (by omega)
            rw [getD_set_eq _ _ _ (by have := HLN.out; omega)] at co
            have HBS := Lib.hid (opn_bit l HL.out st m)
            have HSS : Hid ((oo.set 9 (nv l / 2 ^ st % 2 ^ m)).set 9 (nv l / 2 ^ st % 2 ^ (m + 1)) = oo.set 9 (nv l / 2 ^ st % 2 ^ (m + 1))) := Lib.hid (by rw [List.set_set])
            have hpm : 2 ^ m ≤ 2 ^ 26 := Nat.pow_le_pow_right (by omega) (by omega)
            have HXB : Hid (nv l / 2 ^ st % 2 ^ m < 67108864) := Lib.hid (Nat.lt_of_lt_of_le (Nat.mod_lt _ (Nat.two_pow_pos m)) hpm)
            have HPM : Hid (((2 : Int) ^ m) = ((2 ^ m : Nat) : Int)) := Lib.hid (by simp)
            generalize hx : nv l / 2 ^ st % 2 ^ m = xx at *
            generalize hyd : nv l / 2 ^ st % 2 ^ (m + 1) = yy at *
            have hHT := H1.out.o.2
            obtain ⟨t, ht⟩ := hHT
            have HT := Lib.hid ht
            clear ht
            have HLS : Hid ((oo.set 9 xx).length = 10) := Lib.hid (by rw [List.length_set]; exact HLN.out)
            go_wp2_with (first | ((with_reducible show wpList _ _ _ (⟨none, .store 2 (.tmp 50) (.tmp 49), _, _, _, _⟩ :: _) _ _); go_must (refine wpList_store_one rfl 2 (.tmp 50) (.tmp 49) rfl (w.heap.size + 2) 9 rfl .i64 _ rfl t _ HT.out size2 (by simp only [List.size_toArray, ics_len]; have := HLS.out; omega) ?_; intro x5 hh hg hz; have HH := Lib.hid hh; have HG := Lib.hid hg; clear hh hg hz)) | fail)
            · rename ((((((l[(st + m) / 8]?.getD 0).toNat : Nat) : Int) / 2 ^ ((st + m) % 8)).tmod 2 == 1) = true) => h
              have hb1 : bitL l (st + m) = 1 := by rw [bit_int] at h; have := eq_of_beq h; omega
              have hyy : yy = xx + 2 ^ m := by rw [HBS.out, hb1, Nat.mul_one]
              have hh := HH.out
              have e : wrap64 ((xx : Int) + wrap64 (2 ^ m)) = ((xx + 2 ^ m : Nat) : Int) := by
                have := HXB.out
                rw [HPM.out]
                rw [IntWalk.wrap64_in ((2 ^ m : Nat) : Int) (by omega), IntWalk.wrap64_in _ (by omega)]
                omega
              rw [e, ← hyy, ics_set] at hh
              have H2 := H1.out.set HG.out 9 yy hh
              rw [HSS.out] at H2
              exact ⟨⟨m + 1, by omega, by go_num, by rw [hyd]; exact H2⟩, by simp [intOf]; omega⟩
            · rename ((((((l[(st + m) / 8]?.getD 0).toNat : Nat) : Int) / 2 ^ ((st + m) % 8)).tmod 2 == 1) = false) => h
              have hb1 : bitL l (st + m) = 0 := by
                rw [bit_int] at h
                have h2 := bitL_lt l (st + m)
                by_cases e : bitL l (st + m) = 1
                · rw [e] at h; exact absurd h (by decide)
                · omega
              have hyy : yy = xx := by rw [HBS.out, hb1, Nat.mul_zero, Nat.add_zero]
              exact ⟨⟨m + 1, by omega, by go_num, by rw [hyd, hyy]; exact H1.out⟩, by simp [intOf]; omega⟩
          · obtain rfl : m = 26 := by omega
            go_wp2_with fail
            refine (HBT.out _).mono ?_
            rintro e x6 ⟨rfl, rfl⟩
            go_wp2_with fail
            exact ⟨⟨9 + 1, by omega, by rw [HON.out]; go_num, by go_num, by rw [HS.out]; exact H1.out⟩, by first | (simp [intOf]; omega) | simp [intOf]⟩
      · rw [if_neg h9] at hob
        subst hob
        have h9i : ¬ (n : Int) = 9 := by omega
        go_wp2_with fail
        rw [show ((n : Int) == 9) = false from by simp; omega]
        go_loopw [7] (fun j wi => ∃ m : Nat, m ≤ N ∧ j = .int .i64 m ∧ Oy w l (oo.set n (nv l / 2 ^ st % 2 ^ m)) wi) (fun j _ => N - (intOf j).toNat)
        case atStart => exact ⟨0, by omega, rfl, by rw [Nat.pow_zero, Nat.mod_one, ← HZ.out, set_same _ _ (by have := HLN.out; omega)]; exact H.out⟩
        case round =>
          obtain ⟨m, hm, rfl, hp⟩ := hrel
          have H1 := Lib.hid hp
          clear hp H
          by_cases hlm : m < N
          · have hmi : (m : Int) < N := by omega
            have hsm : (st : Int) + (m : Int) < 256 := by omega
            have cb := H1.out.b.cell ((st + m) / 8) (by omega)
            have co := H1.out.o.cell n (by omega)
            rw [getD_set_eq _ _ _ (by have := HLN.out; omega)] at co
            have HBS := Lib.hid (opn_bit l HL.out st m)
            have HSS : Hid ((oo.set n (nv l / 2 ^ st % 2 ^ m)).set n (nv l / 2 ^ st % 2 ^ (m + 1)) = oo.set n (nv l / 2 ^ st % 2 ^ (m + 1))) := Lib.hid (by rw [List.set_set])
            have hpm : 2 ^ m ≤ 2 ^ 26 := Nat.pow_le_pow_right (by omega) (by omega)
            have HXB : Hid (nv l / 2 ^ st % 2 ^ m < 67108864) := Lib.hid (Nat.lt_of_lt_of_le (Nat.mod_lt _ (Nat.two_pow_pos m)) hpm)
            have HPM : Hid (((2 : Int) ^ m) = ((2 ^ m : Nat) : Int)) := Lib.hid (by simp)
            generalize hx : nv l / 2 ^ st % 2 ^ m = xx at *
            generalize hyd : nv l / 2 ^ st % 2 ^ (m + 1) = yy at *
            have hHT := H1.out.o.2
            obtain ⟨t, ht⟩ := hHT
            have HT := Lib.hid ht
            clear ht
            have HLS : Hid ((oo.set n xx).length = 10) := Lib.hid (by rw [List.length_set]; exact HLN.out)
            go_wp2_with (first | ((with_reducible show wpList _ _ _ (⟨none, .store 2 (.tmp 50) (.tmp 49), _, _, _, _⟩ :: _) _ _); go_must (refine wpList_store_one rfl 2 (.tmp 50) (.tmp 49) rfl (w.heap.size + 2) n rfl .i64 _ rfl t _ HT.out size2 (by simp only [List.size_toArray, ics_len]; have := HLS.out; omega) ?_; intro x5 hh hg hz; have HH := Lib.hid hh; have HG := Lib.hid hg; clear hh hg hz)) | fail)
            · rename ((((((l[(st + m) / 8]?.getD 0).toNat : Nat) : Int) / 2 ^ ((st + m) % 8)).tmod 2 == 1) = true) => h
              have hb1 : bitL l (st + m) = 1 := by rw [bit_int] at h; have := eq_of_beq h; omega
              have hyy : yy = xx + 2 ^ m := by rw [HBS.out, hb1, Nat.mul_one]
              have hh := HH.out
              have e : wrap64 ((xx : Int) + wrap64 (2 ^ m)) = ((xx + 2 ^ m : Nat) : Int) := by
                have := HXB.out
                rw [HPM.out]
                rw [IntWalk.wrap64_in ((2 ^ m : Nat) : Int) (by omega), IntWalk.wrap64_in _ (by omega)]
                omega
              rw [e, ← hyy, ics_set] at hh
              have H2 := H1.out.set HG.out n yy hh
              rw [HSS.out] at H2
              exact ⟨⟨m + 1, by omega, by go_num, by rw [hyd]; exact H2⟩, by simp [intOf]; omega⟩
            · rename ((((((l[(st + m) / 8]?.getD 0).toNat : Nat) : Int) / 2 ^ ((st + m) % 8)).tmod 2 == 1) = false) => h
              have hb1 : bitL l (st + m) = 0 := by
                rw [bit_int] at h
                have h2 := bitL_lt l (st + m)
                by_cases e : bitL l (st + m) = 1
                · rw [e] at h; exact absurd h (by decide)
                · omega
              have hyy : yy = xx := by rw [HBS.out, hb1, Nat.mul_zero, Nat.add_zero]
              exact ⟨⟨m + 1, by omega, by go_num, by rw [hyd, hyy]; exact H1.out⟩, by simp [intOf]; omega⟩
          · obtain rfl : m = N := by omega
            go_wp2_with fail
            refine (HBT.out _).mono ?_
            rintro e x6 ⟨rfl, rfl⟩
            go_wp2_with fail
            exact ⟨⟨n + 1, by omega, by rw [HON.out]; go_num, by go_num, by rw [HS.out]; exact H1.out⟩, by first | (simp [intOf]; omega) | simp [intOf]⟩
    · obtain rfl : n = 10 := by omega
      have HL1 : Hid ((cry (opn l 10) 10).length = 10) := Lib.hid ((cry_len _ _).trans H.out.o.1)
      have HLo : Hid ((opn l 10).length = 10) := H.out.o.1
      generalize cry (opn l 10) 10 = R at *
      generalize opn l 10 = on at *
      obtain ⟨t, ht⟩ := H.out.o.2
      have HT := Lib.hid ht
      clear ht
      go_wp2_with (first | ((with_reducible show wpList _ _ _ (⟨_, .load 65 (.tmp 3), _, _, _, _⟩ :: _) _ _); go_must (refine wpList_load_arr rfl 65 (.tmp 3) rfl (w.heap.size + 2) 0 rfl (ics on) (fun i u hu => by rw [Nat.zero_add]; exact row_cells HT.out i u (by simpa using hu)) _ under65 rfl (by rw [ics_len, HLo.out]; exact size65) ?_)) | fail)
      refine (HR.out _).mono ?_
      rintro e x4 ⟨rfl, hb⟩
      have H1 := Lib.hid (H.out.keep hb)
      clear hb H HR HT
      go_wp2_with (first | ((with_reducible show wpList _ _ _ (⟨none, .store 65 (.tmp 2) (.tmp 57), _, _, _, _⟩ :: _) _ _); go_must (refine wpList_store_all rfl 65 (.tmp 2) (.tmp 57) rfl (w.heap.size + 1) rfl (ics R).toArray rfl 65 _ H1.out.res (by rw [List.size_toArray, ics_len, HL1.out]; exact size65) (by rw [List.size_toArray, ics_len, HL1.out]; rfl) (ics_one _) ?_; intro x6 hh hg hz; have HH := Lib.hid hh; have HG := Lib.hid hg; clear hh hg hz)) | fail)
      refine bodyPost_ret (results_cell_row rfl _ _ (w.heap.size + 1) 65 (ics R).toArray _ _ rfl HH.out under65 rfl (by rw [List.size_toArray, ics_len, HL1.out]; exact size65)) rfl ?_
      exact ⟨rfl, H1.out.bel.grown HG.out H1.out.bel.size (fun r hr => by injection hr; omega)⟩
end Go.Proofs.Ytgdimnbdnepbgaa
/- The reference's Open as a number. No statement is proved here. -/
namespace Go.Proofs.Ytgdimnbdnepbgaa
open Go.RowKit
set_option linter.unusedVariables false
set_option maxRecDepth 40000
set_option linter.unusedSimpArgs false

theorem E_off : ∀ n, n < 10 → E10 n = 2 ^ off n := by decide +kernel
theorem opn_lt (l : List UInt8) (n : Nat) : n ≤ 10 → ∀ i, i < 10 → (opn l n).getD i 0 < 67108864 := by
  induction n with
  | zero =>
    intro _ i hi
    rw [opn_later l 0 i (by omega) hi]
    decide
  | succ n ih =>
    intro hn i hi
    unfold opn
    by_cases hin : n = i
    · subst hin
      rw [getD_set_eq _ _ _ (by rw [opn_len]; omega)]
      have ho : ob n ≤ 26 := by
        unfold ob b10
        split
        · decide
        · split <;> decide
      have hp : 2 ^ ob n ≤ 2 ^ 26 := Nat.pow_le_pow_right (by decide) ho
      exact Nat.lt_of_lt_of_le (Nat.mod_lt _ (Nat.two_pow_pos _)) hp
    · rw [getD_set_other _ _ _ _ hin]
      exact ih (by omega) i hi
theorem opn_step (l : List UInt8) (n : Nat) (hn : n < 10) (h : val10 (opn l n) = nv l % 2 ^ off n) : val10 (opn l (n + 1)) = nv l % 2 ^ (off n + ob n) := by
  have e : opn l (n + 1) = (opn l n).set n ((opn l n).getD n 0 + nv l / 2 ^ off n % 2 ^ ob n) := by
    rw [opn_later l n n (Nat.le_refl _) hn, Nat.zero_add]
    rfl
  rw [e, val10_add _ (opn_len l n) n _ hn, h, E_off n hn, Nat.pow_add, Nat.mod_mul, Nat.mul_comm]
theorem opn_val (l : List UInt8) (n : Nat) : n ≤ 9 → val10 (opn l n) = nv l % 2 ^ off n := by
  induction n with
  | zero =>
    intro _
    rw [show off 0 = 0 from rfl, Nat.pow_zero, Nat.mod_one]
    rfl
  | succ n ih =>
    intro hn
    rw [opn_step l n (by omega) (ih (by omega))]
    have : ob n = b10 n := by unfold ob; rw [if_neg (by omega)]
    rw [this]
    rfl
theorem opn_all (l : List UInt8) : val10 (opn l 10) = nv l := by
  rw [opn_step l 9 (by omega) (opn_val l 9 (by omega)), show off 9 + ob 9 = 256 from by decide]
  exact Nat.mod_eq_of_lt (nv_lt l)
theorem Open_gives (l : List UInt8) (hl : l.length = 32) : ∃ z, R10 z ∧ val10 z % PP = nv l % PP ∧ ∀ w, Calls Try.prog 68 #[.agg (bcs l).toArray] w (Gives (.agg (ics z).toArray) w) := by
  refine ⟨cry (opn l 10) 10, cry_R _ (opn_len l 10) 67108865 3 (fun i hi => ?_) (by decide) (by decide), ?_, fun w => ?_⟩
  · have := opn_lt l 10 (by omega) i hi; omega
  · rw [cry_res _ (opn_len l 10), opn_all]
  · refine Open_core l w (Lib.hid hl) (Lib.hid fun w => carry_any _ (opn_len l 10) (fun i hi => ?_) w)
    have := opn_lt l 10 (by omega) i hi; omega
end Go.Proofs.Ytgdimnbdnepbgaa
/- Carries that end: what Close's carries leave. No statement is proved here. -/
namespace Go.Proofs.Ytgdimnbdnepbgaa
open Go.RowKit
set_option linter.unusedVariables false
set_option maxRecDepth 40000
set_option linter.unusedSimpArgs false

/-- All words in their bits. -/
def X10 (o : List Nat) : Prop := o.length = 10 ∧ ∀ i, i < 10 → o.getD i 0 < m10 i
theorem cry_id (o : List Nat) (h : X10 o) : ∀ n, n ≤ 10 → cry o n = o
  | 0, _ => rfl
  | n + 1, hn => by
    have hl := h.1
    have hw := h.2 n (by omega)
    show cst (cry o n) n = o
    rw [cry_id o h n (by omega)]
    have e0 : o.getD n 0 % m10 n = o.getD n 0 := Nat.mod_eq_of_lt hw
    have e1 : o.getD n 0 / m10 n = 0 := Nat.div_eq_of_lt hw
    unfold cst
    by_cases h9 : n = 9
    · subst h9
      have f0 : o.getD 9 0 % 33554432 = o.getD 9 0 := e0
      have f1 : o.getD 9 0 / 33554432 = 0 := e1
      rw [if_pos rfl, f0, f1, set_same _ _ (by omega), Nat.mul_zero, Nat.add_zero]
      exact set_same _ _ (by omega)
    · rw [if_neg h9, e0, e1, set_same _ _ (by omega), Nat.add_zero]
      exact set_same _ _ (by omega)
/-- A carry of words of which only the lowest may be long by a little. -/
theorem cry_exact_at (o : List Nat) (h : o.length = 10) (h0 : o.getD 0 0 < 67109888) (hi : ∀ i, i < 10 → 0 < i → o.getD i 0 < m10 i) :
    ∀ n, n ≤ 9 → (∀ i, i < n → (cry o n).getD i 0 < m10 i) ∧ (0 < n → (cry o n).getD n 0 ≤ m10 n ∧ ((cry o n).getD n 0 < m10 n ∨ (cry o n).getD 0 0 < 1024))
  | 0, _ => ⟨fun i hi => absurd hi (by omega), fun h => absurd h (by omega)⟩
  | n + 1, hn => by
    obtain ⟨k1, k2⟩ := cry_exact_at o h h0 hi n (by omega)
    have hl : (cry o n).length = 10 := (cry_len o n).trans h
    have hlat : (cry o n).getD (n + 1) 0 < m10 (n + 1) := by rw [cry_later o n (n + 1) (by omega) (by omega)]; exact hi _ (by omega) (by omega)
    have hg := m10_ge n
    have hm : (cry o n).getD n 0 % m10 n < m10 n := Nat.mod_lt _ (by omega)
    have hn9 : n ≠ 9 := by omega
    show (∀ i, i < n + 1 → (cst (cry o n) n).getD i 0 < m10 i) ∧ (0 < n + 1 → (cst (cry o n) n).getD (n + 1) 0 ≤ m10 (n + 1) ∧ ((cst (cry o n) n).getD (n + 1) 0 < m10 (n + 1) ∨ (cst (cry o n) n).getD 0 0 < 1024))
    unfold cst
    rw [if_neg hn9]
    refine ⟨fun i hi => ?_, fun _ => ?_⟩
    · rw [getD_set_other _ _ _ _ (by omega)]
      by_cases hin : i = n
      · subst hin
        rw [getD_set_eq _ _ _ (by omega)]
        exact hm
      · rw [getD_set_other _ _ _ _ (by omega)]
        exact k1 i (by omega)
    · rw [getD_set_eq _ _ _ (by rw [List.length_set]; omega), getD_set_other _ (n + 1) 0 _ (by omega), getD_set_other _ n (n + 1) _ (by omega)]
      by_cases hn0 : n = 0
      · subst hn0
        rw [getD_set_eq _ _ _ (by omega)]
        have e : (cry o 0).getD 0 0 = o.getD 0 0 := rfl
        have em : m10 0 = 67108864 := rfl
        rw [e, em]
        omega
      · rw [getD_set_other _ _ _ _ hn0]
        obtain ⟨j1, j2⟩ := k2 (by omega)
        rcases j2 with j2 | j2
        · rw [Nat.div_eq_of_lt j2]
          omega
        · have hc : (cry o n).getD n 0 / m10 n ≤ 1 := by
            have : (cry o n).getD n 0 / m10 n < 2 := by rw [Nat.div_lt_iff_lt_mul (by omega)]; omega
            omega
          omega
theorem cry_exact (o : List Nat) (h : o.length = 10) (h0 : o.getD 0 0 < 67109888) (hi : ∀ i, i < 10 → 0 < i → o.getD i 0 < m10 i) : X10 (cry o 10) := by
  obtain ⟨k1, k2⟩ := cry_exact_at o h h0 hi 9 (Nat.le_refl _)
  obtain ⟨j1, j2⟩ := k2 (by omega)
  have hl : (cry o 9).length = 10 := (cry_len o 9).trans h
  refine ⟨(cry_len _ _).trans h, fun i hi => ?_⟩
  have e9 : m10 9 = 33554432 := rfl
  have e0 : m10 0 = 67108864 := rfl
  have k0 := k1 0 (by omega)
  rw [e9] at j1 j2
  rw [e0] at k0
  rw [cry_nine]
  by_cases hi0 : i = 0
  · subst hi0
    rw [getD_set_eq _ _ _ (by rw [List.length_set]; omega), e0]
    omega
  · rw [getD_set_other _ _ _ _ (by omega)]
    by_cases hi9 : i = 9
    · subst hi9
      rw [getD_set_eq _ _ _ (by omega), e9]
      omega
    · rw [getD_set_other _ _ _ _ (by omega)]
      exact k1 i (by omega)
/-- Four carries of a number: its words in their bits, below 2^255. -/
theorem cry4 (o : List Nat) (h : R10 o) : X10 (cry (cry o 10) 10) ∧ cry (cry (cry (cry o 10) 10) 10) 10 = cry (cry o 10) 10 := by
  obtain ⟨k1, _, _, k4⟩ := cry_bnd o h.1 67109889 5 (fun i hi => by have := (h.2 i hi).1; omega) (by decide) 10 (Nat.le_refl _)
  have hx : X10 (cry (cry o 10) 10) := cry_exact _ ((cry_len _ _).trans h.1) (by have := k4 rfl; omega) (fun i hi h0 => k1 i hi h0)
  exact ⟨hx, by rw [cry_id _ hx 10 (Nat.le_refl _), cry_id _ hx 10 (Nat.le_refl _)]⟩
theorem X10_val (o : List Nat) (h : X10 o) : val10 o < 57896044618658097711785492504343953926634992332820282019728792003956564819968 := by
  obtain ⟨hl, hw⟩ := h
  obtain ⟨a0, a1, a2, a3, a4, a5, a6, a7, a8, a9, rfl⟩ := ten o hl
  have w0 : a0 < 67108864 := hw 0 (by omega)
  have w1 : a1 < 33554432 := hw 1 (by omega)
  have w2 : a2 < 67108864 := hw 2 (by omega)
  have w3 : a3 < 33554432 := hw 3 (by omega)
  have w4 : a4 < 67108864 := hw 4 (by omega)
  have w5 : a5 < 33554432 := hw 5 (by omega)
  have w6 : a6 < 67108864 := hw 6 (by omega)
  have w7 : a7 < 33554432 := hw 7 (by omega)
  have w8 : a8 < 67108864 := hw 8 (by omega)
  have w9 : a9 < 33554432 := hw 9 (by omega)
  simp only [val10]
  omega
end Go.Proofs.Ytgdimnbdnepbgaa
/- Bytes of a number, one bit after the other: for the reference's Close. No statement is proved here. -/
namespace Go.Proofs.Ytgdimnbdnepbgaa
open Go.RowKit
set_option linter.unusedVariables false
set_option maxRecDepth 40000
set_option linter.unusedSimpArgs false

/-- The byte that holds bit m of a number below 2^m has room for it. -/
theorem room (l : List UInt8) (m : Nat) (h : leb l < 2 ^ m) : (l.getD (m / 8) 0).toNat < 2 ^ (m % 8) := by
  rw [← leb_byte l (m / 8)]
  have e : (256 : Nat) ^ (m / 8) = 2 ^ (8 * (m / 8)) := by rw [Nat.pow_mul]
  rw [e]
  have hm : 2 ^ m = 2 ^ (m % 8) * 2 ^ (8 * (m / 8)) := by rw [← Nat.pow_add]; congr 1; omega
  rw [hm] at h
  have h2 : leb l / 2 ^ (8 * (m / 8)) < 2 ^ (m % 8) := by rw [Nat.div_lt_iff_lt_mul (Nat.two_pow_pos _)]; exact h
  exact Nat.lt_of_le_of_lt (Nat.mod_le _ _) h2
theorem byte_pow (m : Nat) : 2 ^ (m % 8) < 256 := Nat.lt_of_le_of_lt (Nat.pow_le_pow_right (by decide) (show m % 8 ≤ 7 by omega)) (by decide)
theorem put_bit (l : List UInt8) (hl : l.length = 32) (V m : Nat) (hm : m < 256) (h : leb l = V % 2 ^ m) (hb : V / 2 ^ m % 2 = 1) (c : Nat) (hc : c = (l.getD (m / 8) 0).toNat + 2 ^ (m % 8)) :
    c < 256 ∧ leb (l.set (m / 8) (UInt8.ofNat c)) = V % 2 ^ (m + 1) := by
  have hr := room l m (by rw [h]; exact Nat.mod_lt _ (Nat.two_pow_pos _))
  have h7 : 2 ^ (m % 8) ≤ 128 := Nat.pow_le_pow_right (by decide) (show m % 8 ≤ 7 by omega)
  have hc2 : c < 256 := by omega
  refine ⟨hc2, ?_⟩
  have hs := leb_set l (m / 8) (UInt8.ofNat c) (by omega)
  rw [of_byte, Nat.mod_eq_of_lt hc2] at hs
  have e : (256 : Nat) ^ (m / 8) = 2 ^ (8 * (m / 8)) := by rw [Nat.pow_mul]
  have hm2 : 2 ^ m = 2 ^ (8 * (m / 8)) * 2 ^ (m % 8) := by rw [← Nat.pow_add]; congr 1; omega
  subst hc
  rw [Nat.mul_add, ← Nat.add_assoc, e, ← hm2] at hs
  rw [Nat.mod_pow_succ, hb, Nat.mul_one, ← h]
  omega
theorem no_bit (V m : Nat) (hb : V / 2 ^ m % 2 = 0) : V % 2 ^ (m + 1) = V % 2 ^ m := by
  rw [Nat.mod_pow_succ, hb, Nat.mul_zero, Nat.add_zero]
/-- A word in its bits is its part of the number. -/
theorem X10_digit (o : List Nat) (h : X10 o) (n : Nat) (hn : n < 10) : val10 o / 2 ^ off n % 2 ^ b10 n = o.getD n 0 := by
  obtain ⟨hl, hw⟩ := h
  obtain ⟨a0, a1, a2, a3, a4, a5, a6, a7, a8, a9, rfl⟩ := ten o hl
  have w0 : a0 < 67108864 := hw 0 (by omega)
  have w1 : a1 < 33554432 := hw 1 (by omega)
  have w2 : a2 < 67108864 := hw 2 (by omega)
  have w3 : a3 < 33554432 := hw 3 (by omega)
  have w4 : a4 < 67108864 := hw 4 (by omega)
  have w5 : a5 < 33554432 := hw 5 (by omega)
  have w6 : a6 < 67108864 := hw 6 (by omega)
  have w7 : a7 < 33554432 := hw 7 (by omega)
  have w8 : a8 < 67108864 := hw 8 (by omega)
  have w9 : a9 < 33554432 := hw 9 (by omega)
  clear hw hl
  have hn10 : n = 0 ∨ n = 1 ∨ n = 2 ∨ n = 3 ∨ n = 4 ∨ n = 5 ∨ n = 6 ∨ n = 7 ∨ n = 8 ∨ n = 9 := by omega
  simp only [val10]
  rcases hn10 with rfl | rfl | rfl | rfl | rfl | rfl | rfl | rfl | rfl | rfl
  · show _ / 1 % 67108864 = a0; omega
  · show _ / 67108864 % 33554432 = a1; omega
  · show _ / 2251799813685248 % 67108864 = a2; omega
  · show _ / 151115727451828646838272 % 33554432 = a3; omega
  · show _ / 5070602400912917605986812821504 % 67108864 = a4; omega
  · show _ / 340282366920938463463374607431768211456 % 33554432 = a5; omega
  · show _ / 11417981541647679048466287755595961091061972992 % 67108864 = a6; omega
  · show _ / 766247770432944429179173513575154591809369561091801088 % 33554432 = a7; omega
  · show _ / 25711008708143844408671393477458601640355247900524685364822016 % 67108864 = a8; omega
  · show _ / 1725436586697640946858688965569256363112777243042596638790631055949824 % 33554432 = a9; omega
theorem X10_bit (o : List Nat) (h : X10 o) (n k : Nat) (hn : n < 10) (hk : k < b10 n) : val10 o / 2 ^ (off n + k) % 2 = o.getD n 0 / 2 ^ k % 2 := by
  rw [← X10_digit o h n hn, Nat.pow_add, ← Nat.div_div_eq_div_mul]
  generalize val10 o / 2 ^ off n = x
  obtain ⟨j, hj⟩ : ∃ j, b10 n = k + (j + 1) := ⟨b10 n - k - 1, by omega⟩
  rw [hj, Nat.pow_add, Nat.mod_mul, Nat.add_mul_div_left _ _ (Nat.two_pow_pos k), Nat.div_eq_of_lt (Nat.mod_lt _ (Nat.two_pow_pos k)), Nat.zero_add, Nat.pow_succ, Nat.mul_comm (2 ^ j) 2, Nat.mod_mul_right_mod]

theorem tops : ∀ r, r < 19 → enc (PP + r) = UInt8.ofNat (237 + r) :: (List.replicate 30 255 ++ [127]) := by decide +kernel
theorem top_of (l : List UInt8) (hl : l.length = 32) (hV : leb l < 57896044618658097711785492504343953926634992332820282019728792003956564819968) (h : ¬ leb l < PP) : ∃ r, r < 19 ∧ leb l = PP + r ∧ l = UInt8.ofNat (237 + r) :: (List.replicate 30 255 ++ [127]) := by
  unfold PP at h
  refine ⟨leb l - PP, by unfold PP; omega, by unfold PP; omega, ?_⟩
  have e := leb_inj l hl
  rw [← tops (leb l - PP) (by unfold PP; omega), show PP + (leb l - PP) = leb l from by unfold PP; omega, ← e]
theorem closeA (l : List UInt8) (hl : l.length = 32) (hV : leb l < 57896044618658097711785492504343953926634992332820282019728792003956564819968)
    (h : (l.getD 0 0).toNat < 237 ∨ (l.getD 31 0).toNat ≠ 127 ∨ ∃ i, 0 < i ∧ i < 31 ∧ (l.getD i 0).toNat ≠ 255) : l = enc (leb l % PP) := by
  by_cases hp : leb l < PP
  · rw [Nat.mod_eq_of_lt hp]; exact leb_inj l hl
  · obtain ⟨r, hr, _, e⟩ := top_of l hl hV hp
    rw [e] at h
    rcases h with h | h | ⟨i, h0, h1, h⟩
    · rw [List.getD_cons_zero, of_byte] at h
      omega
    · exact absurd rfl h
    · obtain ⟨j, rfl⟩ : ∃ j, i = j + 1 := ⟨i - 1, by omega⟩
      rw [List.getD_cons_succ, List.getD_eq_getElem?_getD, List.getElem?_append_left (by rw [List.length_replicate]; omega), List.getElem?_replicate, if_pos (by omega)] at h
      exact absurd rfl h
theorem closeB (l : List UInt8) (hl : l.length = 32) (h0 : ¬ (l.getD 0 0).toNat < 237) (h31 : (l.getD 31 0).toNat = 127) (hi : ∀ i, 0 < i → i < 31 → (l.getD i 0).toNat = 255) :
    enc (leb l % PP) = UInt8.ofNat ((l.getD 0 0).toNat - 237) :: List.replicate 31 0 := by
  have hb := UInt8.toNat_lt (l.getD 0 0)
  obtain ⟨r, hr⟩ : ∃ r, (l.getD 0 0).toNat = 237 + r := ⟨(l.getD 0 0).toNat - 237, by omega⟩
  have hr19 : r < 19 := by omega
  have e : l = enc (PP + r) := by
    rw [tops r hr19]
    apply List.ext_getElem
    · rw [hl]; rfl
    · intro i h1 h2
      have hg : (l.getD i 0) = l[i] := by rw [List.getD_eq_getElem?_getD, List.getElem?_eq_getElem h1]; rfl
      rw [← hg]
      apply UInt8.toNat_inj.1
      by_cases e0 : i = 0
      · subst e0
        rw [hr, List.getElem_cons_zero, of_byte]
        omega
      · by_cases e31 : i = 31
        · subst e31
          rw [h31]
          rfl
        · rw [hi i (by omega) (by omega)]
          obtain ⟨j, rfl⟩ : ∃ j, i = j + 1 := ⟨i - 1, by omega⟩
          rw [List.getElem_cons_succ, List.getElem_append_left (by rw [List.length_replicate]; omega), List.getElem_replicate]
          rfl
  have hv : leb l = PP + r := by rw [← nv_leb l hl, e, nv_enc _ (by unfold PP; omega)]
  rw [hv, Nat.add_mod_left, Nat.mod_eq_of_lt (by unfold PP; omega), hr, Nat.add_sub_cancel_left]
  have : ∀ r, r < 19 → enc r = UInt8.ofNat r :: List.replicate 31 0 := by decide +kernel
  exact this r hr19
end Go.Proofs.Ytgdimnbdnepbgaa
/- The reference's Close. No statement is proved here. -/
namespace Go.Proofs.Ytgdimnbdnepbgaa
open Go.RowKit
set_option linter.unusedVariables false
set_option maxRecDepth 40000
set_option linter.unusedSimpArgs false

/-- The memory of Close. -/
structure Cz (w : World) (g : Nat) (x : List Nat) (l : List UInt8) (w' : World) : Prop where
  hg : w.heap.size + 2 ≤ g
  x : IAt w' w.heap.size x
  res : w'.heap[w.heap.size + 1]? = some (.cells (zbs 32) 23 (0, 0))
  b : BAt w' g l
  bel : Below w.heap.size w w'
theorem Cz.set {w : World} {g : Nat} {x : List Nat} {l l' : List UInt8} {w' w'' : World} {t : TypeId} (h : Cz w g x l w') (hg : w'.grownBy w'' (some g)) (hl : l'.length = 32) (hh : w''.heap[g]? = some (.cells (bcs l').toArray t (0, 0))) : Cz w g x l' w'' :=
  ⟨h.hg, h.x.grown hg (by have := h.hg; simp; omega), (hg.block _ (Array.getElem?_eq_some_iff.1 h.res).1 (by have := h.hg; simp; omega)).trans h.res, ⟨hl, t, hh⟩, h.bel.grown hg h.bel.size (fun r hr => by have := h.hg; injection hr; omega)⟩
theorem Cz.start {w : World} {x : List Nat} {w1 w2 w3 w4 w5 : World} (hx : x.length = 10)
    (z1 : w1.heap.size = w.heap.size + 1) (g1 : w.grownBy w1 none)
    (h2 : w2.heap[w1.heap.size]? = some (.cells (zbs 32) 23 (0, 0))) (z2 : w2.heap.size = w1.heap.size + 1) (g2 : w1.grownBy w2 none)
    (b3 : Below w2.heap.size w2 w3)
    (h4 : w4.heap[w.heap.size]? = some (.cells (ics x).toArray 65 (0, 0))) (g4 : w3.grownBy w4 (some w.heap.size)) (z4 : w4.heap.size = w3.heap.size)
    (h5 : w5.heap[w4.heap.size]? = some (.cells (zbs 32) 23 (0, 0))) (g5 : w4.grownBy w5 none) : Cz w w4.heap.size x (List.replicate 32 0) w5 := by
  have b1 := below_of_grownBy g1
  have b2 := below_of_grownBy g2
  have b5 := below_of_grownBy g5
  rw [z1] at h2 b2 z2
  have b3s := b3.size
  rw [z2] at b3 b3s
  have k4 : Below w.heap.size w3 w4 := (Below.refl _ _).grown g4 (by omega) (fun r hr => by injection hr; omega)
  refine ⟨by omega, ⟨hx, 65, ?_⟩, ?_, ⟨rfl, 23, h5⟩, ?_⟩
  · exact (b5.block _ (by omega)).trans h4
  · exact (b5.block _ (by omega)).trans ((g4.block _ (by omega) (by simp)).trans ((b3.block _ (by omega)).trans h2))
  · exact b1.trans ((b2.mono (by omega)).trans ((b3.mono (by omega)).trans (k4.trans (b5.mono (by omega)))))

theorem put_int (a k : Nat) (h : a + 2 ^ k < 256) : ((a : Int) + 2 ^ k % 256) % 256 = ((a + 2 ^ k : Nat) : Int) := by
  rw [show ((2 : Int) ^ k) = ((2 ^ k : Nat) : Int) from by simp]
  generalize 2 ^ k = p at *
  omega
theorem run_build1 (n : Int) (w : World) : (Instr.build 23 #[(0, .int .u8 n)]).run Try.prog w = .ok (.agg (.int .u8 n :: List.replicate 31 (.int .u8 0)).toArray) w := by kernel_rfl
theorem exec_build1 {o : Oper} {a : Act} {w : World} (x : Operand) (n : Int) (v : Value) (ho : o.op = .build 23 #[(0, x)]) (hx : a.eval x = .int .u8 n) (hv : .agg (.int .u8 n :: List.replicate 31 (.int .u8 0)).toArray = v) : (execOp a.eval o).run Try.prog w = .ok (.value v) w := by
  unfold execOp
  simp only [ho, List.map_toArray, List.map_cons, List.map_nil, Sem.run_bind, Sem.run_pure, hx]
  rw [run_build1 n w, hv]
  rfl
theorem word_bit (x : List Nat) (n m : Nat) : (if (((((x[n]?.getD 0 : Nat) : Int) / 2 ^ m).tmod 2 == 1)) = true then 1 else 0) = x.getD n 0 / 2 ^ m % 2 := by
  rw [List.getD_eq_getElem?_getD, show ((2 : Int) ^ m) = ((2 ^ m : Nat) : Int) from by simp, ← Int.natCast_ediv]
  generalize x[n]?.getD 0 / 2 ^ m = z
  rw [show ((z : Int)).tmod 2 = ((z % 2 : Nat) : Int) from rfl]
  by_cases h : z % 2 = 1
  · rw [h]; rfl
  · have h0 : z % 2 = 0 := by omega
    rw [h0]; rfl
set_option maxHeartbeats 2000000 in
theorem Close_core (o c1 x : List Nat) (V : Nat) (w : World) (HL : Hid (o.length = 10)) (HL1 : Hid (c1.length = 10)) (HX : Hid (X10 x)) (HV : Hid (val10 x = V)) (HVB : Hid (V < 57896044618658097711785492504343953926634992332820282019728792003956564819968))
    (HR0 : Hid (∀ w, Calls Try.prog 94 #[.agg (ics o).toArray] w (Gives (.agg (ics c1).toArray) w)))
    (HR1 : Hid (∀ w, Calls Try.prog 94 #[.agg (ics c1).toArray] w (Gives (.agg (ics x).toArray) w)))
    (HR2 : Hid (∀ w, Calls Try.prog 94 #[.agg (ics x).toArray] w (Gives (.agg (ics x).toArray) w))) :
    Calls Try.prog 67 #[.agg (ics o).toArray] w (Gives (vN (V % PP)) w) := by
  have HXL : Hid (x.length = 10) := Lib.hid HX.out.1
  go_enter Try.func67, Try.ntmps67
  go_wp2_with (first | ((with_reducible show wpList _ _ _ (⟨some 1, .box 65 (.tmp 0), _, _, _, _⟩ :: _) _ _); go_must (refine wpList_box_row rfl 65 (.tmp 0) rfl (ics o).toArray rfl ?_; intro w1 h1 z1 g1; have H1 := Lib.hid h1; have Z1 := Lib.hid z1; have G1 := Lib.hid g1; clear h1 z1 g1)) | ((with_reducible show wpList _ _ _ (⟨some 2, .alloc 23, _, _, _, _⟩ :: _) _ _); go_must (refine wpList_alloc_row rfl 23 rfl (.agg (zbs 32)) zero23 ?_; intro w2 h1 z1 g1; have H2 := Lib.hid h1; have Z2 := Lib.hid z1; have G2 := Lib.hid g1; clear h1 z1 g1)) | ((with_reducible show wpList _ _ _ (⟨_, .load 65 (.tmp 1), _, _, _, _⟩ :: _) _ _); go_must (refine wpList_load_arr rfl 65 (.tmp 1) rfl w.heap.size 0 rfl (ics o) (fun i u hu => by rw [Nat.zero_add]; exact row_cells (((below_of_grownBy G2.out).block _ (by have := Z1.out; omega)).trans H1.out) i u (by simpa using hu)) _ under65 rfl (by rw [ics_len, HL.out]; exact size65) ?_)))
  refine (HR0.out _).mono ?_
  rintro e y1 ⟨rfl, hb⟩
  have B1 := Lib.hid hb
  clear hb
  go_wp2_with fail
  refine (HR1.out _).mono ?_
  rintro e y2 ⟨rfl, hb⟩
  have B2 := Lib.hid (B1.out.trans (hb.mono B1.out.size))
  clear hb B1
  go_wp2_with fail
  refine (HR2.out _).mono ?_
  rintro e y3 ⟨rfl, hb⟩
  have B3 := Lib.hid (B2.out.trans (hb.mono B2.out.size))
  clear hb B2
  go_wp2_with fail
  refine (HR2.out _).mono ?_
  rintro e y4 ⟨rfl, hb⟩
  have B4 := Lib.hid (B3.out.trans (hb.mono B3.out.size))
  clear hb B3
  have HW0 : Hid (y4.heap[w.heap.size]? = some (.cells (ics o).toArray 65 (0, 0))) := Lib.hid ((B4.out.block _ (by have := Z1.out; have := Z2.out; omega)).trans (((below_of_grownBy G2.out).block _ (by have := Z1.out; omega)).trans H1.out))
  go_wp2_with (first | ((with_reducible show wpList _ _ _ (⟨none, .store 65 (.tmp 1) (.tmp 12), _, _, _, _⟩ :: _) _ _); go_must (refine wpList_store_all rfl 65 (.tmp 1) (.tmp 12) rfl (w.heap.size) rfl (ics x).toArray rfl 65 _ HW0.out (by rw [List.size_toArray, ics_len, HXL.out]; exact size65) (by rw [List.size_toArray, List.size_toArray, ics_len, HXL.out, ics_len, HL.out]) (ics_one _) ?_; intro w4 hh hg hz; have HH4 := Lib.hid hh; have HG4 := Lib.hid hg; have HZ4 := Lib.hid hz; clear hh hg hz)) | ((with_reducible show wpList _ _ _ (⟨some 3, .alloc 23, _, _, _, _⟩ :: _) _ _); go_must (refine wpList_alloc_row rfl 23 rfl (.agg (zbs 32)) zero23 ?_; intro w5 h1 z1 g1; have H5 := Lib.hid h1; have Z5 := Lib.hid z1; have G5 := Lib.hid g1; clear h1 z1 g1)))
  have S : Hid (Cz w w4.heap.size x (List.replicate 32 0) w5) := Cz.start HXL.out Z1.out G1.out H2.out Z2.out G2.out B4.out HH4.out HG4.out HZ4.out H5.out G5.out
  have hgg := S.out.hg
  rw [show w1.heap.size = w.heap.size + 1 from Z1.out]
  clear H1 Z1 G1 H2 Z2 G2 HW0 HH4 HG4 HZ4 H5 Z5 G5 B4 HR0 HR1 HR2
  generalize w4.heap.size = g at *
  go_loopw [4, 5, 6] (fun a i _ wr => ∃ n : Nat, ∃ l : List UInt8, n ≤ 10 ∧ a = .int .i64 (off n : Nat) ∧ i = .int .i64 n ∧ leb l = V % 2 ^ off n ∧ Cz w g x l wr) (fun _ i _ _ => 10 - (intOf i).toNat)
  case atStart => exact ⟨0, _, by omega, rfl, rfl, (show leb (List.replicate 32 0) = V % 2 ^ 0 by rw [Nat.pow_zero, Nat.mod_one]; rfl), S.out⟩
  case round =>
    obtain ⟨n, l, hn, rfl, rfl, hv, hp⟩ := hrel
    have H := Lib.hid hp
    have HVL := Lib.hid hv
    clear hp S hv
    by_cases hlt : n < 10
    · have hni : (n : Int) < 10 := by omega
      have HBT := Lib.hid (bits_any n hlt)
      have HOB := off_le n hlt
      have HON : Hid (off (n + 1) = off n + b10 n) := rfl
      have HXB := Lib.hid (fun k hk => X10_bit x HX.out n k hlt hk)
      have HXW : Hid (x.getD n 0 < 67108864) := Lib.hid (Nat.lt_of_lt_of_le (HX.out.2 n hlt) (by unfold m10; split <;> decide))
      have hnb : b10 n ≤ 26 := by unfold b10; split <;> decide
      have hob : b10 n ≤ ob n := by unfold ob; split <;> omega
      rw [HV.out] at HXB
      generalize off n = st at *
      generalize b10 n = nb at *
      have hst : (st : Int) < 257 := by omega
      have hnbi : (nb : Int) < 27 := by omega
      go_wp2_with fail
      go_loopw [6] (fun j wi => ∃ m : Nat, ∃ l : List UInt8, m ≤ nb ∧ j = .int .i64 m ∧ leb l = V % 2 ^ (st + m) ∧ Cz w g x l wi) (fun j _ => nb - (intOf j).toNat)
      case atStart => exact ⟨0, l, by omega, rfl, HVL.out, H.out⟩
      case round =>
        obtain ⟨m, l, hm, rfl, hv, hp⟩ := hrel
        have H1 := Lib.hid hp
        have HVM := Lib.hid hv
        clear hp H hv HVL
        by_cases hlm : m < nb
        · have hmi : (m : Int) < nb := by omega
          have hsm : (st : Int) + (m : Int) < 256 := by omega
          have cb := H1.out.b.cell ((st + m) / 8) (by omega)
          have cx := H1.out.x.cell n (by omega)
          obtain ⟨t, ht⟩ := H1.out.b.2
          have HT := Lib.hid ht
          clear ht
          have HBL : Hid (l.length = 32) := H1.out.b.1
          go_wp2_with fail
          refine (HBT.out _).mono ?_
          rintro e x1 ⟨rfl, rfl⟩
          go_wp2_with (first | ((with_reducible show wpList _ _ _ (⟨none, .store 5 (.tmp 49) (.tmp 48), _, _, _, _⟩ :: _) _ _); go_must (refine wpList_store_one rfl 5 (.tmp 49) (.tmp 48) rfl g ((st + m) / 8) rfl .u8 _ rfl t _ HT.out size5 (by simp only [List.size_toArray, bcs_len]; have := HBL.out; omega) ?_; intro x5 hh hg hz; have HH := Lib.hid hh; have HG := Lib.hid hg; clear hh hg hz)) | fail)
          · rename (((((x[n]?.getD 0 : Nat) : Int) / 2 ^ m).tmod 2 == 1) = true) => h
            have hb1 : V / 2 ^ (st + m) % 2 = 1 := by
              rw [HXB.out m hlm, ← word_bit, h]
              rfl
            have hq := put_bit l HBL.out V (st + m) (by omega) HVM.out hb1 _ rfl
            have hh := HH.out
            have hp2 := byte_pow (st + m)
            have hq1 := hq.1
            have hq2 := hq.2
            rw [List.getD_eq_getElem?_getD] at hq1 hq2
            have e := put_int (l[(st + m) / 8]?.getD 0).toNat ((st + m) % 8) hq1
            rw [e] at hh
            generalize hc : (l[(st + m) / 8]?.getD 0).toNat + 2 ^ ((st + m) % 8) = c at *
            have e2 : (Value.int IntKind.u8 (c : Int)) = bc (UInt8.ofNat c) := by unfold bc; rw [of_byte, Nat.mod_eq_of_lt hq1]
            rw [e2, bcs_put] at hh
            exact ⟨⟨m + 1, _, by omega, by go_num, by rw [← Nat.add_assoc]; exact hq2, H1.out.set HG.out (by rw [List.length_set]; exact HBL.out) hh⟩, by simp [intOf]; omega⟩
          · rename (((((x[n]?.getD 0 : Nat) : Int) / 2 ^ m).tmod 2 == 1) = false) => h
            have hb0 : V / 2 ^ (st + m) % 2 = 0 := by
              rw [HXB.out m hlm, ← word_bit, h]
              rfl
            exact ⟨⟨m + 1, l, by omega, by go_num, by rw [HVM.out]; exact (no_bit V (st + m) hb0).symm, H1.out⟩, by simp [intOf]; omega⟩
        · obtain rfl : m = nb := by omega
          go_wp2_with fail
          refine (HBT.out _).mono ?_
          rintro e x1 ⟨rfl, rfl⟩
          go_wp2_with fail
          refine (HBT.out _).mono ?_
          rintro e x1 ⟨rfl, rfl⟩
          go_wp2_with fail
          exact ⟨⟨n + 1, l, by omega, by rw [HON.out]; go_num, by go_num, by rw [HON.out]; exact HVM.out, H1.out⟩, by first | (simp [intOf]; omega) | simp [intOf]⟩
    · obtain rfl : n = 10 := by omega
      have hV : leb l = V := by
        rw [HVL.out]
        exact Nat.mod_eq_of_lt HVB.out
      have HVE := Lib.hid hV
      have HBL : Hid (l.length = 32) := H.out.b.1
      have c0 := H.out.b.cell 0 (by omega)
      have c31 := H.out.b.cell 31 (by omega)
      obtain ⟨t, ht⟩ := H.out.b.2
      have HT := Lib.hid ht
      clear ht HVL hV
      have HLA := Lib.hid (closeA l HBL.out (by rw [HVE.out]; exact HVB.out))
      have HLB := Lib.hid (closeB l HBL.out)
      rw [HVE.out] at HLA HLB
      generalize hb0 : (l.getD 0 0).toNat = b0 at *
      generalize hb31 : (l.getD 31 0).toNat = b31 at *
      have HB0 := Lib.hid hb0
      have HB31 := Lib.hid hb31
      clear hb0 hb31
      by_cases h0 : b0 < 237
      · have h0i : (b0 : Int) < 237 := by omega
        have HR : Hid (vN (V % PP) = .agg (bcs l).toArray) := by have h := HLA.out (Or.inl h0); unfold vN; rw [← h]; exact Lib.hid rfl
        go_wp2_with (first | ((with_reducible show wpList _ _ _ (⟨_, .load 23 (.tmp 3), _, _, _, _⟩ :: _) _ _); go_must (refine wpList_load_arr rfl 23 (.tmp 3) rfl g 0 rfl (bcs l) (fun i u hu => by rw [Nat.zero_add]; exact row_cells HT.out i u (by simpa using hu)) _ under23 rfl (by rw [bcs_len, HBL.out]; exact size23) ?_)) | ((with_reducible show wpList _ _ _ (⟨none, .store 23 (.tmp 2) (.tmp 63), _, _, _, _⟩ :: _) _ _); go_must (refine wpList_store_all rfl 23 (.tmp 2) (.tmp 63) rfl (w.heap.size + 1) rfl (bcs l).toArray rfl 23 _ H.out.res (by rw [List.size_toArray, bcs_len, HBL.out]; exact size23) (by rw [List.size_toArray, bcs_len, HBL.out]; rfl) (bcs_one _) ?_; intro x5 hh hg hz; have HH := Lib.hid hh; have HG := Lib.hid hg; clear hh hg hz)) | fail)
        refine bodyPost_ret (results_cell_row rfl _ _ (w.heap.size + 1) 23 (bcs l).toArray _ _ rfl HH.out under23 rfl (by rw [List.size_toArray, bcs_len, HBL.out]; exact size23)) rfl ?_
        exact ⟨by rw [HR.out], H.out.bel.grown HG.out H.out.bel.size (fun r hr => by injection hr; omega)⟩
      · have h0i : ¬ (b0 : Int) < 237 := by omega
        have h0j : (237 : Int) ≤ (b0 : Int) := by omega
        by_cases h31 : b31 = 127
        · have h31i : ((b31 : Int) != 127) = false := by rw [h31]; rfl
          go_wp2_with fail
          go_loopw [7] (fun j wi => ∃ m : Nat, m ≤ 31 ∧ j = .int .i64 m ∧ 0 < m ∧ (∀ i, 0 < i → i < m → (l.getD i 0).toNat = 255) ∧ Cz w g x l wi) (fun j _ => 31 - (intOf j).toNat)
          case atStart => exact ⟨1, by omega, rfl, by omega, fun i h0 h1 => absurd h1 (by omega), H.out⟩
          case round =>
            obtain ⟨m, hm, rfl, hm0, hall, hp⟩ := hrel
            have H1 := Lib.hid hp
            have HAll := Lib.hid hall
            obtain ⟨t2, ht2⟩ := H1.out.b.2
            have HT := Lib.hid ht2
            clear hp H hall c0 c31 ht2
            by_cases hlm : m < 31
            · have hmi : (m : Int) < 31 := by omega
              have cm := H1.out.b.cell m (by omega)
              generalize hbm : (l.getD m 0).toNat = bm at cm
              have HBM := Lib.hid hbm
              clear hbm
              by_cases h255 : bm = 255
              · have hi : ((bm : Int) != 255) = false := by rw [h255]; rfl
                go_wp2_with fail
                exact ⟨⟨m + 1, by omega, by go_num, by omega, fun i h0 h1 => by
                  by_cases e : i = m
                  · rw [e, HBM.out, h255]
                  · exact HAll.out i h0 (by omega), H1.out⟩, by simp [intOf]; omega⟩
              · have hi : ((bm : Int) != 255) = true := by simp; omega
                have HR : Hid (vN (V % PP) = .agg (bcs l).toArray) := by have h := HLA.out (Or.inr (Or.inr ⟨m, hm0, hlm, by rw [HBM.out]; exact h255⟩)); unfold vN; rw [← h]; exact Lib.hid rfl
                go_wp2_with (first | ((with_reducible show wpList _ _ _ (⟨_, .load 23 (.tmp 3), _, _, _, _⟩ :: _) _ _); go_must (refine wpList_load_arr rfl 23 (.tmp 3) rfl g 0 rfl (bcs l) (fun i u hu => by rw [Nat.zero_add]; exact row_cells HT.out i u (by simpa using hu)) _ under23 rfl (by rw [bcs_len, HBL.out]; exact size23) ?_)) | ((with_reducible show wpList _ _ _ (⟨none, .store 23 (.tmp 2) (.tmp 72), _, _, _, _⟩ :: _) _ _); go_must (refine wpList_store_all rfl 23 (.tmp 2) (.tmp 72) rfl (w.heap.size + 1) rfl (bcs l).toArray rfl 23 _ H1.out.res (by rw [List.size_toArray, bcs_len, HBL.out]; exact size23) (by rw [List.size_toArray, bcs_len, HBL.out]; rfl) (bcs_one _) ?_; intro x5 hh hg hz; have HH := Lib.hid hh; have HG := Lib.hid hg; clear hh hg hz)) | fail)
                refine bodyPost_ret (results_cell_row rfl _ _ (w.heap.size + 1) 23 (bcs l).toArray _ _ rfl HH.out under23 rfl (by rw [List.size_toArray, bcs_len, HBL.out]; exact size23)) rfl ?_
                exact ⟨by rw [HR.out], H1.out.bel.grown HG.out H1.out.bel.size (fun r hr => by injection hr; omega)⟩
            · obtain rfl : m = 31 := by omega
              have c0 := H1.out.b.cell 0 (by omega)
              rw [HB0.out] at c0
              have hsub : IntKind.u8.wrap ((b0 : Int) - 237) = ((b0 - 237 : Nat) : Int) := by
                have hb0 : b0 < 256 := by rw [← HB0.out]; exact UInt8.toNat_lt _
                show ((b0 : Int) - 237) % 256 = _
                omega
              have HBV : Hid (Value.agg (Value.int IntKind.u8 ((b0 - 237 : Nat) : Int) :: List.replicate 31 (Value.int IntKind.u8 0)).toArray = vN (V % PP)) := by
                have h := HLB.out h0 h31 HAll.out
                have hb0 : b0 - 237 < 256 := by have := UInt8.toNat_lt (l.getD 0 0); have := HB0.out; omega
                unfold vN
                rw [h]
                show _ = Value.agg (bc (UInt8.ofNat (b0 - 237)) :: bcs (List.replicate 31 0)).toArray
                unfold bc
                rw [of_byte, Nat.mod_eq_of_lt hb0]
                exact Lib.hid rfl
              obtain ⟨L, hL⟩ : ∃ L, L = enc (V % PP) := ⟨_, rfl⟩
              have HLL : Hid (L.length = 32) := by rw [hL]; exact enc_len _
              have HLE : Hid (Value.agg (bcs L).toArray = vN (V % PP)) := by rw [hL]; rfl
              rw [← HLE.out] at HBV
              clear hL
              go_wp2_with (first | ((with_reducible show wpList _ _ _ (⟨_, .build 23 _, _, _, _, _⟩ :: _) _ _); go_must (refine wpList_exec rfl (.agg (bcs L).toArray) (exec_build1 (.tmp 75) ((b0 - 237 : Nat) : Int) _ rfl rfl HBV.out) ?_)) | ((with_reducible show wpList _ _ _ (⟨none, .store 23 (.tmp 2) (.tmp 76), _, _, _, _⟩ :: _) _ _); go_must (refine wpList_store_all rfl 23 (.tmp 2) (.tmp 76) rfl (w.heap.size + 1) rfl (bcs L).toArray rfl 23 _ H1.out.res (by rw [List.size_toArray, bcs_len, HLL.out]; exact size23) (by rw [List.size_toArray, bcs_len, HLL.out]; rfl) (bcs_one _) ?_; intro x5 hh hg hz; have HH := Lib.hid hh; have HG := Lib.hid hg; clear hh hg hz)) | fail)
              refine bodyPost_ret (results_cell_row rfl _ _ (w.heap.size + 1) 23 (bcs L).toArray _ _ rfl HH.out under23 rfl (by rw [List.size_toArray, bcs_len, HLL.out]; exact size23)) rfl ?_
              exact ⟨by rw [HLE.out], H1.out.bel.grown HG.out H1.out.bel.size (fun r hr => by injection hr; omega)⟩
        · have h31i : ((b31 : Int) != 127) = true := by simp; omega
          have HR : Hid (vN (V % PP) = .agg (bcs l).toArray) := by have h := HLA.out (Or.inr (Or.inl h31)); unfold vN; rw [← h]; exact Lib.hid rfl
          go_wp2_with (first | ((with_reducible show wpList _ _ _ (⟨_, .load 23 (.tmp 3), _, _, _, _⟩ :: _) _ _); go_must (refine wpList_load_arr rfl 23 (.tmp 3) rfl g 0 rfl (bcs l) (fun i u hu => by rw [Nat.zero_add]; exact row_cells HT.out i u (by simpa using hu)) _ under23 rfl (by rw [bcs_len, HBL.out]; exact size23) ?_)) | ((with_reducible show wpList _ _ _ (⟨none, .store 23 (.tmp 2) (.tmp 63), _, _, _, _⟩ :: _) _ _); go_must (refine wpList_store_all rfl 23 (.tmp 2) (.tmp 63) rfl (w.heap.size + 1) rfl (bcs l).toArray rfl 23 _ H.out.res (by rw [List.size_toArray, bcs_len, HBL.out]; exact size23) (by rw [List.size_toArray, bcs_len, HBL.out]; rfl) (bcs_one _) ?_; intro x5 hh hg hz; have HH := Lib.hid hh; have HG := Lib.hid hg; clear hh hg hz)) | fail)
          refine bodyPost_ret (results_cell_row rfl _ _ (w.heap.size + 1) 23 (bcs l).toArray _ _ rfl HH.out under23 rfl (by rw [List.size_toArray, bcs_len, HBL.out]; exact size23)) rfl ?_
          exact ⟨by rw [HR.out], H.out.bel.grown HG.out H.out.bel.size (fun r hr => by injection hr; omega)⟩

theorem Close_gives (o : List Nat) (h : R10 o) (w : World) : Calls Try.prog 67 #[.agg (ics o).toArray] w (Gives (vN (val10 o % PP)) w) := by
  obtain ⟨hx, h2⟩ := cry4 o h
  have l1 : (cry o 10).length = 10 := (cry_len _ _).trans h.1
  have hs : ∀ z : List Nat, X10 z → ∀ i, i < 10 → z.getD i 0 < 4611686018427387904 := fun z hz i hi => by
    have := hz.2 i hi
    have : m10 i ≤ 67108864 := by unfold m10; split <;> decide
    omega
  have e : cry (cry (cry o 10) 10) 10 = cry (cry o 10) 10 := cry_id _ hx 10 (Nat.le_refl _)
  have k := Close_core o (cry o 10) (cry (cry o 10) 10) _ w (Lib.hid h.1) (Lib.hid l1) (Lib.hid hx) (Lib.hid rfl) (Lib.hid (X10_val _ hx))
    (Lib.hid fun w => carry_any o h.1 (fun i hi => by have := (h.2 i hi).1; omega) w)
    (Lib.hid fun w => carry_any _ l1 (fun i hi => ?_) w)
    (Lib.hid fun w => by
      have q := carry_any (cry (cry o 10) 10) hx.1 (hs _ hx) w
      rw [e] at q
      exact q)
  · rw [cry_res _ l1, cry_res _ h.1] at k
    exact k
  · obtain ⟨k1, _, _, k4⟩ := cry_bnd o h.1 67109889 5 (fun i hi => by have := (h.2 i hi).1; omega) (by decide) 10 (Nat.le_refl _)
    by_cases h0 : i = 0
    · subst h0
      have := k4 rfl
      omega
    · have := k1 i hi (by omega)
      have : m10 i ≤ 67108864 := by unfold m10; split <;> decide
      omega
end Go.Proofs.Ytgdimnbdnepbgaa
/- The reference's Rest and Canon. No statement is proved here. -/
namespace Go.Proofs.Ytgdimnbdnepbgaa
open Go.RowKit
set_option linter.unusedVariables false
set_option maxRecDepth 40000
set_option linter.unusedSimpArgs false

set_option maxHeartbeats 400000 in
theorem rRest_core (a r : Nat) (z : List Nat) (w : World) (HO : Hid (∀ w, Calls Try.prog 68 #[vN a] w (Gives (.agg (ics z).toArray) w))) (HC : Hid (∀ w, Calls Try.prog 67 #[.agg (ics z).toArray] w (Gives (vN r) w))) :
    Calls Try.prog 14 #[vN a] w (Gives (vN r) w) := by
  go_enter Try.func14, Try.ntmps14
  go_wp2_with (first | ((with_reducible show wpList _ _ _ (⟨some 1, .box 23 (.tmp 0), _, _, _, _⟩ :: _) _ _); go_must (refine wpList_box_row rfl 23 (.tmp 0) rfl (bcs (enc a)).toArray rfl ?_; intro w1 h1 z1 g1; have H1 := Lib.hid h1; have Z1 := Lib.hid z1; have G1 := Lib.hid g1; clear h1 z1 g1)) | ((with_reducible show wpList _ _ _ (⟨some 2, .alloc 23, _, _, _, _⟩ :: _) _ _); go_must (refine wpList_alloc_row rfl 23 rfl (.agg (zbs 32)) zero23 ?_; intro w2 h1 z1 g1; have H2 := Lib.hid h1; have Z2 := Lib.hid z1; have G2 := Lib.hid g1; clear h1 z1 g1; have R : Hid (NAt w2 w.heap.size a) := NAt.grown ⟨23, H1.out⟩ G2.out (by simp))) | ((with_reducible show wpList _ _ _ (⟨_, .load 23 (.tmp 1), _, _, _, _⟩ :: _) _ _); go_must (refine wpList_exec rfl (vN a) (exec_load23 (.tmp 1) rfl (w.heap.size) a rfl R.out) ?_)))
  have HB : Hid (Below w.heap.size w w2) := (below_of_grownBy G1.out).trans ((below_of_grownBy G2.out).mono (by have := Z1.out; omega))
  have HR2 : Hid (ZAt w2 (w.heap.size + 1)) := by
    have h := H2.out
    rw [Z1.out] at h
    exact h
  rw [show w1.heap.size = w.heap.size + 1 from Z1.out]
  clear H1 Z1 G1 H2 Z2 G2 R
  refine (HO.out _).mono ?_
  rintro e x3 ⟨rfl, hb⟩
  have HR3 := Lib.hid (HR2.out.keep hb)
  have HB3 := Lib.hid (HB.out.trans (hb.mono HB.out.size))
  clear hb HB HR2 HO
  go_wp2_with fail
  refine (HC.out _).mono ?_
  rintro e x4 ⟨rfl, hb⟩
  have HRow : Hid (x4.heap[w.heap.size + 1]? = some (.cells (zbs 32) 23 (0, 0))) := HR3.out.keep hb
  have HBel := Lib.hid (HB3.out.trans (hb.mono HB3.out.size))
  clear hb HB3 HR3 HC
  go_wp2_with ((with_reducible show wpList _ _ _ (⟨none, .store 23 (.tmp 2) (.tmp 5), _, _, _, _⟩ :: _) _ _); go_must (refine wpList_store_all rfl 23 (.tmp 2) (.tmp 5) rfl (w.heap.size + 1) rfl (bcs (enc r)).toArray rfl 23 _ HRow.out (by rw [List.size_toArray, bcs_enc_len]; exact size23) (by rw [List.size_toArray, bcs_enc_len]; rfl) (bcs_one _) ?_; intro x5 hh hg hz; have HH := Lib.hid hh; have HG := Lib.hid hg; clear hh hg hz))
  refine bodyPost_ret (results_cell_row rfl _ _ (w.heap.size + 1) 23 (bcs (enc r)).toArray _ _ rfl HH.out under23 rfl (by rw [List.size_toArray, bcs_enc_len]; exact size23)) rfl ?_
  exact ⟨rfl, HBel.out.grown HG.out HBel.out.size (fun r hr => by injection hr; omega)⟩

set_option maxHeartbeats 400000 in
theorem rCanon_core (a r : Nat) (b : Bool) (w : World) (H11 : Hid (∀ w, Calls Try.prog 14 #[vN a] w (Gives (vN r) w))) (HE : Hid (∀ w, (Op.equalIn 10000 23 (vN r) (vN a)).run Try.prog w = .ok b w)) :
    Calls Try.prog 16 #[vN a] w (Gives (.bool b) w) := by
  go_enter Try.func16, Try.ntmps16
  go_wp2_with ((with_reducible show wpList _ _ _ (⟨some 1, .box 23 (.tmp 0), _, _, _, _⟩ :: _) _ _); go_must (refine wpList_box_row rfl 23 (.tmp 0) rfl (bcs (enc a)).toArray rfl ?_; intro w1 h1 z1 g1; have H1 := Lib.hid h1; have Z1 := Lib.hid z1; have G1 := Lib.hid g1; clear h1 z1 g1))
  have R : Hid (NAt w1 w.heap.size a) := ⟨23, H1.out⟩
  have HB : Hid (Below w.heap.size w w1) := below_of_grownBy G1.out
  clear H1 Z1 G1
  refine region_wq (by kernel_rfl) (by kernel_rfl) ?_
  refine wq_load rfl (.tmp 1) rfl (w.heap.size) a rfl R.out ?_
  simp only [Act.put, List.setIfInBounds_toArray, List.set_cons_zero, List.set_cons_succ]
  refine wq_call rfl 14 [.tmp 3] #[23] rfl [vN a] rfl (CG14 _) (vN r) H11.out ?_
  simp only [Act.put, List.setIfInBounds_toArray, List.set_cons_zero, List.set_cons_succ]
  refine wq_load rfl (.tmp 1) rfl (w.heap.size) a rfl R.out ?_
  simp only [Act.put, List.setIfInBounds_toArray, List.set_cons_zero, List.set_cons_succ]
  refine wq_eq rfl (.tmp 4) (.tmp 5) rfl r a rfl rfl b HE.out ?_
  simp only [Act.put, List.setIfInBounds_toArray, List.set_cons_zero, List.set_cons_succ]
  refine wq_assign rfl (.tmp 6) rfl (.bool b) rfl ?_
  simp only [Act.put, List.setIfInBounds_toArray, List.set_cons_zero, List.set_cons_succ]
  refine wq_nil ?_
  intro w2 hb
  have HB2 : Hid (Below w.heap.size w w2) := HB.out.trans (hb.mono HB.out.size)
  clear hb HB
  go_wp2
  go_ret
  exact ⟨rfl, HB2.out⟩

theorem rOpen (a : Nat) (ha : a < TT) : ∃ z, R10 z ∧ val10 z % PP = a % PP ∧ ∀ w, Calls Try.prog 68 #[vN a] w (Gives (.agg (ics z).toArray) w) := by
  obtain ⟨z, h1, h2, h3⟩ := Open_gives (enc a) (enc_len a)
  rw [nv_enc a ha] at h2
  exact ⟨z, h1, h2, h3⟩
theorem rRest_any (a : Nat) (ha : a < TT) (w : World) : Calls Try.prog 14 #[vN a] w (Gives (vN (a % PP)) w) := by
  obtain ⟨z, h1, h2, h3⟩ := rOpen a ha
  rw [← h2]
  exact rRest_core a _ z w (Lib.hid h3) (Lib.hid fun w => Close_gives z h1 w)
theorem rCanon_any (a : Nat) (ha : a < TT) (w : World) : Calls Try.prog 16 #[vN a] w (Gives (.bool (decide (a = a % PP))) w) := by
  have h := rCanon_core a (a % PP) _ w (Lib.hid fun w => rRest_any a ha w) (Lib.hid fun w => eqN _ a (modT a) ha w)
  rw [show decide (a % PP = a) = decide (a = a % PP) from by simp [eq_comm]] at h
  exact h
end Go.Proofs.Ytgdimnbdnepbgaa
/- The reference's Of and shifted. No statement is proved here. -/
namespace Go.Proofs.Ytgdimnbdnepbgaa
open Go.RowKit
set_option linter.unusedVariables false
set_option maxRecDepth 40000
set_option linter.unusedSimpArgs false

/-- The memory of Of and shifted. -/
structure Sz (w : World) (l : List UInt8) (w' : World) : Prop where
  res : w'.heap[w.heap.size]? = some (.cells (zbs 32) 23 (0, 0))
  b : BAt w' (w.heap.size + 1) l
  bel : Below w.heap.size w w'
theorem Sz.set {w : World} {l l' : List UInt8} {w' w'' : World} {t : TypeId} (h : Sz w l w') (hg : w'.grownBy w'' (some (w.heap.size + 1))) (hl : l'.length = 32) (hh : w''.heap[w.heap.size + 1]? = some (.cells (bcs l').toArray t (0, 0))) : Sz w l' w'' :=
  ⟨(hg.block _ (Array.getElem?_eq_some_iff.1 h.res).1 (by simp)).trans h.res, ⟨hl, t, hh⟩, h.bel.grown hg h.bel.size (fun r hr => by injection hr; omega)⟩
theorem Sz.start {w w1 w2 : World} (h1 : w1.heap[w.heap.size]? = some (.cells (zbs 32) 23 (0, 0))) (z1 : w1.heap.size = w.heap.size + 1) (g1 : w.grownBy w1 none)
    (h2 : w2.heap[w1.heap.size]? = some (.cells (zbs 32) 23 (0, 0))) (g2 : w1.grownBy w2 none) : Sz w (List.replicate 32 0) w2 := by
  have b1 := below_of_grownBy g1
  have b2 := below_of_grownBy g2
  rw [z1] at h2 b2
  exact ⟨(b2.block _ (by omega)).trans h1, ⟨rfl, 23, h2⟩, b1.trans (b2.mono (by omega))⟩

set_option maxHeartbeats 2000000 in
theorem rOf_core (x : Nat) (hx : x < 18446744073709551616) (w : World) : Calls Try.prog 18 #[.int .u64 x] w (Gives (vN x) w) := by
  have HX := Lib.hid hx
  clear hx
  go_enter Try.func18, Try.ntmps18
  go_wp2_with (first | ((with_reducible show wpList _ _ _ (⟨some 2, .alloc 23, _, _, _, _⟩ :: _) _ _); go_must (refine wpList_alloc_row rfl 23 rfl (.agg (zbs 32)) zero23 ?_; intro w1 h1 z1 g1; have H1 := Lib.hid h1; have Z1 := Lib.hid z1; have G1 := Lib.hid g1; clear h1 z1 g1)) | ((with_reducible show wpList _ _ _ (⟨some 3, .alloc 23, _, _, _, _⟩ :: _) _ _); go_must (refine wpList_alloc_row rfl 23 rfl (.agg (zbs 32)) zero23 ?_; intro w2 h1 z1 g1; have H2 := Lib.hid h1; have G2 := Lib.hid g1; clear h1 z1 g1)))
  have S : Hid (Sz w (List.replicate 32 0) w2) := Sz.start H1.out Z1.out G1.out H2.out G2.out
  rw [show w1.heap.size = w.heap.size + 1 from Z1.out]
  clear H1 Z1 G1 H2 G2
  go_loopw [4] (fun i wr => ∃ n : Nat, ∃ l : List UInt8, n ≤ 8 ∧ i = .int .i64 n ∧ leb l = x % 256 ^ n ∧ Sz w l wr) (fun i _ => 8 - (intOf i).toNat)
  case atStart => exact ⟨0, _, by omega, rfl, (show leb (List.replicate 32 0) = x % 256 ^ 0 by rw [Nat.pow_zero, Nat.mod_one]; rfl), S.out⟩
  case round =>
    obtain ⟨n, l, hn, rfl, hv, hp⟩ := hrel
    have H := Lib.hid hp
    have HVL := Lib.hid hv
    clear hp S hv
    have HBL : Hid (l.length = 32) := H.out.b.1
    obtain ⟨t, ht⟩ := H.out.b.2
    have HT := Lib.hid ht
    clear ht
    by_cases hlt : n < 8
    · have hni : (n : Int) < 8 := by omega
      go_wp2_with (first | ((with_reducible show wpList _ _ _ (⟨none, .store 5 (.tmp 16) (.tmp 15), _, _, _, _⟩ :: _) _ _); go_must (refine wpList_store_one rfl 5 (.tmp 16) (.tmp 15) rfl (w.heap.size + 1) n rfl .u8 _ rfl t _ HT.out size5 (by simp only [List.size_toArray, bcs_len]; have := HBL.out; omega) ?_; intro x5 hh hg hz; have HH := Lib.hid hh; have HG := Lib.hid hg; clear hh hg hz)) | fail)
      have hh := HH.out
      have h0 : (l.getD n 0).toNat = 0 := by
        rw [← leb_byte, HVL.out, Nat.div_eq_of_lt (Nat.mod_lt _ (Nat.pow_pos (by decide)))]
      have hs := leb_set l n (UInt8.ofNat (x / 256 ^ n)) (by have := HBL.out; omega)
      rw [h0, Nat.mul_zero, Nat.add_zero, of_byte, HVL.out, ← Nat.mod_pow_succ] at hs
      have e : ((x : Int) / 2 ^ (8 * n)) % 256 = ((x / 256 ^ n % 256 : Nat) : Int) := by
        rw [show ((2 : Int) ^ (8 * n)) = ((256 ^ n : Nat) : Int) from by rw [Int.pow_mul]; simp]
        simp
      have e2 : Value.int IntKind.u8 (((x : Int) / 2 ^ (8 * n)) % 256) = bc (UInt8.ofNat (x / 256 ^ n)) := by rw [e]; unfold bc; rw [of_byte]
      rw [e2, bcs_put] at hh
      exact ⟨⟨n + 1, _, by omega, by go_num, hs, H.out.set HG.out (by rw [List.length_set]; exact HBL.out) hh⟩, by simp [intOf]; omega⟩
    · obtain rfl : n = 8 := by omega
      have hl : l = enc x := by
        rw [leb_inj l HBL.out, HVL.out, Nat.mod_eq_of_lt HX.out]
      have HL := Lib.hid hl
      clear HVL hl
      go_wp2_with (first | ((with_reducible show wpList _ _ _ (⟨_, .load 23 (.tmp 3), _, _, _, _⟩ :: _) _ _); go_must (refine wpList_load_arr rfl 23 (.tmp 3) rfl (w.heap.size + 1) 0 rfl (bcs l) (fun i u hu => by rw [Nat.zero_add]; exact row_cells HT.out i u (by simpa using hu)) _ under23 rfl (by rw [bcs_len, HBL.out]; exact size23) ?_)) | ((with_reducible show wpList _ _ _ (⟨none, .store 23 (.tmp 2) (.tmp 17), _, _, _, _⟩ :: _) _ _); go_must (refine wpList_store_all rfl 23 (.tmp 2) (.tmp 17) rfl (w.heap.size) rfl (bcs l).toArray rfl 23 _ H.out.res (by rw [List.size_toArray, bcs_len, HBL.out]; exact size23) (by rw [List.size_toArray, bcs_len, HBL.out]; rfl) (bcs_one _) ?_; intro x5 hh hg hz; have HH := Lib.hid hh; have HG := Lib.hid hg; clear hh hg hz)) | fail)
      refine bodyPost_ret (results_cell_row rfl _ _ (w.heap.size) 23 (bcs l).toArray _ _ rfl HH.out under23 rfl (by rw [List.size_toArray, bcs_len, HBL.out]; exact size23)) rfl ?_
      exact ⟨by rw [HL.out]; rfl, H.out.bel.grown HG.out H.out.bel.size (fun r hr => by injection hr; omega)⟩
end Go.Proofs.Ytgdimnbdnepbgaa
