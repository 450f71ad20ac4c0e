/- The curve: D, Zero, Base, onCurve, Check, Add, Neg. No statement is proved here. -/
import Derived.Test.YtgdimnbdnepbgaaEE
namespace Go.Proofs.Ytgdimnbdnepbgaa
open Go.RowKit
set_option linter.unusedVariables false
set_option maxRecDepth 40000
set_option linter.unusedSimpArgs false

def dN : Nat := 37095705934669439343138083508754565189542113879843219016388785533085940283555
def bxN : Nat := 15112221349535400772501151409588531511454012693041857206046113283949847762202
def byN : Nat := 46316835694926478169428394003475163141307993866256225615783033603165251855960
theorem Keeps.method {G : Nat → Prop} {w x y : World} {r : Nat} (h : Keeps G w x) (hk : Keeps (· = r) x y) (hr : w.heap.size ≤ r) : Keeps G w y :=
  ⟨hk.os.trans h.os, hk.tape.trans h.tape, hk.output.trans h.output, Nat.le_trans h.size hk.size, fun k hlt hn => (hk.block k (Nat.lt_of_lt_of_le hlt h.size) (by show ¬ _ = _; omega)).trans (h.block k hlt hn)⟩
theorem exec_buildc {o : Oper} {a : Act} {w : World} {t : TypeId} {parts : Array (Nat × Operand)} {v : Value} (ho : o.op = .build t parts) (h : (Instr.build t (parts.map fun (i, x) => (i, a.eval x))).run Try.prog w = .ok v w) : (execOp a.eval o).run Try.prog w = .ok (.value v) w := by
  unfold execOp
  simp only [ho, Sem.run_bind, Sem.run_pure]
  rw [h]
  rfl
theorem run_build35_1 (n : Nat) (w : World) : (Instr.build 35 #[(1, vN n)]).run Try.prog w = .ok (vR [0, n]) w := by kernel_rfl
theorem exec_build35_1 {o : Oper} {a : Act} {w : World} (x : Operand) (n : Nat) (ho : o.op = .build 35 #[(1, x)]) (hx : a.eval x = vN n) : (execOp a.eval o).run Try.prog w = .ok (.value (vR [0, n])) w := by
  unfold execOp
  simp only [ho, List.map_toArray, List.map_cons, List.map_nil, Sem.run_bind, Sem.run_pure, hx]
  rw [run_build35_1 n w]
  rfl

set_option maxHeartbeats 1000000 in
theorem D_any (w : World) : Calls Try.prog 45 #[] w (Gives (vN dN) w) := by
  have HF_0 : Hid (Below w.heap.size w w) := Lib.hid (Below.refl _ _)
  go_enter Try.func45, Try.ntmps45
  go_wp2_with (first | ((with_reducible show wpList _ _ _ (⟨some 0, .alloc 23, _, _, _, _⟩ :: _) _ _); go_must (refine wpList_alloc_row rfl 23 rfl (.agg (zbs 32)) zero23 ?_; intro u1 ha1 hza1 hga1; have Ngr_1 : Hid (RAt u1 w.heap.size [0]) := Lib.hid (zrow (k := 1) ha1); have HF_1 : Hid (Below w.heap.size w u1) := Lib.hid (HF_0.out.grown hga1 HF_0.out.size (by simp)); have HGE1 : Hid (w.heap.size ≤ w.heap.size) := Lib.hid HF_0.out.size; clear ha1 hza1 hga1 HF_0)) | ((with_reducible show wpList _ _ _ (⟨some 1, .build 23 _, _, _, _, _⟩ :: _) _ _); go_must (refine wpList_exec rfl (vN dN) (exec_buildc rfl (by kernel_rfl)) ?_)) | ((with_reducible show wpList _ _ _ (⟨none, .store 23 (.tmp 0) (.tmp 1), _, _, _, _⟩ :: _) _ _); go_must (refine wpList_storeF rfl (.tmp 0) (.tmp 1) rfl (w.heap.size) 0 0 rfl [0] dN rfl rfl Ngr_1.out (show 0 < 1 by omega) ?_; intro y2 hr2 hg2 hz2; have Ngr_2 : Hid (RAt y2 w.heap.size [dN]) := Lib.hid hr2; have HF_2 : Hid (Below w.heap.size w y2) := Lib.hid (HF_1.out.grown hg2 HF_1.out.size (fun r hr => by injection hr with hr; have := HGE1.out; omega)); clear hr2 hg2 hz2 Ngr_1 HF_1)) | fail)
  obtain ⟨tr, htr⟩ := Ngr_2.out
  refine bodyPost_ret (results_cell_row rfl _ _ w.heap.size tr (bcs (encs [dN])).toArray _ _ rfl htr under23 rfl (by rw [List.size_toArray, bcs_len, encs_len]; exact size23)) rfl ?_
  exact ⟨by rw [← vR_one]; rfl, HF_2.out⟩

set_option maxHeartbeats 1000000 in
theorem Zero_any (w : World) : Calls Try.prog 39 #[] w (Gives (vR [0, 1]) w) := by
  have HF_0 : Hid (Below w.heap.size w w) := Lib.hid (Below.refl _ _)
  go_enter Try.func39, Try.ntmps39
  go_wp2_with (first | ((with_reducible show wpList _ _ _ (⟨some 0, .alloc 35, _, _, _, _⟩ :: _) _ _); go_must (refine wpList_alloc_row rfl 35 rfl (.agg (zbs 64)) zero35 ?_; intro u3 ha3 hza3 hga3; have Ngr_3 : Hid (RAt u3 w.heap.size [0, 0]) := Lib.hid (zrow (k := 2) ha3); have HF_3 : Hid (Below w.heap.size w u3) := Lib.hid (HF_0.out.grown hga3 HF_0.out.size (by simp)); have HGE3 : Hid (w.heap.size ≤ w.heap.size) := Lib.hid HF_0.out.size; clear ha3 hza3 hga3 HF_0)) | ((with_reducible show wpList _ _ _ (⟨some 1, .build 23 _, _, _, _, _⟩ :: _) _ _); go_must (refine wpList_exec rfl (vN 1) (exec_buildc rfl (by kernel_rfl)) ?_)) | ((with_reducible show wpList _ _ _ (⟨some 2, .build 35 _, _, _, _, _⟩ :: _) _ _); go_must (refine wpList_exec rfl (vR [0, 1]) (exec_build35_1 (.tmp 1) 1 rfl rfl) ?_)) | ((with_reducible show wpList _ _ _ (⟨none, .store 35 (.tmp 0) (.tmp 2), _, _, _, _⟩ :: _) _ _); go_must (refine wpList_storeP rfl (.tmp 0) (.tmp 2) rfl (w.heap.size) [0, 0] 0 1 rfl rfl Ngr_3.out rfl ?_; intro y4 hr4 hg4 hz4; have Ngr_4 : Hid (RAt y4 w.heap.size [0, 1]) := Lib.hid hr4; have HF_4 : Hid (Below w.heap.size w y4) := Lib.hid (HF_3.out.grown hg4 HF_3.out.size (fun r hr => by injection hr with hr; have := HGE3.out; omega)); clear hr4 hg4 hz4 Ngr_3 HF_3)) | fail)
  go_wp2_with fail
  obtain ⟨tr, htr⟩ := Ngr_4.out
  refine bodyPost_ret (results_cell_row rfl _ _ w.heap.size tr (bcs (encs [0, 1])).toArray _ _ rfl htr Try.underlying35 rfl (by rw [List.size_toArray, bcs_len, encs_len]; exact size35)) rfl ?_
  exact ⟨rfl, HF_4.out⟩

set_option maxHeartbeats 1000000 in
theorem Base_any (w : World) : Calls Try.prog 42 #[] w (Gives (vR [bxN, byN]) w) := by
  have HF_0 : Hid (Below w.heap.size w w) := Lib.hid (Below.refl _ _)
  go_enter Try.func42, Try.ntmps42
  go_wp2_with (first | ((with_reducible show wpList _ _ _ (⟨some 0, .alloc 35, _, _, _, _⟩ :: _) _ _); go_must (refine wpList_alloc_row rfl 35 rfl (.agg (zbs 64)) zero35 ?_; intro u5 ha5 hza5 hga5; have Ngr_5 : Hid (RAt u5 w.heap.size [0, 0]) := Lib.hid (zrow (k := 2) ha5); have HF_5 : Hid (Below w.heap.size w u5) := Lib.hid (HF_0.out.grown hga5 HF_0.out.size (by simp)); have HGE5 : Hid (w.heap.size ≤ w.heap.size) := Lib.hid HF_0.out.size; clear ha5 hza5 hga5 HF_0)) | ((with_reducible show wpList _ _ _ (⟨some 1, .build 23 _, _, _, _, _⟩ :: _) _ _); go_must (refine wpList_exec rfl (vN bxN) (exec_buildc rfl (by kernel_rfl)) ?_)) | ((with_reducible show wpList _ _ _ (⟨some 2, .build 23 _, _, _, _, _⟩ :: _) _ _); go_must (refine wpList_exec rfl (vN byN) (exec_buildc rfl (by kernel_rfl)) ?_)) | ((with_reducible show wpList _ _ _ (⟨some 3, .build 35 _, _, _, _, _⟩ :: _) _ _); go_must (refine wpList_exec rfl (vR [bxN, byN]) (exec_build35 (.tmp 1) (.tmp 2) bxN byN rfl rfl rfl) ?_)) | ((with_reducible show wpList _ _ _ (⟨none, .store 35 (.tmp 0) (.tmp 3), _, _, _, _⟩ :: _) _ _); go_must (refine wpList_storeP rfl (.tmp 0) (.tmp 3) rfl (w.heap.size) [0, 0] bxN byN rfl rfl Ngr_5.out rfl ?_; intro y6 hr6 hg6 hz6; have Ngr_6 : Hid (RAt y6 w.heap.size [bxN, byN]) := Lib.hid hr6; have HF_6 : Hid (Below w.heap.size w y6) := Lib.hid (HF_5.out.grown hg6 HF_5.out.size (fun r hr => by injection hr with hr; have := HGE5.out; omega)); clear hr6 hg6 hz6 Ngr_5 HF_5)) | fail)
  go_wp2_with fail
  obtain ⟨tr, htr⟩ := Ngr_6.out
  refine bodyPost_ret (results_cell_row rfl _ _ w.heap.size tr (bcs (encs [bxN, byN])).toArray _ _ rfl htr Try.underlying35 rfl (by rw [List.size_toArray, bcs_len, encs_len]; exact size35)) rfl ?_
  exact ⟨rfl, HF_6.out⟩

set_option maxHeartbeats 4000000 in
theorem onCurve_core (x y xx yy l dd m dm r : Nat) (b : Bool) (w : World)
    (C0 : Hid (∀ w, Calls Try.prog 25 #[vN x, vN x] w (Gives (vN xx) w)))
    (C1 : Hid (∀ w, Calls Try.prog 25 #[vN y, vN y] w (Gives (vN yy) w)))
    (C2 : Hid (∀ w, Calls Try.prog 21 #[vN yy, vN xx] w (Gives (vN l) w)))
    (C3 : Hid (∀ w, Calls Try.prog 17 #[.int .u64 1] w (Gives (vN 1) w)))
    (C4 : Hid (∀ w, Calls Try.prog 45 #[] w (Gives (vN dd) w)))
    (C5 : Hid (∀ w, Calls Try.prog 25 #[vN xx, vN yy] w (Gives (vN m) w)))
    (C6 : Hid (∀ w, Calls Try.prog 25 #[vN dd, vN m] w (Gives (vN dm) w)))
    (C7 : Hid (∀ w, Calls Try.prog 19 #[vN 1, vN dm] w (Gives (vN r) w)))
    (HE : Hid (∀ w, (Op.equalIn 10000 23 (vN l) (vN r)).run Try.prog w = .ok b w)) :
    Calls Try.prog 79 #[vR [x, y]] w (Gives (.bool b) w) := by
  have HF_0 : Hid (Below w.heap.size w w) := Lib.hid (Below.refl _ _)
  go_enter Try.func79, Try.ntmps79
  go_wp2_with (first | ((with_reducible show wpList _ _ _ (⟨some 1, .box 35 (.tmp 0), _, _, _, _⟩ :: _) _ _); go_must (refine wpList_box_row rfl 35 (.tmp 0) rfl (bcs (encs [x, y])).toArray rfl ?_; intro u7 ha7 hza7 hga7; have Ngp_7 : Hid (RAt u7 w.heap.size [x, y]) := Lib.hid (⟨_, ha7⟩); have HF_7 : Hid (Below w.heap.size w u7) := Lib.hid (HF_0.out.grown hga7 HF_0.out.size (by simp)); have HGE7 : Hid (w.heap.size ≤ w.heap.size) := Lib.hid HF_0.out.size; clear ha7 hza7 hga7 HF_0)) | fail)
  have HLT8_0 : Hid (w.heap.size < u7.heap.size) := Lib.hid Ngp_7.out.lt
  have HLO8 : Hid (w.heap.size ≤ u7.heap.size) := Lib.hid HF_7.out.size
  refine region_split (fun a' W => ∃ a8_0 a8_1, RAt W w.heap.size [x, y] ∧ RAt W a8_0 [xx] ∧ RAt W a8_1 [yy] ∧ u7.heap.size ≤ a8_0 ∧ u7.heap.size ≤ a8_1 ∧ a8_1 ≠ a8_0 ∧ Below w.heap.size w W ∧ a' = ⟨#[vR [x, y], .pointer (some ⟨w.heap.size, 0, none⟩), .bool false, .pointer (some ⟨a8_0, 0, none⟩), .pointer (some ⟨a8_1, 0, none⟩), .pointer (some ⟨w.heap.size, 0, none⟩), vN x, .pointer (some ⟨w.heap.size, 0, none⟩), vN x, vN xx, .pointer (some ⟨w.heap.size, 32, none⟩), vN y, .pointer (some ⟨w.heap.size, 32, none⟩), vN y, vN yy, undef, undef, undef, undef, undef, undef, undef, undef, undef, undef, undef], []⟩) ?_ ?_
  · refine startW (fun j => j == 12 || j == 13) (u7.heap.size) (by kernel_rfl) ?_
    obtain ⟨D8, hD8⟩ : ∃ D, D = u7.drew := ⟨_, rfl⟩
    rw [← hD8]
    have HL_8 : Hid (u7.heap.size ≤ D8.heap.size) := Lib.hid (by rw [hD8]; exact Nat.le_refl _)
    have Ngp_8 : Hid (RAt D8 w.heap.size [x, y]) := Lib.hid (by rw [hD8]; exact Ngp_7.out)
    have HF_8 : Hid (Below w.heap.size w D8) := Lib.hid (by rw [hD8]; exact below_drewN' HF_7.out 1)
    clear hD8 Ngp_7 HF_7
    refine takeAE (i := 0) (oi := { dst := some 5, op := Op.fieldAddr 35 (Operand.tmp 1) 0, type := 0, pos := "curve.go:47", after := #[], guard := none }) rfl (by kernel_rfl) (by kernel_rfl) (by kernel_rfl) (fun _ _ _ _ h => nomatch h.1) (by rfl) ?_
    refine ⟨.pointer (some ⟨w.heap.size, 0, none⟩), fun w' => exec_field 35 (.tmp 1) 0 rfl _ 0 rfl (fld35_0 _), ?_⟩
    simp only [Act.put, List.setIfInBounds_toArray, List.set_cons_zero, List.set_cons_succ]
    refine takeT (i := 1) (oi := { dst := some 6, op := Op.load 23 (Operand.tmp 5), type := 23, pos := "curve.go:47", after := #[{ on := 0, ground := Ground.data }], guard := none }) (vN x) rfl (by kernel_rfl) (by kernel_rfl) (by kernel_rfl) (by kernel_rfl) (by kernel_rfl) (fun _ _ _ h => nomatch h.1) (by rfl) (fun w' hk => exec_loadF (.tmp 5) rfl (w.heap.size) 0 0 rfl [x, y] x rfl (Ngp_8.out.below hk HLT8_0.out) rfl) ?_
    simp only [Act.put, List.setIfInBounds_toArray, List.set_cons_zero, List.set_cons_succ]
    refine takeAE (i := 2) (oi := { dst := some 7, op := Op.fieldAddr 35 (Operand.tmp 1) 0, type := 0, pos := "curve.go:47", after := #[], guard := none }) rfl (by kernel_rfl) (by kernel_rfl) (by kernel_rfl) (fun _ _ _ _ h => nomatch h.1) (by rfl) ?_
    refine ⟨.pointer (some ⟨w.heap.size, 0, none⟩), fun w' => exec_field 35 (.tmp 1) 0 rfl _ 0 rfl (fld35_0 _), ?_⟩
    simp only [Act.put, List.setIfInBounds_toArray, List.set_cons_zero, List.set_cons_succ]
    refine takeT (i := 3) (oi := { dst := some 8, op := Op.load 23 (Operand.tmp 7), type := 23, pos := "curve.go:47", after := #[{ on := 2, ground := Ground.data }], guard := none }) (vN x) rfl (by kernel_rfl) (by kernel_rfl) (by kernel_rfl) (by kernel_rfl) (by kernel_rfl) (fun _ _ _ h => nomatch h.1) (by rfl) (fun w' hk => exec_loadF (.tmp 7) rfl (w.heap.size) 0 0 rfl [x, y] x rfl (Ngp_8.out.below hk HLT8_0.out) rfl) ?_
    simp only [Act.put, List.setIfInBounds_toArray, List.set_cons_zero, List.set_cons_succ]
    refine takeAE (i := 5) (oi := { dst := some 10, op := Op.fieldAddr 35 (Operand.tmp 1) 1, type := 0, pos := "curve.go:47", after := #[], guard := none }) rfl (by kernel_rfl) (by kernel_rfl) (by kernel_rfl) (fun _ _ _ _ h => nomatch h.1) (by rfl) ?_
    refine ⟨.pointer (some ⟨w.heap.size, 32, none⟩), fun w' => exec_field 35 (.tmp 1) 1 rfl _ 32 rfl (fld35_1 _), ?_⟩
    simp only [Act.put, List.setIfInBounds_toArray, List.set_cons_zero, List.set_cons_succ]
    refine takeT (i := 6) (oi := { dst := some 11, op := Op.load 23 (Operand.tmp 10), type := 23, pos := "curve.go:47", after := #[{ on := 5, ground := Ground.data }], guard := none }) (vN y) rfl (by kernel_rfl) (by kernel_rfl) (by kernel_rfl) (by kernel_rfl) (by kernel_rfl) (fun _ _ _ h => nomatch h.1) (by rfl) (fun w' hk => exec_loadF (.tmp 10) rfl (w.heap.size) 1 32 rfl [x, y] y rfl (Ngp_8.out.below hk HLT8_0.out) rfl) ?_
    simp only [Act.put, List.setIfInBounds_toArray, List.set_cons_zero, List.set_cons_succ]
    refine takeAE (i := 7) (oi := { dst := some 12, op := Op.fieldAddr 35 (Operand.tmp 1) 1, type := 0, pos := "curve.go:47", after := #[], guard := none }) rfl (by kernel_rfl) (by kernel_rfl) (by kernel_rfl) (fun _ _ _ _ h => nomatch h.1) (by rfl) ?_
    refine ⟨.pointer (some ⟨w.heap.size, 32, none⟩), fun w' => exec_field 35 (.tmp 1) 1 rfl _ 32 rfl (fld35_1 _), ?_⟩
    simp only [Act.put, List.setIfInBounds_toArray, List.set_cons_zero, List.set_cons_succ]
    refine takeT (i := 8) (oi := { dst := some 13, op := Op.load 23 (Operand.tmp 12), type := 23, pos := "curve.go:47", after := #[{ on := 7, ground := Ground.data }], guard := none }) (vN y) rfl (by kernel_rfl) (by kernel_rfl) (by kernel_rfl) (by kernel_rfl) (by kernel_rfl) (fun _ _ _ h => nomatch h.1) (by rfl) (fun w' hk => exec_loadF (.tmp 12) rfl (w.heap.size) 1 32 rfl [x, y] y rfl (Ngp_8.out.below hk HLT8_0.out) rfl) ?_
    simp only [Act.put, List.setIfInBounds_toArray, List.set_cons_zero, List.set_cons_succ]
    refine eachW [4, 10, 11] (by kernel_rfl) (by simp) ?_
    intro k hk
    simp only [List.mem_cons, List.not_mem_nil, or_false] at hk
    rcases hk with rfl | rfl | rfl
    · refine wpOp_call (i := 4) (oi := { dst := some 9, op := Op.call { callee := Callee.value (Operand.func 25), args := #[Operand.tmp 6, Operand.tmp 8], argTypes := #[23, 23] }, type := 23, pos := "curve.go:47", after := #[{ on := 1, ground := Ground.data }, { on := 3, ground := Ground.data }], guard := none }) rfl (by rfl) (exec_callL 25 [.tmp 6, .tmp 8] #[23, 23] rfl [vN x, vN x] rfl (CG25 _)) ((C0.out D8).mono ?_)
      rintro e9 W9 ⟨rfl, hb9⟩
      refine ⟨_, rfl, fun _ => hb9.mono HL_8.out, ?_⟩
      have Ngp_9 := Lib.hid (Ngp_8.out.keep hb9)
      have HF_9 : Hid (Below w.heap.size w W9) := Lib.hid (HF_8.out.trans (hb9.mono HF_8.out.size))
      have HL_9 : Hid (u7.heap.size ≤ W9.heap.size) := Lib.hid (Nat.le_trans HL_8.out hb9.size)
      clear hb9 HL_8 Ngp_8 HF_8
      simp only [Act.put, List.setIfInBounds_toArray, List.set_cons_zero, List.set_cons_succ]
      refine eachW [9, 10, 11] (by kernel_rfl) (by simp) ?_
      intro k hk
      simp only [List.mem_cons, List.not_mem_nil, or_false] at hk
      rcases hk with rfl | rfl | rfl
      · refine wpOp_call (i := 9) (oi := { dst := some 14, op := Op.call { callee := Callee.value (Operand.func 25), args := #[Operand.tmp 11, Operand.tmp 13], argTypes := #[23, 23] }, type := 23, pos := "curve.go:47", after := #[{ on := 6, ground := Ground.data }, { on := 8, ground := Ground.data }, { on := 4, ground := Ground.chain }], guard := none }) rfl (by rfl) (exec_callL 25 [.tmp 11, .tmp 13] #[23, 23] rfl [vN y, vN y] rfl (CG25 _)) ((C1.out W9).mono ?_)
        rintro e10 W10 ⟨rfl, hb10⟩
        refine ⟨_, rfl, fun _ => hb10.mono HL_9.out, ?_⟩
        have Ngp_10 := Lib.hid (Ngp_9.out.keep hb10)
        have HF_10 : Hid (Below w.heap.size w W10) := Lib.hid (HF_9.out.trans (hb10.mono HF_9.out.size))
        have HL_10 : Hid (u7.heap.size ≤ W10.heap.size) := Lib.hid (Nat.le_trans HL_9.out hb10.size)
        clear hb10 HL_9 Ngp_9 HF_9
        simp only [Act.put, List.setIfInBounds_toArray, List.set_cons_zero, List.set_cons_succ]
        refine eachW [10, 11] (by kernel_rfl) (by simp) ?_
        intro k hk
        simp only [List.mem_cons, List.not_mem_nil, or_false] at hk
        rcases hk with rfl | rfl
        · refine wpOp_value (i := 10) (oi := { dst := some 3, op := Op.alloc 23, type := 0, pos := "curve.go:47", after := #[], guard := none }) rfl (by rfl) (exec_alloc 23 rfl (.agg (zbs 32)) zero23 W10) ⟨fun _ => (below_alloc W10 _).mono HL_10.out, ?_⟩
          obtain ⟨W11, hW11, hb11, hz11⟩ := alloc_zero W10
          rw [← hW11]
          obtain ⟨g11, hg11⟩ : ∃ g, g = W10.heap.size := ⟨_, rfl⟩
          rw [← hg11] at hz11 ⊢
          have HG11 : Hid (u7.heap.size ≤ g11) := Lib.hid (by rw [hg11]; exact HL_10.out)
          have HX11_0 : Hid (w.heap.size ≠ g11) := Lib.hid (by have := Ngp_10.out.lt; omega)
          have Ngp_11 := Lib.hid (Ngp_10.out.keep hb11)
          have HF_11 : Hid (Below w.heap.size w W11) := Lib.hid (HF_10.out.trans (hb11.mono HF_10.out.size))
          have HL_11 : Hid (u7.heap.size ≤ W11.heap.size) := Lib.hid (Nat.le_trans HL_10.out hb11.size)
          have RZ11_11 : Hid (RAt W11 g11 [0]) := Lib.hid (zrow (k := 1) hz11)
          clear hb11 hz11 hg11 hW11 HL_10 Ngp_10 HF_10
          simp only [Act.put, List.setIfInBounds_toArray, List.set_cons_zero, List.set_cons_succ]
          refine opW _ _ (i := 11) (oi := { dst := some 4, op := Op.alloc 23, type := 0, pos := "curve.go:47", after := #[], guard := none }) rfl (by kernel_rfl) (by rfl) (exec_alloc 23 rfl (.agg (zbs 32)) zero23 W11) (fun _ => (below_alloc W11 _).mono HL_11.out) ?_
          obtain ⟨W12, hW12, hb12, hz12⟩ := alloc_zero W11
          rw [← hW12]
          obtain ⟨g12, hg12⟩ : ∃ g, g = W11.heap.size := ⟨_, rfl⟩
          rw [← hg12] at hz12 ⊢
          have HG12 : Hid (u7.heap.size ≤ g12) := Lib.hid (by rw [hg12]; exact HL_11.out)
          have HX12_1 : Hid (w.heap.size ≠ g12) := Lib.hid (by have := Ngp_11.out.lt; omega)
          have HX12_2 : Hid (g11 ≠ g12) := Lib.hid (by have := RZ11_11.out.lt; omega)
          have Ngp_12 := Lib.hid (Ngp_11.out.keep hb12)
          have RZ11_12 := Lib.hid (RZ11_11.out.keep hb12)
          have HF_12 : Hid (Below w.heap.size w W12) := Lib.hid (HF_11.out.trans (hb12.mono HF_11.out.size))
          have HL_12 : Hid (u7.heap.size ≤ W12.heap.size) := Lib.hid (Nat.le_trans HL_11.out hb12.size)
          have RZ12_12 : Hid (RAt W12 g12 [0]) := Lib.hid (zrow (k := 1) hz12)
          clear hb12 hz12 hg12 hW12 HL_11 Ngp_11 RZ11_11 HF_11
          simp only [Act.put, List.setIfInBounds_toArray, List.set_cons_zero, List.set_cons_succ]
          refine storeW_F (i := 12) (oi := { dst := none, op := Op.store 23 (Operand.tmp 3) (Operand.tmp 9), type := 0, pos := "curve.go:47", after := #[{ on := 10, ground := Ground.data }, { on := 4, ground := Ground.data }, { on := 9, ground := Ground.chain }, { on := 0, ground := Ground.phase }, { on := 1, ground := Ground.phase }, { on := 2, ground := Ground.phase }, { on := 3, ground := Ground.phase }, { on := 4, ground := Ground.phase }, { on := 5, ground := Ground.textOnly Departure.lateStores }, { on := 6, ground := Ground.textOnly Departure.lateStores }, { on := 7, ground := Ground.textOnly Departure.lateStores }, { on := 8, ground := Ground.textOnly Departure.lateStores }, { on := 9, ground := Ground.textOnly Departure.lateStoresUnsure }, { on := 10, ground := Ground.phase }, { on := 11, ground := Ground.phase }], guard := none }) rfl (by kernel_rfl) (by rfl) (.tmp 3) (.tmp 9) rfl (g11) 0 0 rfl [0] xx rfl rfl RZ11_12.out (show 0 < 1 by omega) rfl ?_
          intro W13 hr13 hg13 hz13
          simp only [Act.put, List.setIfInBounds_toArray, List.set_cons_zero, List.set_cons_succ]
          have Ngp_13 := Lib.hid (Ngp_12.out.grown hg13 (by have := HX11_0.out; simp; omega))
          have RZ11_13 : Hid (RAt W13 g11 [xx]) := Lib.hid hr13
          have RZ12_13 := Lib.hid (RZ12_12.out.grown hg13 (by have := HX12_2.out; simp; omega))
          have HF_13 : Hid (Below w.heap.size w W13) := Lib.hid (HF_12.out.grown hg13 HF_12.out.size (fun r hr => by injection hr with hr; have := (show w.heap.size ≤ g11 from (by have := HG11.out; have := HLO8.out; omega)); omega))
          have HL_13 : Hid (u7.heap.size ≤ W13.heap.size) := Lib.hid (Nat.le_trans HL_12.out hg13.size)
          clear hr13 hg13 hz13 HL_12 Ngp_12 RZ11_12 RZ12_12 HF_12
          refine storeW_F (i := 13) (oi := { dst := none, op := Op.store 23 (Operand.tmp 4) (Operand.tmp 14), type := 0, pos := "curve.go:47", after := #[{ on := 11, ground := Ground.data }, { on := 9, ground := Ground.data }, { on := 12, ground := Ground.chain }, { on := 0, ground := Ground.phase }, { on := 1, ground := Ground.phase }, { on := 2, ground := Ground.phase }, { on := 3, ground := Ground.phase }, { on := 4, ground := Ground.phase }, { on := 5, ground := Ground.phase }, { on := 6, ground := Ground.phase }, { on := 7, ground := Ground.phase }, { on := 8, ground := Ground.phase }, { on := 9, ground := Ground.phase }, { on := 10, ground := Ground.phase }, { on := 11, ground := Ground.phase }, { on := 12, ground := Ground.phase }], guard := none }) rfl (by kernel_rfl) (by rfl) (.tmp 4) (.tmp 14) rfl (g12) 0 0 rfl [0] yy rfl rfl RZ12_13.out (show 0 < 1 by omega) rfl ?_
          intro W14 hr14 hg14 hz14
          simp only [Act.put, List.setIfInBounds_toArray, List.set_cons_zero, List.set_cons_succ]
          have Ngp_14 := Lib.hid (Ngp_13.out.grown hg14 (by have := HX12_1.out; simp; omega))
          have RZ11_14 := Lib.hid (RZ11_13.out.grown hg14 (by have := HX12_2.out; simp; omega))
          have RZ12_14 : Hid (RAt W14 g12 [yy]) := Lib.hid hr14
          have HF_14 : Hid (Below w.heap.size w W14) := Lib.hid (HF_13.out.grown hg14 HF_13.out.size (fun r hr => by injection hr with hr; have := (show w.heap.size ≤ g12 from (by have := HG12.out; have := HLO8.out; omega)); omega))
          have HL_14 : Hid (u7.heap.size ≤ W14.heap.size) := Lib.hid (Nat.le_trans HL_13.out hg14.size)
          clear hr14 hg14 hz14 HL_13 Ngp_13 RZ11_13 RZ12_13 HF_13
          refine doneW (by kernel_rfl) ⟨rfl, ?_⟩ _
          exact ⟨g11, g12, Ngp_14.out, RZ11_14.out, RZ12_14.out, HG11.out, HG12.out, (by have := HX12_2.out; omega), HF_14.out, rfl⟩
        · refine wpOp_value (i := 11) (oi := { dst := some 4, op := Op.alloc 23, type := 0, pos := "curve.go:47", after := #[], guard := none }) rfl (by rfl) (exec_alloc 23 rfl (.agg (zbs 32)) zero23 W10) ⟨fun _ => (below_alloc W10 _).mono HL_10.out, ?_⟩
          obtain ⟨W15, hW15, hb15, hz15⟩ := alloc_zero W10
          rw [← hW15]
          obtain ⟨g15, hg15⟩ : ∃ g, g = W10.heap.size := ⟨_, rfl⟩
          rw [← hg15] at hz15 ⊢
          have HG15 : Hid (u7.heap.size ≤ g15) := Lib.hid (by rw [hg15]; exact HL_10.out)
          have HX15_0 : Hid (w.heap.size ≠ g15) := Lib.hid (by have := Ngp_10.out.lt; omega)
          have Ngp_15 := Lib.hid (Ngp_10.out.keep hb15)
          have HF_15 : Hid (Below w.heap.size w W15) := Lib.hid (HF_10.out.trans (hb15.mono HF_10.out.size))
          have HL_15 : Hid (u7.heap.size ≤ W15.heap.size) := Lib.hid (Nat.le_trans HL_10.out hb15.size)
          have RZ15_15 : Hid (RAt W15 g15 [0]) := Lib.hid (zrow (k := 1) hz15)
          clear hb15 hz15 hg15 hW15 HL_10 Ngp_10 HF_10
          simp only [Act.put, List.setIfInBounds_toArray, List.set_cons_zero, List.set_cons_succ]
          refine opW _ _ (i := 10) (oi := { dst := some 3, op := Op.alloc 23, type := 0, pos := "curve.go:47", after := #[], guard := none }) rfl (by kernel_rfl) (by rfl) (exec_alloc 23 rfl (.agg (zbs 32)) zero23 W15) (fun _ => (below_alloc W15 _).mono HL_15.out) ?_
          obtain ⟨W16, hW16, hb16, hz16⟩ := alloc_zero W15
          rw [← hW16]
          obtain ⟨g16, hg16⟩ : ∃ g, g = W15.heap.size := ⟨_, rfl⟩
          rw [← hg16] at hz16 ⊢
          have HG16 : Hid (u7.heap.size ≤ g16) := Lib.hid (by rw [hg16]; exact HL_15.out)
          have HX16_1 : Hid (w.heap.size ≠ g16) := Lib.hid (by have := Ngp_15.out.lt; omega)
          have HX16_2 : Hid (g15 ≠ g16) := Lib.hid (by have := RZ15_15.out.lt; omega)
          have Ngp_16 := Lib.hid (Ngp_15.out.keep hb16)
          have RZ15_16 := Lib.hid (RZ15_15.out.keep hb16)
          have HF_16 : Hid (Below w.heap.size w W16) := Lib.hid (HF_15.out.trans (hb16.mono HF_15.out.size))
          have HL_16 : Hid (u7.heap.size ≤ W16.heap.size) := Lib.hid (Nat.le_trans HL_15.out hb16.size)
          have RZ16_16 : Hid (RAt W16 g16 [0]) := Lib.hid (zrow (k := 1) hz16)
          clear hb16 hz16 hg16 hW16 HL_15 Ngp_15 RZ15_15 HF_15
          simp only [Act.put, List.setIfInBounds_toArray, List.set_cons_zero, List.set_cons_succ]
          refine storeW_F (i := 12) (oi := { dst := none, op := Op.store 23 (Operand.tmp 3) (Operand.tmp 9), type := 0, pos := "curve.go:47", after := #[{ on := 10, ground := Ground.data }, { on := 4, ground := Ground.data }, { on := 9, ground := Ground.chain }, { on := 0, ground := Ground.phase }, { on := 1, ground := Ground.phase }, { on := 2, ground := Ground.phase }, { on := 3, ground := Ground.phase }, { on := 4, ground := Ground.phase }, { on := 5, ground := Ground.textOnly Departure.lateStores }, { on := 6, ground := Ground.textOnly Departure.lateStores }, { on := 7, ground := Ground.textOnly Departure.lateStores }, { on := 8, ground := Ground.textOnly Departure.lateStores }, { on := 9, ground := Ground.textOnly Departure.lateStoresUnsure }, { on := 10, ground := Ground.phase }, { on := 11, ground := Ground.phase }], guard := none }) rfl (by kernel_rfl) (by rfl) (.tmp 3) (.tmp 9) rfl (g16) 0 0 rfl [0] xx rfl rfl RZ16_16.out (show 0 < 1 by omega) rfl ?_
          intro W17 hr17 hg17 hz17
          simp only [Act.put, List.setIfInBounds_toArray, List.set_cons_zero, List.set_cons_succ]
          have Ngp_17 := Lib.hid (Ngp_16.out.grown hg17 (by have := HX16_1.out; simp; omega))
          have RZ15_17 := Lib.hid (RZ15_16.out.grown hg17 (by have := HX16_2.out; simp; omega))
          have RZ16_17 : Hid (RAt W17 g16 [xx]) := Lib.hid hr17
          have HF_17 : Hid (Below w.heap.size w W17) := Lib.hid (HF_16.out.grown hg17 HF_16.out.size (fun r hr => by injection hr with hr; have := (show w.heap.size ≤ g16 from (by have := HG16.out; have := HLO8.out; omega)); omega))
          have HL_17 : Hid (u7.heap.size ≤ W17.heap.size) := Lib.hid (Nat.le_trans HL_16.out hg17.size)
          clear hr17 hg17 hz17 HL_16 Ngp_16 RZ15_16 RZ16_16 HF_16
          refine storeW_F (i := 13) (oi := { dst := none, op := Op.store 23 (Operand.tmp 4) (Operand.tmp 14), type := 0, pos := "curve.go:47", after := #[{ on := 11, ground := Ground.data }, { on := 9, ground := Ground.data }, { on := 12, ground := Ground.chain }, { on := 0, ground := Ground.phase }, { on := 1, ground := Ground.phase }, { on := 2, ground := Ground.phase }, { on := 3, ground := Ground.phase }, { on := 4, ground := Ground.phase }, { on := 5, ground := Ground.phase }, { on := 6, ground := Ground.phase }, { on := 7, ground := Ground.phase }, { on := 8, ground := Ground.phase }, { on := 9, ground := Ground.phase }, { on := 10, ground := Ground.phase }, { on := 11, ground := Ground.phase }, { on := 12, ground := Ground.phase }], guard := none }) rfl (by kernel_rfl) (by rfl) (.tmp 4) (.tmp 14) rfl (g15) 0 0 rfl [0] yy rfl rfl RZ15_17.out (show 0 < 1 by omega) rfl ?_
          intro W18 hr18 hg18 hz18
          simp only [Act.put, List.setIfInBounds_toArray, List.set_cons_zero, List.set_cons_succ]
          have Ngp_18 := Lib.hid (Ngp_17.out.grown hg18 (by have := HX15_0.out; simp; omega))
          have RZ15_18 : Hid (RAt W18 g15 [yy]) := Lib.hid hr18
          have RZ16_18 := Lib.hid (RZ16_17.out.grown hg18 (by have := HX16_2.out; simp; omega))
          have HF_18 : Hid (Below w.heap.size w W18) := Lib.hid (HF_17.out.grown hg18 HF_17.out.size (fun r hr => by injection hr with hr; have := (show w.heap.size ≤ g15 from (by have := HG15.out; have := HLO8.out; omega)); omega))
          have HL_18 : Hid (u7.heap.size ≤ W18.heap.size) := Lib.hid (Nat.le_trans HL_17.out hg18.size)
          clear hr18 hg18 hz18 HL_17 Ngp_17 RZ15_17 RZ16_17 HF_17
          refine doneW (by kernel_rfl) ⟨rfl, ?_⟩ _
          exact ⟨g16, g15, Ngp_18.out, RZ16_18.out, RZ15_18.out, HG16.out, HG15.out, (by have := HX16_2.out; omega), HF_18.out, rfl⟩
      · refine wpOp_value (i := 10) (oi := { dst := some 3, op := Op.alloc 23, type := 0, pos := "curve.go:47", after := #[], guard := none }) rfl (by rfl) (exec_alloc 23 rfl (.agg (zbs 32)) zero23 W9) ⟨fun _ => (below_alloc W9 _).mono HL_9.out, ?_⟩
        obtain ⟨W19, hW19, hb19, hz19⟩ := alloc_zero W9
        rw [← hW19]
        obtain ⟨g19, hg19⟩ : ∃ g, g = W9.heap.size := ⟨_, rfl⟩
        rw [← hg19] at hz19 ⊢
        have HG19 : Hid (u7.heap.size ≤ g19) := Lib.hid (by rw [hg19]; exact HL_9.out)
        have HX19_0 : Hid (w.heap.size ≠ g19) := Lib.hid (by have := Ngp_9.out.lt; omega)
        have Ngp_19 := Lib.hid (Ngp_9.out.keep hb19)
        have HF_19 : Hid (Below w.heap.size w W19) := Lib.hid (HF_9.out.trans (hb19.mono HF_9.out.size))
        have HL_19 : Hid (u7.heap.size ≤ W19.heap.size) := Lib.hid (Nat.le_trans HL_9.out hb19.size)
        have RZ19_19 : Hid (RAt W19 g19 [0]) := Lib.hid (zrow (k := 1) hz19)
        clear hb19 hz19 hg19 hW19 HL_9 Ngp_9 HF_9
        simp only [Act.put, List.setIfInBounds_toArray, List.set_cons_zero, List.set_cons_succ]
        refine eachW [9, 11] (by kernel_rfl) (by simp) ?_
        intro k hk
        simp only [List.mem_cons, List.not_mem_nil, or_false] at hk
        rcases hk with rfl | rfl
        · refine wpOp_call (i := 9) (oi := { dst := some 14, op := Op.call { callee := Callee.value (Operand.func 25), args := #[Operand.tmp 11, Operand.tmp 13], argTypes := #[23, 23] }, type := 23, pos := "curve.go:47", after := #[{ on := 6, ground := Ground.data }, { on := 8, ground := Ground.data }, { on := 4, ground := Ground.chain }], guard := none }) rfl (by rfl) (exec_callL 25 [.tmp 11, .tmp 13] #[23, 23] rfl [vN y, vN y] rfl (CG25 _)) ((C1.out W19).mono ?_)
          rintro e20 W20 ⟨rfl, hb20⟩
          refine ⟨_, rfl, fun _ => hb20.mono HL_19.out, ?_⟩
          have Ngp_20 := Lib.hid (Ngp_19.out.keep hb20)
          have RZ19_20 := Lib.hid (RZ19_19.out.keep hb20)
          have HF_20 : Hid (Below w.heap.size w W20) := Lib.hid (HF_19.out.trans (hb20.mono HF_19.out.size))
          have HL_20 : Hid (u7.heap.size ≤ W20.heap.size) := Lib.hid (Nat.le_trans HL_19.out hb20.size)
          clear hb20 HL_19 Ngp_19 RZ19_19 HF_19
          simp only [Act.put, List.setIfInBounds_toArray, List.set_cons_zero, List.set_cons_succ]
          refine opW _ _ (i := 11) (oi := { dst := some 4, op := Op.alloc 23, type := 0, pos := "curve.go:47", after := #[], guard := none }) rfl (by kernel_rfl) (by rfl) (exec_alloc 23 rfl (.agg (zbs 32)) zero23 W20) (fun _ => (below_alloc W20 _).mono HL_20.out) ?_
          obtain ⟨W21, hW21, hb21, hz21⟩ := alloc_zero W20
          rw [← hW21]
          obtain ⟨g21, hg21⟩ : ∃ g, g = W20.heap.size := ⟨_, rfl⟩
          rw [← hg21] at hz21 ⊢
          have HG21 : Hid (u7.heap.size ≤ g21) := Lib.hid (by rw [hg21]; exact HL_20.out)
          have HX21_1 : Hid (w.heap.size ≠ g21) := Lib.hid (by have := Ngp_20.out.lt; omega)
          have HX21_2 : Hid (g19 ≠ g21) := Lib.hid (by have := RZ19_20.out.lt; omega)
          have Ngp_21 := Lib.hid (Ngp_20.out.keep hb21)
          have RZ19_21 := Lib.hid (RZ19_20.out.keep hb21)
          have HF_21 : Hid (Below w.heap.size w W21) := Lib.hid (HF_20.out.trans (hb21.mono HF_20.out.size))
          have HL_21 : Hid (u7.heap.size ≤ W21.heap.size) := Lib.hid (Nat.le_trans HL_20.out hb21.size)
          have RZ21_21 : Hid (RAt W21 g21 [0]) := Lib.hid (zrow (k := 1) hz21)
          clear hb21 hz21 hg21 hW21 HL_20 Ngp_20 RZ19_20 HF_20
          simp only [Act.put, List.setIfInBounds_toArray, List.set_cons_zero, List.set_cons_succ]
          refine storeW_F (i := 12) (oi := { dst := none, op := Op.store 23 (Operand.tmp 3) (Operand.tmp 9), type := 0, pos := "curve.go:47", after := #[{ on := 10, ground := Ground.data }, { on := 4, ground := Ground.data }, { on := 9, ground := Ground.chain }, { on := 0, ground := Ground.phase }, { on := 1, ground := Ground.phase }, { on := 2, ground := Ground.phase }, { on := 3, ground := Ground.phase }, { on := 4, ground := Ground.phase }, { on := 5, ground := Ground.textOnly Departure.lateStores }, { on := 6, ground := Ground.textOnly Departure.lateStores }, { on := 7, ground := Ground.textOnly Departure.lateStores }, { on := 8, ground := Ground.textOnly Departure.lateStores }, { on := 9, ground := Ground.textOnly Departure.lateStoresUnsure }, { on := 10, ground := Ground.phase }, { on := 11, ground := Ground.phase }], guard := none }) rfl (by kernel_rfl) (by rfl) (.tmp 3) (.tmp 9) rfl (g19) 0 0 rfl [0] xx rfl rfl RZ19_21.out (show 0 < 1 by omega) rfl ?_
          intro W22 hr22 hg22 hz22
          simp only [Act.put, List.setIfInBounds_toArray, List.set_cons_zero, List.set_cons_succ]
          have Ngp_22 := Lib.hid (Ngp_21.out.grown hg22 (by have := HX19_0.out; simp; omega))
          have RZ19_22 : Hid (RAt W22 g19 [xx]) := Lib.hid hr22
          have RZ21_22 := Lib.hid (RZ21_21.out.grown hg22 (by have := HX21_2.out; simp; omega))
          have HF_22 : Hid (Below w.heap.size w W22) := Lib.hid (HF_21.out.grown hg22 HF_21.out.size (fun r hr => by injection hr with hr; have := (show w.heap.size ≤ g19 from (by have := HG19.out; have := HLO8.out; omega)); omega))
          have HL_22 : Hid (u7.heap.size ≤ W22.heap.size) := Lib.hid (Nat.le_trans HL_21.out hg22.size)
          clear hr22 hg22 hz22 HL_21 Ngp_21 RZ19_21 RZ21_21 HF_21
          refine storeW_F (i := 13) (oi := { dst := none, op := Op.store 23 (Operand.tmp 4) (Operand.tmp 14), type := 0, pos := "curve.go:47", after := #[{ on := 11, ground := Ground.data }, { on := 9, ground := Ground.data }, { on := 12, ground := Ground.chain }, { on := 0, ground := Ground.phase }, { on := 1, ground := Ground.phase }, { on := 2, ground := Ground.phase }, { on := 3, ground := Ground.phase }, { on := 4, ground := Ground.phase }, { on := 5, ground := Ground.phase }, { on := 6, ground := Ground.phase }, { on := 7, ground := Ground.phase }, { on := 8, ground := Ground.phase }, { on := 9, ground := Ground.phase }, { on := 10, ground := Ground.phase }, { on := 11, ground := Ground.phase }, { on := 12, ground := Ground.phase }], guard := none }) rfl (by kernel_rfl) (by rfl) (.tmp 4) (.tmp 14) rfl (g21) 0 0 rfl [0] yy rfl rfl RZ21_22.out (show 0 < 1 by omega) rfl ?_
          intro W23 hr23 hg23 hz23
          simp only [Act.put, List.setIfInBounds_toArray, List.set_cons_zero, List.set_cons_succ]
          have Ngp_23 := Lib.hid (Ngp_22.out.grown hg23 (by have := HX21_1.out; simp; omega))
          have RZ19_23 := Lib.hid (RZ19_22.out.grown hg23 (by have := HX21_2.out; simp; omega))
          have RZ21_23 : Hid (RAt W23 g21 [yy]) := Lib.hid hr23
          have HF_23 : Hid (Below w.heap.size w W23) := Lib.hid (HF_22.out.grown hg23 HF_22.out.size (fun r hr => by injection hr with hr; have := (show w.heap.size ≤ g21 from (by have := HG21.out; have := HLO8.out; omega)); omega))
          have HL_23 : Hid (u7.heap.size ≤ W23.heap.size) := Lib.hid (Nat.le_trans HL_22.out hg23.size)
          clear hr23 hg23 hz23 HL_22 Ngp_22 RZ19_22 RZ21_22 HF_22
          refine doneW (by kernel_rfl) ⟨rfl, ?_⟩ _
          exact ⟨g19, g21, Ngp_23.out, RZ19_23.out, RZ21_23.out, HG19.out, HG21.out, (by have := HX21_2.out; omega), HF_23.out, rfl⟩
        · refine wpOp_value (i := 11) (oi := { dst := some 4, op := Op.alloc 23, type := 0, pos := "curve.go:47", after := #[], guard := none }) rfl (by rfl) (exec_alloc 23 rfl (.agg (zbs 32)) zero23 W19) ⟨fun _ => (below_alloc W19 _).mono HL_19.out, ?_⟩
          obtain ⟨W24, hW24, hb24, hz24⟩ := alloc_zero W19
          rw [← hW24]
          obtain ⟨g24, hg24⟩ : ∃ g, g = W19.heap.size := ⟨_, rfl⟩
          rw [← hg24] at hz24 ⊢
          have HG24 : Hid (u7.heap.size ≤ g24) := Lib.hid (by rw [hg24]; exact HL_19.out)
          have HX24_1 : Hid (w.heap.size ≠ g24) := Lib.hid (by have := Ngp_19.out.lt; omega)
          have HX24_2 : Hid (g19 ≠ g24) := Lib.hid (by have := RZ19_19.out.lt; omega)
          have Ngp_24 := Lib.hid (Ngp_19.out.keep hb24)
          have RZ19_24 := Lib.hid (RZ19_19.out.keep hb24)
          have HF_24 : Hid (Below w.heap.size w W24) := Lib.hid (HF_19.out.trans (hb24.mono HF_19.out.size))
          have HL_24 : Hid (u7.heap.size ≤ W24.heap.size) := Lib.hid (Nat.le_trans HL_19.out hb24.size)
          have RZ24_24 : Hid (RAt W24 g24 [0]) := Lib.hid (zrow (k := 1) hz24)
          clear hb24 hz24 hg24 hW24 HL_19 Ngp_19 RZ19_19 HF_19
          simp only [Act.put, List.setIfInBounds_toArray, List.set_cons_zero, List.set_cons_succ]
          refine callW (i := 9) (oi := { dst := some 14, op := Op.call { callee := Callee.value (Operand.func 25), args := #[Operand.tmp 11, Operand.tmp 13], argTypes := #[23, 23] }, type := 23, pos := "curve.go:47", after := #[{ on := 6, ground := Ground.data }, { on := 8, ground := Ground.data }, { on := 4, ground := Ground.chain }], guard := none }) rfl (by kernel_rfl) (by rfl) (exec_callL 25 [.tmp 11, .tmp 13] #[23, 23] rfl [vN y, vN y] rfl (CG25 _)) ((C1.out W24).mono ?_)
          rintro e25 W25 ⟨rfl, hb25⟩
          refine ⟨_, rfl, fun _ => hb25.mono HL_24.out, ?_⟩
          have Ngp_25 := Lib.hid (Ngp_24.out.keep hb25)
          have RZ19_25 := Lib.hid (RZ19_24.out.keep hb25)
          have RZ24_25 := Lib.hid (RZ24_24.out.keep hb25)
          have HF_25 : Hid (Below w.heap.size w W25) := Lib.hid (HF_24.out.trans (hb25.mono HF_24.out.size))
          have HL_25 : Hid (u7.heap.size ≤ W25.heap.size) := Lib.hid (Nat.le_trans HL_24.out hb25.size)
          clear hb25 HL_24 Ngp_24 RZ19_24 RZ24_24 HF_24
          simp only [Act.put, List.setIfInBounds_toArray, List.set_cons_zero, List.set_cons_succ]
          refine storeW_F (i := 12) (oi := { dst := none, op := Op.store 23 (Operand.tmp 3) (Operand.tmp 9), type := 0, pos := "curve.go:47", after := #[{ on := 10, ground := Ground.data }, { on := 4, ground := Ground.data }, { on := 9, ground := Ground.chain }, { on := 0, ground := Ground.phase }, { on := 1, ground := Ground.phase }, { on := 2, ground := Ground.phase }, { on := 3, ground := Ground.phase }, { on := 4, ground := Ground.phase }, { on := 5, ground := Ground.textOnly Departure.lateStores }, { on := 6, ground := Ground.textOnly Departure.lateStores }, { on := 7, ground := Ground.textOnly Departure.lateStores }, { on := 8, ground := Ground.textOnly Departure.lateStores }, { on := 9, ground := Ground.textOnly Departure.lateStoresUnsure }, { on := 10, ground := Ground.phase }, { on := 11, ground := Ground.phase }], guard := none }) rfl (by kernel_rfl) (by rfl) (.tmp 3) (.tmp 9) rfl (g19) 0 0 rfl [0] xx rfl rfl RZ19_25.out (show 0 < 1 by omega) rfl ?_
          intro W26 hr26 hg26 hz26
          simp only [Act.put, List.setIfInBounds_toArray, List.set_cons_zero, List.set_cons_succ]
          have Ngp_26 := Lib.hid (Ngp_25.out.grown hg26 (by have := HX19_0.out; simp; omega))
          have RZ19_26 : Hid (RAt W26 g19 [xx]) := Lib.hid hr26
          have RZ24_26 := Lib.hid (RZ24_25.out.grown hg26 (by have := HX24_2.out; simp; omega))
          have HF_26 : Hid (Below w.heap.size w W26) := Lib.hid (HF_25.out.grown hg26 HF_25.out.size (fun r hr => by injection hr with hr; have := (show w.heap.size ≤ g19 from (by have := HG19.out; have := HLO8.out; omega)); omega))
          have HL_26 : Hid (u7.heap.size ≤ W26.heap.size) := Lib.hid (Nat.le_trans HL_25.out hg26.size)
          clear hr26 hg26 hz26 HL_25 Ngp_25 RZ19_25 RZ24_25 HF_25
          refine storeW_F (i := 13) (oi := { dst := none, op := Op.store 23 (Operand.tmp 4) (Operand.tmp 14), type := 0, pos := "curve.go:47", after := #[{ on := 11, ground := Ground.data }, { on := 9, ground := Ground.data }, { on := 12, ground := Ground.chain }, { on := 0, ground := Ground.phase }, { on := 1, ground := Ground.phase }, { on := 2, ground := Ground.phase }, { on := 3, ground := Ground.phase }, { on := 4, ground := Ground.phase }, { on := 5, ground := Ground.phase }, { on := 6, ground := Ground.phase }, { on := 7, ground := Ground.phase }, { on := 8, ground := Ground.phase }, { on := 9, ground := Ground.phase }, { on := 10, ground := Ground.phase }, { on := 11, ground := Ground.phase }, { on := 12, ground := Ground.phase }], guard := none }) rfl (by kernel_rfl) (by rfl) (.tmp 4) (.tmp 14) rfl (g24) 0 0 rfl [0] yy rfl rfl RZ24_26.out (show 0 < 1 by omega) rfl ?_
          intro W27 hr27 hg27 hz27
          simp only [Act.put, List.setIfInBounds_toArray, List.set_cons_zero, List.set_cons_succ]
          have Ngp_27 := Lib.hid (Ngp_26.out.grown hg27 (by have := HX24_1.out; simp; omega))
          have RZ19_27 := Lib.hid (RZ19_26.out.grown hg27 (by have := HX24_2.out; simp; omega))
          have RZ24_27 : Hid (RAt W27 g24 [yy]) := Lib.hid hr27
          have HF_27 : Hid (Below w.heap.size w W27) := Lib.hid (HF_26.out.grown hg27 HF_26.out.size (fun r hr => by injection hr with hr; have := (show w.heap.size ≤ g24 from (by have := HG24.out; have := HLO8.out; omega)); omega))
          have HL_27 : Hid (u7.heap.size ≤ W27.heap.size) := Lib.hid (Nat.le_trans HL_26.out hg27.size)
          clear hr27 hg27 hz27 HL_26 Ngp_26 RZ19_26 RZ24_26 HF_26
          refine doneW (by kernel_rfl) ⟨rfl, ?_⟩ _
          exact ⟨g19, g24, Ngp_27.out, RZ19_27.out, RZ24_27.out, HG19.out, HG24.out, (by have := HX24_2.out; omega), HF_27.out, rfl⟩
      · refine wpOp_value (i := 11) (oi := { dst := some 4, op := Op.alloc 23, type := 0, pos := "curve.go:47", after := #[], guard := none }) rfl (by rfl) (exec_alloc 23 rfl (.agg (zbs 32)) zero23 W9) ⟨fun _ => (below_alloc W9 _).mono HL_9.out, ?_⟩
        obtain ⟨W28, hW28, hb28, hz28⟩ := alloc_zero W9
        rw [← hW28]
        obtain ⟨g28, hg28⟩ : ∃ g, g = W9.heap.size := ⟨_, rfl⟩
        rw [← hg28] at hz28 ⊢
        have HG28 : Hid (u7.heap.size ≤ g28) := Lib.hid (by rw [hg28]; exact HL_9.out)
        have HX28_0 : Hid (w.heap.size ≠ g28) := Lib.hid (by have := Ngp_9.out.lt; omega)
        have Ngp_28 := Lib.hid (Ngp_9.out.keep hb28)
        have HF_28 : Hid (Below w.heap.size w W28) := Lib.hid (HF_9.out.trans (hb28.mono HF_9.out.size))
        have HL_28 : Hid (u7.heap.size ≤ W28.heap.size) := Lib.hid (Nat.le_trans HL_9.out hb28.size)
        have RZ28_28 : Hid (RAt W28 g28 [0]) := Lib.hid (zrow (k := 1) hz28)
        clear hb28 hz28 hg28 hW28 HL_9 Ngp_9 HF_9
        simp only [Act.put, List.setIfInBounds_toArray, List.set_cons_zero, List.set_cons_succ]
        refine eachW [9, 10] (by kernel_rfl) (by simp) ?_
        intro k hk
        simp only [List.mem_cons, List.not_mem_nil, or_false] at hk
        rcases hk with rfl | rfl
        · refine wpOp_call (i := 9) (oi := { dst := some 14, op := Op.call { callee := Callee.value (Operand.func 25), args := #[Operand.tmp 11, Operand.tmp 13], argTypes := #[23, 23] }, type := 23, pos := "curve.go:47", after := #[{ on := 6, ground := Ground.data }, { on := 8, ground := Ground.data }, { on := 4, ground := Ground.chain }], guard := none }) rfl (by rfl) (exec_callL 25 [.tmp 11, .tmp 13] #[23, 23] rfl [vN y, vN y] rfl (CG25 _)) ((C1.out W28).mono ?_)
          rintro e29 W29 ⟨rfl, hb29⟩
          refine ⟨_, rfl, fun _ => hb29.mono HL_28.out, ?_⟩
          have Ngp_29 := Lib.hid (Ngp_28.out.keep hb29)
          have RZ28_29 := Lib.hid (RZ28_28.out.keep hb29)
          have HF_29 : Hid (Below w.heap.size w W29) := Lib.hid (HF_28.out.trans (hb29.mono HF_28.out.size))
          have HL_29 : Hid (u7.heap.size ≤ W29.heap.size) := Lib.hid (Nat.le_trans HL_28.out hb29.size)
          clear hb29 HL_28 Ngp_28 RZ28_28 HF_28
          simp only [Act.put, List.setIfInBounds_toArray, List.set_cons_zero, List.set_cons_succ]
          refine opW _ _ (i := 10) (oi := { dst := some 3, op := Op.alloc 23, type := 0, pos := "curve.go:47", after := #[], guard := none }) rfl (by kernel_rfl) (by rfl) (exec_alloc 23 rfl (.agg (zbs 32)) zero23 W29) (fun _ => (below_alloc W29 _).mono HL_29.out) ?_
          obtain ⟨W30, hW30, hb30, hz30⟩ := alloc_zero W29
          rw [← hW30]
          obtain ⟨g30, hg30⟩ : ∃ g, g = W29.heap.size := ⟨_, rfl⟩
          rw [← hg30] at hz30 ⊢
          have HG30 : Hid (u7.heap.size ≤ g30) := Lib.hid (by rw [hg30]; exact HL_29.out)
          have HX30_1 : Hid (w.heap.size ≠ g30) := Lib.hid (by have := Ngp_29.out.lt; omega)
          have HX30_2 : Hid (g28 ≠ g30) := Lib.hid (by have := RZ28_29.out.lt; omega)
          have Ngp_30 := Lib.hid (Ngp_29.out.keep hb30)
          have RZ28_30 := Lib.hid (RZ28_29.out.keep hb30)
          have HF_30 : Hid (Below w.heap.size w W30) := Lib.hid (HF_29.out.trans (hb30.mono HF_29.out.size))
          have HL_30 : Hid (u7.heap.size ≤ W30.heap.size) := Lib.hid (Nat.le_trans HL_29.out hb30.size)
          have RZ30_30 : Hid (RAt W30 g30 [0]) := Lib.hid (zrow (k := 1) hz30)
          clear hb30 hz30 hg30 hW30 HL_29 Ngp_29 RZ28_29 HF_29
          simp only [Act.put, List.setIfInBounds_toArray, List.set_cons_zero, List.set_cons_succ]
          refine storeW_F (i := 12) (oi := { dst := none, op := Op.store 23 (Operand.tmp 3) (Operand.tmp 9), type := 0, pos := "curve.go:47", after := #[{ on := 10, ground := Ground.data }, { on := 4, ground := Ground.data }, { on := 9, ground := Ground.chain }, { on := 0, ground := Ground.phase }, { on := 1, ground := Ground.phase }, { on := 2, ground := Ground.phase }, { on := 3, ground := Ground.phase }, { on := 4, ground := Ground.phase }, { on := 5, ground := Ground.textOnly Departure.lateStores }, { on := 6, ground := Ground.textOnly Departure.lateStores }, { on := 7, ground := Ground.textOnly Departure.lateStores }, { on := 8, ground := Ground.textOnly Departure.lateStores }, { on := 9, ground := Ground.textOnly Departure.lateStoresUnsure }, { on := 10, ground := Ground.phase }, { on := 11, ground := Ground.phase }], guard := none }) rfl (by kernel_rfl) (by rfl) (.tmp 3) (.tmp 9) rfl (g30) 0 0 rfl [0] xx rfl rfl RZ30_30.out (show 0 < 1 by omega) rfl ?_
          intro W31 hr31 hg31 hz31
          simp only [Act.put, List.setIfInBounds_toArray, List.set_cons_zero, List.set_cons_succ]
          have Ngp_31 := Lib.hid (Ngp_30.out.grown hg31 (by have := HX30_1.out; simp; omega))
          have RZ28_31 := Lib.hid (RZ28_30.out.grown hg31 (by have := HX30_2.out; simp; omega))
          have RZ30_31 : Hid (RAt W31 g30 [xx]) := Lib.hid hr31
          have HF_31 : Hid (Below w.heap.size w W31) := Lib.hid (HF_30.out.grown hg31 HF_30.out.size (fun r hr => by injection hr with hr; have := (show w.heap.size ≤ g30 from (by have := HG30.out; have := HLO8.out; omega)); omega))
          have HL_31 : Hid (u7.heap.size ≤ W31.heap.size) := Lib.hid (Nat.le_trans HL_30.out hg31.size)
          clear hr31 hg31 hz31 HL_30 Ngp_30 RZ28_30 RZ30_30 HF_30
          refine storeW_F (i := 13) (oi := { dst := none, op := Op.store 23 (Operand.tmp 4) (Operand.tmp 14), type := 0, pos := "curve.go:47", after := #[{ on := 11, ground := Ground.data }, { on := 9, ground := Ground.data }, { on := 12, ground := Ground.chain }, { on := 0, ground := Ground.phase }, { on := 1, ground := Ground.phase }, { on := 2, ground := Ground.phase }, { on := 3, ground := Ground.phase }, { on := 4, ground := Ground.phase }, { on := 5, ground := Ground.phase }, { on := 6, ground := Ground.phase }, { on := 7, ground := Ground.phase }, { on := 8, ground := Ground.phase }, { on := 9, ground := Ground.phase }, { on := 10, ground := Ground.phase }, { on := 11, ground := Ground.phase }, { on := 12, ground := Ground.phase }], guard := none }) rfl (by kernel_rfl) (by rfl) (.tmp 4) (.tmp 14) rfl (g28) 0 0 rfl [0] yy rfl rfl RZ28_31.out (show 0 < 1 by omega) rfl ?_
          intro W32 hr32 hg32 hz32
          simp only [Act.put, List.setIfInBounds_toArray, List.set_cons_zero, List.set_cons_succ]
          have Ngp_32 := Lib.hid (Ngp_31.out.grown hg32 (by have := HX28_0.out; simp; omega))
          have RZ28_32 : Hid (RAt W32 g28 [yy]) := Lib.hid hr32
          have RZ30_32 := Lib.hid (RZ30_31.out.grown hg32 (by have := HX30_2.out; simp; omega))
          have HF_32 : Hid (Below w.heap.size w W32) := Lib.hid (HF_31.out.grown hg32 HF_31.out.size (fun r hr => by injection hr with hr; have := (show w.heap.size ≤ g28 from (by have := HG28.out; have := HLO8.out; omega)); omega))
          have HL_32 : Hid (u7.heap.size ≤ W32.heap.size) := Lib.hid (Nat.le_trans HL_31.out hg32.size)
          clear hr32 hg32 hz32 HL_31 Ngp_31 RZ28_31 RZ30_31 HF_31
          refine doneW (by kernel_rfl) ⟨rfl, ?_⟩ _
          exact ⟨g30, g28, Ngp_32.out, RZ30_32.out, RZ28_32.out, HG30.out, HG28.out, (by have := HX30_2.out; omega), HF_32.out, rfl⟩
        · refine wpOp_value (i := 10) (oi := { dst := some 3, op := Op.alloc 23, type := 0, pos := "curve.go:47", after := #[], guard := none }) rfl (by rfl) (exec_alloc 23 rfl (.agg (zbs 32)) zero23 W28) ⟨fun _ => (below_alloc W28 _).mono HL_28.out, ?_⟩
          obtain ⟨W33, hW33, hb33, hz33⟩ := alloc_zero W28
          rw [← hW33]
          obtain ⟨g33, hg33⟩ : ∃ g, g = W28.heap.size := ⟨_, rfl⟩
          rw [← hg33] at hz33 ⊢
          have HG33 : Hid (u7.heap.size ≤ g33) := Lib.hid (by rw [hg33]; exact HL_28.out)
          have HX33_1 : Hid (w.heap.size ≠ g33) := Lib.hid (by have := Ngp_28.out.lt; omega)
          have HX33_2 : Hid (g28 ≠ g33) := Lib.hid (by have := RZ28_28.out.lt; omega)
          have Ngp_33 := Lib.hid (Ngp_28.out.keep hb33)
          have RZ28_33 := Lib.hid (RZ28_28.out.keep hb33)
          have HF_33 : Hid (Below w.heap.size w W33) := Lib.hid (HF_28.out.trans (hb33.mono HF_28.out.size))
          have HL_33 : Hid (u7.heap.size ≤ W33.heap.size) := Lib.hid (Nat.le_trans HL_28.out hb33.size)
          have RZ33_33 : Hid (RAt W33 g33 [0]) := Lib.hid (zrow (k := 1) hz33)
          clear hb33 hz33 hg33 hW33 HL_28 Ngp_28 RZ28_28 HF_28
          simp only [Act.put, List.setIfInBounds_toArray, List.set_cons_zero, List.set_cons_succ]
          refine callW (i := 9) (oi := { dst := some 14, op := Op.call { callee := Callee.value (Operand.func 25), args := #[Operand.tmp 11, Operand.tmp 13], argTypes := #[23, 23] }, type := 23, pos := "curve.go:47", after := #[{ on := 6, ground := Ground.data }, { on := 8, ground := Ground.data }, { on := 4, ground := Ground.chain }], guard := none }) rfl (by kernel_rfl) (by rfl) (exec_callL 25 [.tmp 11, .tmp 13] #[23, 23] rfl [vN y, vN y] rfl (CG25 _)) ((C1.out W33).mono ?_)
          rintro e34 W34 ⟨rfl, hb34⟩
          refine ⟨_, rfl, fun _ => hb34.mono HL_33.out, ?_⟩
          have Ngp_34 := Lib.hid (Ngp_33.out.keep hb34)
          have RZ28_34 := Lib.hid (RZ28_33.out.keep hb34)
          have RZ33_34 := Lib.hid (RZ33_33.out.keep hb34)
          have HF_34 : Hid (Below w.heap.size w W34) := Lib.hid (HF_33.out.trans (hb34.mono HF_33.out.size))
          have HL_34 : Hid (u7.heap.size ≤ W34.heap.size) := Lib.hid (Nat.le_trans HL_33.out hb34.size)
          clear hb34 HL_33 Ngp_33 RZ28_33 RZ33_33 HF_33
          simp only [Act.put, List.setIfInBounds_toArray, List.set_cons_zero, List.set_cons_succ]
          refine storeW_F (i := 12) (oi := { dst := none, op := Op.store 23 (Operand.tmp 3) (Operand.tmp 9), type := 0, pos := "curve.go:47", after := #[{ on := 10, ground := Ground.data }, { on := 4, ground := Ground.data }, { on := 9, ground := Ground.chain }, { on := 0, ground := Ground.phase }, { on := 1, ground := Ground.phase }, { on := 2, ground := Ground.phase }, { on := 3, ground := Ground.phase }, { on := 4, ground := Ground.phase }, { on := 5, ground := Ground.textOnly Departure.lateStores }, { on := 6, ground := Ground.textOnly Departure.lateStores }, { on := 7, ground := Ground.textOnly Departure.lateStores }, { on := 8, ground := Ground.textOnly Departure.lateStores }, { on := 9, ground := Ground.textOnly Departure.lateStoresUnsure }, { on := 10, ground := Ground.phase }, { on := 11, ground := Ground.phase }], guard := none }) rfl (by kernel_rfl) (by rfl) (.tmp 3) (.tmp 9) rfl (g33) 0 0 rfl [0] xx rfl rfl RZ33_34.out (show 0 < 1 by omega) rfl ?_
          intro W35 hr35 hg35 hz35
          simp only [Act.put, List.setIfInBounds_toArray, List.set_cons_zero, List.set_cons_succ]
          have Ngp_35 := Lib.hid (Ngp_34.out.grown hg35 (by have := HX33_1.out; simp; omega))
          have RZ28_35 := Lib.hid (RZ28_34.out.grown hg35 (by have := HX33_2.out; simp; omega))
          have RZ33_35 : Hid (RAt W35 g33 [xx]) := Lib.hid hr35
          have HF_35 : Hid (Below w.heap.size w W35) := Lib.hid (HF_34.out.grown hg35 HF_34.out.size (fun r hr => by injection hr with hr; have := (show w.heap.size ≤ g33 from (by have := HG33.out; have := HLO8.out; omega)); omega))
          have HL_35 : Hid (u7.heap.size ≤ W35.heap.size) := Lib.hid (Nat.le_trans HL_34.out hg35.size)
          clear hr35 hg35 hz35 HL_34 Ngp_34 RZ28_34 RZ33_34 HF_34
          refine storeW_F (i := 13) (oi := { dst := none, op := Op.store 23 (Operand.tmp 4) (Operand.tmp 14), type := 0, pos := "curve.go:47", after := #[{ on := 11, ground := Ground.data }, { on := 9, ground := Ground.data }, { on := 12, ground := Ground.chain }, { on := 0, ground := Ground.phase }, { on := 1, ground := Ground.phase }, { on := 2, ground := Ground.phase }, { on := 3, ground := Ground.phase }, { on := 4, ground := Ground.phase }, { on := 5, ground := Ground.phase }, { on := 6, ground := Ground.phase }, { on := 7, ground := Ground.phase }, { on := 8, ground := Ground.phase }, { on := 9, ground := Ground.phase }, { on := 10, ground := Ground.phase }, { on := 11, ground := Ground.phase }, { on := 12, ground := Ground.phase }], guard := none }) rfl (by kernel_rfl) (by rfl) (.tmp 4) (.tmp 14) rfl (g28) 0 0 rfl [0] yy rfl rfl RZ28_35.out (show 0 < 1 by omega) rfl ?_
          intro W36 hr36 hg36 hz36
          simp only [Act.put, List.setIfInBounds_toArray, List.set_cons_zero, List.set_cons_succ]
          have Ngp_36 := Lib.hid (Ngp_35.out.grown hg36 (by have := HX28_0.out; simp; omega))
          have RZ28_36 : Hid (RAt W36 g28 [yy]) := Lib.hid hr36
          have RZ33_36 := Lib.hid (RZ33_35.out.grown hg36 (by have := HX33_2.out; simp; omega))
          have HF_36 : Hid (Below w.heap.size w W36) := Lib.hid (HF_35.out.grown hg36 HF_35.out.size (fun r hr => by injection hr with hr; have := (show w.heap.size ≤ g28 from (by have := HG28.out; have := HLO8.out; omega)); omega))
          have HL_36 : Hid (u7.heap.size ≤ W36.heap.size) := Lib.hid (Nat.le_trans HL_35.out hg36.size)
          clear hr36 hg36 hz36 HL_35 Ngp_35 RZ28_35 RZ33_35 HF_35
          refine doneW (by kernel_rfl) ⟨rfl, ?_⟩ _
          exact ⟨g33, g28, Ngp_36.out, RZ33_36.out, RZ28_36.out, HG33.out, HG28.out, (by have := HX33_2.out; omega), HF_36.out, rfl⟩
    · refine wpOp_value (i := 10) (oi := { dst := some 3, op := Op.alloc 23, type := 0, pos := "curve.go:47", after := #[], guard := none }) rfl (by rfl) (exec_alloc 23 rfl (.agg (zbs 32)) zero23 D8) ⟨fun _ => (below_alloc D8 _).mono HL_8.out, ?_⟩
      obtain ⟨W37, hW37, hb37, hz37⟩ := alloc_zero D8
      rw [← hW37]
      obtain ⟨g37, hg37⟩ : ∃ g, g = D8.heap.size := ⟨_, rfl⟩
      rw [← hg37] at hz37 ⊢
      have HG37 : Hid (u7.heap.size ≤ g37) := Lib.hid (by rw [hg37]; exact HL_8.out)
      have HX37_0 : Hid (w.heap.size ≠ g37) := Lib.hid (by have := Ngp_8.out.lt; omega)
      have Ngp_37 := Lib.hid (Ngp_8.out.keep hb37)
      have HF_37 : Hid (Below w.heap.size w W37) := Lib.hid (HF_8.out.trans (hb37.mono HF_8.out.size))
      have HL_37 : Hid (u7.heap.size ≤ W37.heap.size) := Lib.hid (Nat.le_trans HL_8.out hb37.size)
      have RZ37_37 : Hid (RAt W37 g37 [0]) := Lib.hid (zrow (k := 1) hz37)
      clear hb37 hz37 hg37 hW37 HL_8 Ngp_8 HF_8
      simp only [Act.put, List.setIfInBounds_toArray, List.set_cons_zero, List.set_cons_succ]
      refine eachW [4, 11] (by kernel_rfl) (by simp) ?_
      intro k hk
      simp only [List.mem_cons, List.not_mem_nil, or_false] at hk
      rcases hk with rfl | rfl
      · refine wpOp_call (i := 4) (oi := { dst := some 9, op := Op.call { callee := Callee.value (Operand.func 25), args := #[Operand.tmp 6, Operand.tmp 8], argTypes := #[23, 23] }, type := 23, pos := "curve.go:47", after := #[{ on := 1, ground := Ground.data }, { on := 3, ground := Ground.data }], guard := none }) rfl (by rfl) (exec_callL 25 [.tmp 6, .tmp 8] #[23, 23] rfl [vN x, vN x] rfl (CG25 _)) ((C0.out W37).mono ?_)
        rintro e38 W38 ⟨rfl, hb38⟩
        refine ⟨_, rfl, fun _ => hb38.mono HL_37.out, ?_⟩
        have Ngp_38 := Lib.hid (Ngp_37.out.keep hb38)
        have RZ37_38 := Lib.hid (RZ37_37.out.keep hb38)
        have HF_38 : Hid (Below w.heap.size w W38) := Lib.hid (HF_37.out.trans (hb38.mono HF_37.out.size))
        have HL_38 : Hid (u7.heap.size ≤ W38.heap.size) := Lib.hid (Nat.le_trans HL_37.out hb38.size)
        clear hb38 HL_37 Ngp_37 RZ37_37 HF_37
        simp only [Act.put, List.setIfInBounds_toArray, List.set_cons_zero, List.set_cons_succ]
        refine eachW [9, 11] (by kernel_rfl) (by simp) ?_
        intro k hk
        simp only [List.mem_cons, List.not_mem_nil, or_false] at hk
        rcases hk with rfl | rfl
        · refine wpOp_call (i := 9) (oi := { dst := some 14, op := Op.call { callee := Callee.value (Operand.func 25), args := #[Operand.tmp 11, Operand.tmp 13], argTypes := #[23, 23] }, type := 23, pos := "curve.go:47", after := #[{ on := 6, ground := Ground.data }, { on := 8, ground := Ground.data }, { on := 4, ground := Ground.chain }], guard := none }) rfl (by rfl) (exec_callL 25 [.tmp 11, .tmp 13] #[23, 23] rfl [vN y, vN y] rfl (CG25 _)) ((C1.out W38).mono ?_)
          rintro e39 W39 ⟨rfl, hb39⟩
          refine ⟨_, rfl, fun _ => hb39.mono HL_38.out, ?_⟩
          have Ngp_39 := Lib.hid (Ngp_38.out.keep hb39)
          have RZ37_39 := Lib.hid (RZ37_38.out.keep hb39)
          have HF_39 : Hid (Below w.heap.size w W39) := Lib.hid (HF_38.out.trans (hb39.mono HF_38.out.size))
          have HL_39 : Hid (u7.heap.size ≤ W39.heap.size) := Lib.hid (Nat.le_trans HL_38.out hb39.size)
          clear hb39 HL_38 Ngp_38 RZ37_38 HF_38
          simp only [Act.put, List.setIfInBounds_toArray, List.set_cons_zero, List.set_cons_succ]
          refine opW _ _ (i := 11) (oi := { dst := some 4, op := Op.alloc 23, type := 0, pos := "curve.go:47", after := #[], guard := none }) rfl (by kernel_rfl) (by rfl) (exec_alloc 23 rfl (.agg (zbs 32)) zero23 W39) (fun _ => (below_alloc W39 _).mono HL_39.out) ?_
          obtain ⟨W40, hW40, hb40, hz40⟩ := alloc_zero W39
          rw [← hW40]
          obtain ⟨g40, hg40⟩ : ∃ g, g = W39.heap.size := ⟨_, rfl⟩
          rw [← hg40] at hz40 ⊢
          have HG40 : Hid (u7.heap.size ≤ g40) := Lib.hid (by rw [hg40]; exact HL_39.out)
          have HX40_1 : Hid (w.heap.size ≠ g40) := Lib.hid (by have := Ngp_39.out.lt; omega)
          have HX40_2 : Hid (g37 ≠ g40) := Lib.hid (by have := RZ37_39.out.lt; omega)
          have Ngp_40 := Lib.hid (Ngp_39.out.keep hb40)
          have RZ37_40 := Lib.hid (RZ37_39.out.keep hb40)
          have HF_40 : Hid (Below w.heap.size w W40) := Lib.hid (HF_39.out.trans (hb40.mono HF_39.out.size))
          have HL_40 : Hid (u7.heap.size ≤ W40.heap.size) := Lib.hid (Nat.le_trans HL_39.out hb40.size)
          have RZ40_40 : Hid (RAt W40 g40 [0]) := Lib.hid (zrow (k := 1) hz40)
          clear hb40 hz40 hg40 hW40 HL_39 Ngp_39 RZ37_39 HF_39
          simp only [Act.put, List.setIfInBounds_toArray, List.set_cons_zero, List.set_cons_succ]
          refine storeW_F (i := 12) (oi := { dst := none, op := Op.store 23 (Operand.tmp 3) (Operand.tmp 9), type := 0, pos := "curve.go:47", after := #[{ on := 10, ground := Ground.data }, { on := 4, ground := Ground.data }, { on := 9, ground := Ground.chain }, { on := 0, ground := Ground.phase }, { on := 1, ground := Ground.phase }, { on := 2, ground := Ground.phase }, { on := 3, ground := Ground.phase }, { on := 4, ground := Ground.phase }, { on := 5, ground := Ground.textOnly Departure.lateStores }, { on := 6, ground := Ground.textOnly Departure.lateStores }, { on := 7, ground := Ground.textOnly Departure.lateStores }, { on := 8, ground := Ground.textOnly Departure.lateStores }, { on := 9, ground := Ground.textOnly Departure.lateStoresUnsure }, { on := 10, ground := Ground.phase }, { on := 11, ground := Ground.phase }], guard := none }) rfl (by kernel_rfl) (by rfl) (.tmp 3) (.tmp 9) rfl (g37) 0 0 rfl [0] xx rfl rfl RZ37_40.out (show 0 < 1 by omega) rfl ?_
          intro W41 hr41 hg41 hz41
          simp only [Act.put, List.setIfInBounds_toArray, List.set_cons_zero, List.set_cons_succ]
          have Ngp_41 := Lib.hid (Ngp_40.out.grown hg41 (by have := HX37_0.out; simp; omega))
          have RZ37_41 : Hid (RAt W41 g37 [xx]) := Lib.hid hr41
          have RZ40_41 := Lib.hid (RZ40_40.out.grown hg41 (by have := HX40_2.out; simp; omega))
          have HF_41 : Hid (Below w.heap.size w W41) := Lib.hid (HF_40.out.grown hg41 HF_40.out.size (fun r hr => by injection hr with hr; have := (show w.heap.size ≤ g37 from (by have := HG37.out; have := HLO8.out; omega)); omega))
          have HL_41 : Hid (u7.heap.size ≤ W41.heap.size) := Lib.hid (Nat.le_trans HL_40.out hg41.size)
          clear hr41 hg41 hz41 HL_40 Ngp_40 RZ37_40 RZ40_40 HF_40
          refine storeW_F (i := 13) (oi := { dst := none, op := Op.store 23 (Operand.tmp 4) (Operand.tmp 14), type := 0, pos := "curve.go:47", after := #[{ on := 11, ground := Ground.data }, { on := 9, ground := Ground.data }, { on := 12, ground := Ground.chain }, { on := 0, ground := Ground.phase }, { on := 1, ground := Ground.phase }, { on := 2, ground := Ground.phase }, { on := 3, ground := Ground.phase }, { on := 4, ground := Ground.phase }, { on := 5, ground := Ground.phase }, { on := 6, ground := Ground.phase }, { on := 7, ground := Ground.phase }, { on := 8, ground := Ground.phase }, { on := 9, ground := Ground.phase }, { on := 10, ground := Ground.phase }, { on := 11, ground := Ground.phase }, { on := 12, ground := Ground.phase }], guard := none }) rfl (by kernel_rfl) (by rfl) (.tmp 4) (.tmp 14) rfl (g40) 0 0 rfl [0] yy rfl rfl RZ40_41.out (show 0 < 1 by omega) rfl ?_
          intro W42 hr42 hg42 hz42
          simp only [Act.put, List.setIfInBounds_toArray, List.set_cons_zero, List.set_cons_succ]
          have Ngp_42 := Lib.hid (Ngp_41.out.grown hg42 (by have := HX40_1.out; simp; omega))
          have RZ37_42 := Lib.hid (RZ37_41.out.grown hg42 (by have := HX40_2.out; simp; omega))
          have RZ40_42 : Hid (RAt W42 g40 [yy]) := Lib.hid hr42
          have HF_42 : Hid (Below w.heap.size w W42) := Lib.hid (HF_41.out.grown hg42 HF_41.out.size (fun r hr => by injection hr with hr; have := (show w.heap.size ≤ g40 from (by have := HG40.out; have := HLO8.out; omega)); omega))
          have HL_42 : Hid (u7.heap.size ≤ W42.heap.size) := Lib.hid (Nat.le_trans HL_41.out hg42.size)
          clear hr42 hg42 hz42 HL_41 Ngp_41 RZ37_41 RZ40_41 HF_41
          refine doneW (by kernel_rfl) ⟨rfl, ?_⟩ _
          exact ⟨g37, g40, Ngp_42.out, RZ37_42.out, RZ40_42.out, HG37.out, HG40.out, (by have := HX40_2.out; omega), HF_42.out, rfl⟩
        · refine wpOp_value (i := 11) (oi := { dst := some 4, op := Op.alloc 23, type := 0, pos := "curve.go:47", after := #[], guard := none }) rfl (by rfl) (exec_alloc 23 rfl (.agg (zbs 32)) zero23 W38) ⟨fun _ => (below_alloc W38 _).mono HL_38.out, ?_⟩
          obtain ⟨W43, hW43, hb43, hz43⟩ := alloc_zero W38
          rw [← hW43]
          obtain ⟨g43, hg43⟩ : ∃ g, g = W38.heap.size := ⟨_, rfl⟩
          rw [← hg43] at hz43 ⊢
          have HG43 : Hid (u7.heap.size ≤ g43) := Lib.hid (by rw [hg43]; exact HL_38.out)
          have HX43_1 : Hid (w.heap.size ≠ g43) := Lib.hid (by have := Ngp_38.out.lt; omega)
          have HX43_2 : Hid (g37 ≠ g43) := Lib.hid (by have := RZ37_38.out.lt; omega)
          have Ngp_43 := Lib.hid (Ngp_38.out.keep hb43)
          have RZ37_43 := Lib.hid (RZ37_38.out.keep hb43)
          have HF_43 : Hid (Below w.heap.size w W43) := Lib.hid (HF_38.out.trans (hb43.mono HF_38.out.size))
          have HL_43 : Hid (u7.heap.size ≤ W43.heap.size) := Lib.hid (Nat.le_trans HL_38.out hb43.size)
          have RZ43_43 : Hid (RAt W43 g43 [0]) := Lib.hid (zrow (k := 1) hz43)
          clear hb43 hz43 hg43 hW43 HL_38 Ngp_38 RZ37_38 HF_38
          simp only [Act.put, List.setIfInBounds_toArray, List.set_cons_zero, List.set_cons_succ]
          refine callW (i := 9) (oi := { dst := some 14, op := Op.call { callee := Callee.value (Operand.func 25), args := #[Operand.tmp 11, Operand.tmp 13], argTypes := #[23, 23] }, type := 23, pos := "curve.go:47", after := #[{ on := 6, ground := Ground.data }, { on := 8, ground := Ground.data }, { on := 4, ground := Ground.chain }], guard := none }) rfl (by kernel_rfl) (by rfl) (exec_callL 25 [.tmp 11, .tmp 13] #[23, 23] rfl [vN y, vN y] rfl (CG25 _)) ((C1.out W43).mono ?_)
          rintro e44 W44 ⟨rfl, hb44⟩
          refine ⟨_, rfl, fun _ => hb44.mono HL_43.out, ?_⟩
          have Ngp_44 := Lib.hid (Ngp_43.out.keep hb44)
          have RZ37_44 := Lib.hid (RZ37_43.out.keep hb44)
          have RZ43_44 := Lib.hid (RZ43_43.out.keep hb44)
          have HF_44 : Hid (Below w.heap.size w W44) := Lib.hid (HF_43.out.trans (hb44.mono HF_43.out.size))
          have HL_44 : Hid (u7.heap.size ≤ W44.heap.size) := Lib.hid (Nat.le_trans HL_43.out hb44.size)
          clear hb44 HL_43 Ngp_43 RZ37_43 RZ43_43 HF_43
          simp only [Act.put, List.setIfInBounds_toArray, List.set_cons_zero, List.set_cons_succ]
          refine storeW_F (i := 12) (oi := { dst := none, op := Op.store 23 (Operand.tmp 3) (Operand.tmp 9), type := 0, pos := "curve.go:47", after := #[{ on := 10, ground := Ground.data }, { on := 4, ground := Ground.data }, { on := 9, ground := Ground.chain }, { on := 0, ground := Ground.phase }, { on := 1, ground := Ground.phase }, { on := 2, ground := Ground.phase }, { on := 3, ground := Ground.phase }, { on := 4, ground := Ground.phase }, { on := 5, ground := Ground.textOnly Departure.lateStores }, { on := 6, ground := Ground.textOnly Departure.lateStores }, { on := 7, ground := Ground.textOnly Departure.lateStores }, { on := 8, ground := Ground.textOnly Departure.lateStores }, { on := 9, ground := Ground.textOnly Departure.lateStoresUnsure }, { on := 10, ground := Ground.phase }, { on := 11, ground := Ground.phase }], guard := none }) rfl (by kernel_rfl) (by rfl) (.tmp 3) (.tmp 9) rfl (g37) 0 0 rfl [0] xx rfl rfl RZ37_44.out (show 0 < 1 by omega) rfl ?_
          intro W45 hr45 hg45 hz45
          simp only [Act.put, List.setIfInBounds_toArray, List.set_cons_zero, List.set_cons_succ]
          have Ngp_45 := Lib.hid (Ngp_44.out.grown hg45 (by have := HX37_0.out; simp; omega))
          have RZ37_45 : Hid (RAt W45 g37 [xx]) := Lib.hid hr45
          have RZ43_45 := Lib.hid (RZ43_44.out.grown hg45 (by have := HX43_2.out; simp; omega))
          have HF_45 : Hid (Below w.heap.size w W45) := Lib.hid (HF_44.out.grown hg45 HF_44.out.size (fun r hr => by injection hr with hr; have := (show w.heap.size ≤ g37 from (by have := HG37.out; have := HLO8.out; omega)); omega))
          have HL_45 : Hid (u7.heap.size ≤ W45.heap.size) := Lib.hid (Nat.le_trans HL_44.out hg45.size)
          clear hr45 hg45 hz45 HL_44 Ngp_44 RZ37_44 RZ43_44 HF_44
          refine storeW_F (i := 13) (oi := { dst := none, op := Op.store 23 (Operand.tmp 4) (Operand.tmp 14), type := 0, pos := "curve.go:47", after := #[{ on := 11, ground := Ground.data }, { on := 9, ground := Ground.data }, { on := 12, ground := Ground.chain }, { on := 0, ground := Ground.phase }, { on := 1, ground := Ground.phase }, { on := 2, ground := Ground.phase }, { on := 3, ground := Ground.phase }, { on := 4, ground := Ground.phase }, { on := 5, ground := Ground.phase }, { on := 6, ground := Ground.phase }, { on := 7, ground := Ground.phase }, { on := 8, ground := Ground.phase }, { on := 9, ground := Ground.phase }, { on := 10, ground := Ground.phase }, { on := 11, ground := Ground.phase }, { on := 12, ground := Ground.phase }], guard := none }) rfl (by kernel_rfl) (by rfl) (.tmp 4) (.tmp 14) rfl (g43) 0 0 rfl [0] yy rfl rfl RZ43_45.out (show 0 < 1 by omega) rfl ?_
          intro W46 hr46 hg46 hz46
          simp only [Act.put, List.setIfInBounds_toArray, List.set_cons_zero, List.set_cons_succ]
          have Ngp_46 := Lib.hid (Ngp_45.out.grown hg46 (by have := HX43_1.out; simp; omega))
          have RZ37_46 := Lib.hid (RZ37_45.out.grown hg46 (by have := HX43_2.out; simp; omega))
          have RZ43_46 : Hid (RAt W46 g43 [yy]) := Lib.hid hr46
          have HF_46 : Hid (Below w.heap.size w W46) := Lib.hid (HF_45.out.grown hg46 HF_45.out.size (fun r hr => by injection hr with hr; have := (show w.heap.size ≤ g43 from (by have := HG43.out; have := HLO8.out; omega)); omega))
          have HL_46 : Hid (u7.heap.size ≤ W46.heap.size) := Lib.hid (Nat.le_trans HL_45.out hg46.size)
          clear hr46 hg46 hz46 HL_45 Ngp_45 RZ37_45 RZ43_45 HF_45
          refine doneW (by kernel_rfl) ⟨rfl, ?_⟩ _
          exact ⟨g37, g43, Ngp_46.out, RZ37_46.out, RZ43_46.out, HG37.out, HG43.out, (by have := HX43_2.out; omega), HF_46.out, rfl⟩
      · refine wpOp_value (i := 11) (oi := { dst := some 4, op := Op.alloc 23, type := 0, pos := "curve.go:47", after := #[], guard := none }) rfl (by rfl) (exec_alloc 23 rfl (.agg (zbs 32)) zero23 W37) ⟨fun _ => (below_alloc W37 _).mono HL_37.out, ?_⟩
        obtain ⟨W47, hW47, hb47, hz47⟩ := alloc_zero W37
        rw [← hW47]
        obtain ⟨g47, hg47⟩ : ∃ g, g = W37.heap.size := ⟨_, rfl⟩
        rw [← hg47] at hz47 ⊢
        have HG47 : Hid (u7.heap.size ≤ g47) := Lib.hid (by rw [hg47]; exact HL_37.out)
        have HX47_1 : Hid (w.heap.size ≠ g47) := Lib.hid (by have := Ngp_37.out.lt; omega)
        have HX47_2 : Hid (g37 ≠ g47) := Lib.hid (by have := RZ37_37.out.lt; omega)
        have Ngp_47 := Lib.hid (Ngp_37.out.keep hb47)
        have RZ37_47 := Lib.hid (RZ37_37.out.keep hb47)
        have HF_47 : Hid (Below w.heap.size w W47) := Lib.hid (HF_37.out.trans (hb47.mono HF_37.out.size))
        have HL_47 : Hid (u7.heap.size ≤ W47.heap.size) := Lib.hid (Nat.le_trans HL_37.out hb47.size)
        have RZ47_47 : Hid (RAt W47 g47 [0]) := Lib.hid (zrow (k := 1) hz47)
        clear hb47 hz47 hg47 hW47 HL_37 Ngp_37 RZ37_37 HF_37
        simp only [Act.put, List.setIfInBounds_toArray, List.set_cons_zero, List.set_cons_succ]
        refine callW (i := 4) (oi := { dst := some 9, op := Op.call { callee := Callee.value (Operand.func 25), args := #[Operand.tmp 6, Operand.tmp 8], argTypes := #[23, 23] }, type := 23, pos := "curve.go:47", after := #[{ on := 1, ground := Ground.data }, { on := 3, ground := Ground.data }], guard := none }) rfl (by kernel_rfl) (by rfl) (exec_callL 25 [.tmp 6, .tmp 8] #[23, 23] rfl [vN x, vN x] rfl (CG25 _)) ((C0.out W47).mono ?_)
        rintro e48 W48 ⟨rfl, hb48⟩
        refine ⟨_, rfl, fun _ => hb48.mono HL_47.out, ?_⟩
        have Ngp_48 := Lib.hid (Ngp_47.out.keep hb48)
        have RZ37_48 := Lib.hid (RZ37_47.out.keep hb48)
        have RZ47_48 := Lib.hid (RZ47_47.out.keep hb48)
        have HF_48 : Hid (Below w.heap.size w W48) := Lib.hid (HF_47.out.trans (hb48.mono HF_47.out.size))
        have HL_48 : Hid (u7.heap.size ≤ W48.heap.size) := Lib.hid (Nat.le_trans HL_47.out hb48.size)
        clear hb48 HL_47 Ngp_47 RZ37_47 RZ47_47 HF_47
        simp only [Act.put, List.setIfInBounds_toArray, List.set_cons_zero, List.set_cons_succ]
        refine callW (i := 9) (oi := { dst := some 14, op := Op.call { callee := Callee.value (Operand.func 25), args := #[Operand.tmp 11, Operand.tmp 13], argTypes := #[23, 23] }, type := 23, pos := "curve.go:47", after := #[{ on := 6, ground := Ground.data }, { on := 8, ground := Ground.data }, { on := 4, ground := Ground.chain }], guard := none }) rfl (by kernel_rfl) (by rfl) (exec_callL 25 [.tmp 11, .tmp 13] #[23, 23] rfl [vN y, vN y] rfl (CG25 _)) ((C1.out W48).mono ?_)
        rintro e49 W49 ⟨rfl, hb49⟩
        refine ⟨_, rfl, fun _ => hb49.mono HL_48.out, ?_⟩
        have Ngp_49 := Lib.hid (Ngp_48.out.keep hb49)
        have RZ37_49 := Lib.hid (RZ37_48.out.keep hb49)
        have RZ47_49 := Lib.hid (RZ47_48.out.keep hb49)
        have HF_49 : Hid (Below w.heap.size w W49) := Lib.hid (HF_48.out.trans (hb49.mono HF_48.out.size))
        have HL_49 : Hid (u7.heap.size ≤ W49.heap.size) := Lib.hid (Nat.le_trans HL_48.out hb49.size)
        clear hb49 HL_48 Ngp_48 RZ37_48 RZ47_48 HF_48
        simp only [Act.put, List.setIfInBounds_toArray, List.set_cons_zero, List.set_cons_succ]
        refine storeW_F (i := 12) (oi := { dst := none, op := Op.store 23 (Operand.tmp 3) (Operand.tmp 9), type := 0, pos := "curve.go:47", after := #[{ on := 10, ground := Ground.data }, { on := 4, ground := Ground.data }, { on := 9, ground := Ground.chain }, { on := 0, ground := Ground.phase }, { on := 1, ground := Ground.phase }, { on := 2, ground := Ground.phase }, { on := 3, ground := Ground.phase }, { on := 4, ground := Ground.phase }, { on := 5, ground := Ground.textOnly Departure.lateStores }, { on := 6, ground := Ground.textOnly Departure.lateStores }, { on := 7, ground := Ground.textOnly Departure.lateStores }, { on := 8, ground := Ground.textOnly Departure.lateStores }, { on := 9, ground := Ground.textOnly Departure.lateStoresUnsure }, { on := 10, ground := Ground.phase }, { on := 11, ground := Ground.phase }], guard := none }) rfl (by kernel_rfl) (by rfl) (.tmp 3) (.tmp 9) rfl (g37) 0 0 rfl [0] xx rfl rfl RZ37_49.out (show 0 < 1 by omega) rfl ?_
        intro W50 hr50 hg50 hz50
        simp only [Act.put, List.setIfInBounds_toArray, List.set_cons_zero, List.set_cons_succ]
        have Ngp_50 := Lib.hid (Ngp_49.out.grown hg50 (by have := HX37_0.out; simp; omega))
        have RZ37_50 : Hid (RAt W50 g37 [xx]) := Lib.hid hr50
        have RZ47_50 := Lib.hid (RZ47_49.out.grown hg50 (by have := HX47_2.out; simp; omega))
        have HF_50 : Hid (Below w.heap.size w W50) := Lib.hid (HF_49.out.grown hg50 HF_49.out.size (fun r hr => by injection hr with hr; have := (show w.heap.size ≤ g37 from (by have := HG37.out; have := HLO8.out; omega)); omega))
        have HL_50 : Hid (u7.heap.size ≤ W50.heap.size) := Lib.hid (Nat.le_trans HL_49.out hg50.size)
        clear hr50 hg50 hz50 HL_49 Ngp_49 RZ37_49 RZ47_49 HF_49
        refine storeW_F (i := 13) (oi := { dst := none, op := Op.store 23 (Operand.tmp 4) (Operand.tmp 14), type := 0, pos := "curve.go:47", after := #[{ on := 11, ground := Ground.data }, { on := 9, ground := Ground.data }, { on := 12, ground := Ground.chain }, { on := 0, ground := Ground.phase }, { on := 1, ground := Ground.phase }, { on := 2, ground := Ground.phase }, { on := 3, ground := Ground.phase }, { on := 4, ground := Ground.phase }, { on := 5, ground := Ground.phase }, { on := 6, ground := Ground.phase }, { on := 7, ground := Ground.phase }, { on := 8, ground := Ground.phase }, { on := 9, ground := Ground.phase }, { on := 10, ground := Ground.phase }, { on := 11, ground := Ground.phase }, { on := 12, ground := Ground.phase }], guard := none }) rfl (by kernel_rfl) (by rfl) (.tmp 4) (.tmp 14) rfl (g47) 0 0 rfl [0] yy rfl rfl RZ47_50.out (show 0 < 1 by omega) rfl ?_
        intro W51 hr51 hg51 hz51
        simp only [Act.put, List.setIfInBounds_toArray, List.set_cons_zero, List.set_cons_succ]
        have Ngp_51 := Lib.hid (Ngp_50.out.grown hg51 (by have := HX47_1.out; simp; omega))
        have RZ37_51 := Lib.hid (RZ37_50.out.grown hg51 (by have := HX47_2.out; simp; omega))
        have RZ47_51 : Hid (RAt W51 g47 [yy]) := Lib.hid hr51
        have HF_51 : Hid (Below w.heap.size w W51) := Lib.hid (HF_50.out.grown hg51 HF_50.out.size (fun r hr => by injection hr with hr; have := (show w.heap.size ≤ g47 from (by have := HG47.out; have := HLO8.out; omega)); omega))
        have HL_51 : Hid (u7.heap.size ≤ W51.heap.size) := Lib.hid (Nat.le_trans HL_50.out hg51.size)
        clear hr51 hg51 hz51 HL_50 Ngp_50 RZ37_50 RZ47_50 HF_50
        refine doneW (by kernel_rfl) ⟨rfl, ?_⟩ _
        exact ⟨g37, g47, Ngp_51.out, RZ37_51.out, RZ47_51.out, HG37.out, HG47.out, (by have := HX47_2.out; omega), HF_51.out, rfl⟩
    · refine wpOp_value (i := 11) (oi := { dst := some 4, op := Op.alloc 23, type := 0, pos := "curve.go:47", after := #[], guard := none }) rfl (by rfl) (exec_alloc 23 rfl (.agg (zbs 32)) zero23 D8) ⟨fun _ => (below_alloc D8 _).mono HL_8.out, ?_⟩
      obtain ⟨W52, hW52, hb52, hz52⟩ := alloc_zero D8
      rw [← hW52]
      obtain ⟨g52, hg52⟩ : ∃ g, g = D8.heap.size := ⟨_, rfl⟩
      rw [← hg52] at hz52 ⊢
      have HG52 : Hid (u7.heap.size ≤ g52) := Lib.hid (by rw [hg52]; exact HL_8.out)
      have HX52_0 : Hid (w.heap.size ≠ g52) := Lib.hid (by have := Ngp_8.out.lt; omega)
      have Ngp_52 := Lib.hid (Ngp_8.out.keep hb52)
      have HF_52 : Hid (Below w.heap.size w W52) := Lib.hid (HF_8.out.trans (hb52.mono HF_8.out.size))
      have HL_52 : Hid (u7.heap.size ≤ W52.heap.size) := Lib.hid (Nat.le_trans HL_8.out hb52.size)
      have RZ52_52 : Hid (RAt W52 g52 [0]) := Lib.hid (zrow (k := 1) hz52)
      clear hb52 hz52 hg52 hW52 HL_8 Ngp_8 HF_8
      simp only [Act.put, List.setIfInBounds_toArray, List.set_cons_zero, List.set_cons_succ]
      refine eachW [4, 10] (by kernel_rfl) (by simp) ?_
      intro k hk
      simp only [List.mem_cons, List.not_mem_nil, or_false] at hk
      rcases hk with rfl | rfl
      · refine wpOp_call (i := 4) (oi := { dst := some 9, op := Op.call { callee := Callee.value (Operand.func 25), args := #[Operand.tmp 6, Operand.tmp 8], argTypes := #[23, 23] }, type := 23, pos := "curve.go:47", after := #[{ on := 1, ground := Ground.data }, { on := 3, ground := Ground.data }], guard := none }) rfl (by rfl) (exec_callL 25 [.tmp 6, .tmp 8] #[23, 23] rfl [vN x, vN x] rfl (CG25 _)) ((C0.out W52).mono ?_)
        rintro e53 W53 ⟨rfl, hb53⟩
        refine ⟨_, rfl, fun _ => hb53.mono HL_52.out, ?_⟩
        have Ngp_53 := Lib.hid (Ngp_52.out.keep hb53)
        have RZ52_53 := Lib.hid (RZ52_52.out.keep hb53)
        have HF_53 : Hid (Below w.heap.size w W53) := Lib.hid (HF_52.out.trans (hb53.mono HF_52.out.size))
        have HL_53 : Hid (u7.heap.size ≤ W53.heap.size) := Lib.hid (Nat.le_trans HL_52.out hb53.size)
        clear hb53 HL_52 Ngp_52 RZ52_52 HF_52
        simp only [Act.put, List.setIfInBounds_toArray, List.set_cons_zero, List.set_cons_succ]
        refine eachW [9, 10] (by kernel_rfl) (by simp) ?_
        intro k hk
        simp only [List.mem_cons, List.not_mem_nil, or_false] at hk
        rcases hk with rfl | rfl
        · refine wpOp_call (i := 9) (oi := { dst := some 14, op := Op.call { callee := Callee.value (Operand.func 25), args := #[Operand.tmp 11, Operand.tmp 13], argTypes := #[23, 23] }, type := 23, pos := "curve.go:47", after := #[{ on := 6, ground := Ground.data }, { on := 8, ground := Ground.data }, { on := 4, ground := Ground.chain }], guard := none }) rfl (by rfl) (exec_callL 25 [.tmp 11, .tmp 13] #[23, 23] rfl [vN y, vN y] rfl (CG25 _)) ((C1.out W53).mono ?_)
          rintro e54 W54 ⟨rfl, hb54⟩
          refine ⟨_, rfl, fun _ => hb54.mono HL_53.out, ?_⟩
          have Ngp_54 := Lib.hid (Ngp_53.out.keep hb54)
          have RZ52_54 := Lib.hid (RZ52_53.out.keep hb54)
          have HF_54 : Hid (Below w.heap.size w W54) := Lib.hid (HF_53.out.trans (hb54.mono HF_53.out.size))
          have HL_54 : Hid (u7.heap.size ≤ W54.heap.size) := Lib.hid (Nat.le_trans HL_53.out hb54.size)
          clear hb54 HL_53 Ngp_53 RZ52_53 HF_53
          simp only [Act.put, List.setIfInBounds_toArray, List.set_cons_zero, List.set_cons_succ]
          refine opW _ _ (i := 10) (oi := { dst := some 3, op := Op.alloc 23, type := 0, pos := "curve.go:47", after := #[], guard := none }) rfl (by kernel_rfl) (by rfl) (exec_alloc 23 rfl (.agg (zbs 32)) zero23 W54) (fun _ => (below_alloc W54 _).mono HL_54.out) ?_
          obtain ⟨W55, hW55, hb55, hz55⟩ := alloc_zero W54
          rw [← hW55]
          obtain ⟨g55, hg55⟩ : ∃ g, g = W54.heap.size := ⟨_, rfl⟩
          rw [← hg55] at hz55 ⊢
          have HG55 : Hid (u7.heap.size ≤ g55) := Lib.hid (by rw [hg55]; exact HL_54.out)
          have HX55_1 : Hid (w.heap.size ≠ g55) := Lib.hid (by have := Ngp_54.out.lt; omega)
          have HX55_2 : Hid (g52 ≠ g55) := Lib.hid (by have := RZ52_54.out.lt; omega)
          have Ngp_55 := Lib.hid (Ngp_54.out.keep hb55)
          have RZ52_55 := Lib.hid (RZ52_54.out.keep hb55)
          have HF_55 : Hid (Below w.heap.size w W55) := Lib.hid (HF_54.out.trans (hb55.mono HF_54.out.size))
          have HL_55 : Hid (u7.heap.size ≤ W55.heap.size) := Lib.hid (Nat.le_trans HL_54.out hb55.size)
          have RZ55_55 : Hid (RAt W55 g55 [0]) := Lib.hid (zrow (k := 1) hz55)
          clear hb55 hz55 hg55 hW55 HL_54 Ngp_54 RZ52_54 HF_54
          simp only [Act.put, List.setIfInBounds_toArray, List.set_cons_zero, List.set_cons_succ]
          refine storeW_F (i := 12) (oi := { dst := none, op := Op.store 23 (Operand.tmp 3) (Operand.tmp 9), type := 0, pos := "curve.go:47", after := #[{ on := 10, ground := Ground.data }, { on := 4, ground := Ground.data }, { on := 9, ground := Ground.chain }, { on := 0, ground := Ground.phase }, { on := 1, ground := Ground.phase }, { on := 2, ground := Ground.phase }, { on := 3, ground := Ground.phase }, { on := 4, ground := Ground.phase }, { on := 5, ground := Ground.textOnly Departure.lateStores }, { on := 6, ground := Ground.textOnly Departure.lateStores }, { on := 7, ground := Ground.textOnly Departure.lateStores }, { on := 8, ground := Ground.textOnly Departure.lateStores }, { on := 9, ground := Ground.textOnly Departure.lateStoresUnsure }, { on := 10, ground := Ground.phase }, { on := 11, ground := Ground.phase }], guard := none }) rfl (by kernel_rfl) (by rfl) (.tmp 3) (.tmp 9) rfl (g55) 0 0 rfl [0] xx rfl rfl RZ55_55.out (show 0 < 1 by omega) rfl ?_
          intro W56 hr56 hg56 hz56
          simp only [Act.put, List.setIfInBounds_toArray, List.set_cons_zero, List.set_cons_succ]
          have Ngp_56 := Lib.hid (Ngp_55.out.grown hg56 (by have := HX55_1.out; simp; omega))
          have RZ52_56 := Lib.hid (RZ52_55.out.grown hg56 (by have := HX55_2.out; simp; omega))
          have RZ55_56 : Hid (RAt W56 g55 [xx]) := Lib.hid hr56
          have HF_56 : Hid (Below w.heap.size w W56) := Lib.hid (HF_55.out.grown hg56 HF_55.out.size (fun r hr => by injection hr with hr; have := (show w.heap.size ≤ g55 from (by have := HG55.out; have := HLO8.out; omega)); omega))
          have HL_56 : Hid (u7.heap.size ≤ W56.heap.size) := Lib.hid (Nat.le_trans HL_55.out hg56.size)
          clear hr56 hg56 hz56 HL_55 Ngp_55 RZ52_55 RZ55_55 HF_55
          refine storeW_F (i := 13) (oi := { dst := none, op := Op.store 23 (Operand.tmp 4) (Operand.tmp 14), type := 0, pos := "curve.go:47", after := #[{ on := 11, ground := Ground.data }, { on := 9, ground := Ground.data }, { on := 12, ground := Ground.chain }, { on := 0, ground := Ground.phase }, { on := 1, ground := Ground.phase }, { on := 2, ground := Ground.phase }, { on := 3, ground := Ground.phase }, { on := 4, ground := Ground.phase }, { on := 5, ground := Ground.phase }, { on := 6, ground := Ground.phase }, { on := 7, ground := Ground.phase }, { on := 8, ground := Ground.phase }, { on := 9, ground := Ground.phase }, { on := 10, ground := Ground.phase }, { on := 11, ground := Ground.phase }, { on := 12, ground := Ground.phase }], guard := none }) rfl (by kernel_rfl) (by rfl) (.tmp 4) (.tmp 14) rfl (g52) 0 0 rfl [0] yy rfl rfl RZ52_56.out (show 0 < 1 by omega) rfl ?_
          intro W57 hr57 hg57 hz57
          simp only [Act.put, List.setIfInBounds_toArray, List.set_cons_zero, List.set_cons_succ]
          have Ngp_57 := Lib.hid (Ngp_56.out.grown hg57 (by have := HX52_0.out; simp; omega))
          have RZ52_57 : Hid (RAt W57 g52 [yy]) := Lib.hid hr57
          have RZ55_57 := Lib.hid (RZ55_56.out.grown hg57 (by have := HX55_2.out; simp; omega))
          have HF_57 : Hid (Below w.heap.size w W57) := Lib.hid (HF_56.out.grown hg57 HF_56.out.size (fun r hr => by injection hr with hr; have := (show w.heap.size ≤ g52 from (by have := HG52.out; have := HLO8.out; omega)); omega))
          have HL_57 : Hid (u7.heap.size ≤ W57.heap.size) := Lib.hid (Nat.le_trans HL_56.out hg57.size)
          clear hr57 hg57 hz57 HL_56 Ngp_56 RZ52_56 RZ55_56 HF_56
          refine doneW (by kernel_rfl) ⟨rfl, ?_⟩ _
          exact ⟨g55, g52, Ngp_57.out, RZ55_57.out, RZ52_57.out, HG55.out, HG52.out, (by have := HX55_2.out; omega), HF_57.out, rfl⟩
        · refine wpOp_value (i := 10) (oi := { dst := some 3, op := Op.alloc 23, type := 0, pos := "curve.go:47", after := #[], guard := none }) rfl (by rfl) (exec_alloc 23 rfl (.agg (zbs 32)) zero23 W53) ⟨fun _ => (below_alloc W53 _).mono HL_53.out, ?_⟩
          obtain ⟨W58, hW58, hb58, hz58⟩ := alloc_zero W53
          rw [← hW58]
          obtain ⟨g58, hg58⟩ : ∃ g, g = W53.heap.size := ⟨_, rfl⟩
          rw [← hg58] at hz58 ⊢
          have HG58 : Hid (u7.heap.size ≤ g58) := Lib.hid (by rw [hg58]; exact HL_53.out)
          have HX58_1 : Hid (w.heap.size ≠ g58) := Lib.hid (by have := Ngp_53.out.lt; omega)
          have HX58_2 : Hid (g52 ≠ g58) := Lib.hid (by have := RZ52_53.out.lt; omega)
          have Ngp_58 := Lib.hid (Ngp_53.out.keep hb58)
          have RZ52_58 := Lib.hid (RZ52_53.out.keep hb58)
          have HF_58 : Hid (Below w.heap.size w W58) := Lib.hid (HF_53.out.trans (hb58.mono HF_53.out.size))
          have HL_58 : Hid (u7.heap.size ≤ W58.heap.size) := Lib.hid (Nat.le_trans HL_53.out hb58.size)
          have RZ58_58 : Hid (RAt W58 g58 [0]) := Lib.hid (zrow (k := 1) hz58)
          clear hb58 hz58 hg58 hW58 HL_53 Ngp_53 RZ52_53 HF_53
          simp only [Act.put, List.setIfInBounds_toArray, List.set_cons_zero, List.set_cons_succ]
          refine callW (i := 9) (oi := { dst := some 14, op := Op.call { callee := Callee.value (Operand.func 25), args := #[Operand.tmp 11, Operand.tmp 13], argTypes := #[23, 23] }, type := 23, pos := "curve.go:47", after := #[{ on := 6, ground := Ground.data }, { on := 8, ground := Ground.data }, { on := 4, ground := Ground.chain }], guard := none }) rfl (by kernel_rfl) (by rfl) (exec_callL 25 [.tmp 11, .tmp 13] #[23, 23] rfl [vN y, vN y] rfl (CG25 _)) ((C1.out W58).mono ?_)
          rintro e59 W59 ⟨rfl, hb59⟩
          refine ⟨_, rfl, fun _ => hb59.mono HL_58.out, ?_⟩
          have Ngp_59 := Lib.hid (Ngp_58.out.keep hb59)
          have RZ52_59 := Lib.hid (RZ52_58.out.keep hb59)
          have RZ58_59 := Lib.hid (RZ58_58.out.keep hb59)
          have HF_59 : Hid (Below w.heap.size w W59) := Lib.hid (HF_58.out.trans (hb59.mono HF_58.out.size))
          have HL_59 : Hid (u7.heap.size ≤ W59.heap.size) := Lib.hid (Nat.le_trans HL_58.out hb59.size)
          clear hb59 HL_58 Ngp_58 RZ52_58 RZ58_58 HF_58
          simp only [Act.put, List.setIfInBounds_toArray, List.set_cons_zero, List.set_cons_succ]
          refine storeW_F (i := 12) (oi := { dst := none, op := Op.store 23 (Operand.tmp 3) (Operand.tmp 9), type := 0, pos := "curve.go:47", after := #[{ on := 10, ground := Ground.data }, { on := 4, ground := Ground.data }, { on := 9, ground := Ground.chain }, { on := 0, ground := Ground.phase }, { on := 1, ground := Ground.phase }, { on := 2, ground := Ground.phase }, { on := 3, ground := Ground.phase }, { on := 4, ground := Ground.phase }, { on := 5, ground := Ground.textOnly Departure.lateStores }, { on := 6, ground := Ground.textOnly Departure.lateStores }, { on := 7, ground := Ground.textOnly Departure.lateStores }, { on := 8, ground := Ground.textOnly Departure.lateStores }, { on := 9, ground := Ground.textOnly Departure.lateStoresUnsure }, { on := 10, ground := Ground.phase }, { on := 11, ground := Ground.phase }], guard := none }) rfl (by kernel_rfl) (by rfl) (.tmp 3) (.tmp 9) rfl (g58) 0 0 rfl [0] xx rfl rfl RZ58_59.out (show 0 < 1 by omega) rfl ?_
          intro W60 hr60 hg60 hz60
          simp only [Act.put, List.setIfInBounds_toArray, List.set_cons_zero, List.set_cons_succ]
          have Ngp_60 := Lib.hid (Ngp_59.out.grown hg60 (by have := HX58_1.out; simp; omega))
          have RZ52_60 := Lib.hid (RZ52_59.out.grown hg60 (by have := HX58_2.out; simp; omega))
          have RZ58_60 : Hid (RAt W60 g58 [xx]) := Lib.hid hr60
          have HF_60 : Hid (Below w.heap.size w W60) := Lib.hid (HF_59.out.grown hg60 HF_59.out.size (fun r hr => by injection hr with hr; have := (show w.heap.size ≤ g58 from (by have := HG58.out; have := HLO8.out; omega)); omega))
          have HL_60 : Hid (u7.heap.size ≤ W60.heap.size) := Lib.hid (Nat.le_trans HL_59.out hg60.size)
          clear hr60 hg60 hz60 HL_59 Ngp_59 RZ52_59 RZ58_59 HF_59
          refine storeW_F (i := 13) (oi := { dst := none, op := Op.store 23 (Operand.tmp 4) (Operand.tmp 14), type := 0, pos := "curve.go:47", after := #[{ on := 11, ground := Ground.data }, { on := 9, ground := Ground.data }, { on := 12, ground := Ground.chain }, { on := 0, ground := Ground.phase }, { on := 1, ground := Ground.phase }, { on := 2, ground := Ground.phase }, { on := 3, ground := Ground.phase }, { on := 4, ground := Ground.phase }, { on := 5, ground := Ground.phase }, { on := 6, ground := Ground.phase }, { on := 7, ground := Ground.phase }, { on := 8, ground := Ground.phase }, { on := 9, ground := Ground.phase }, { on := 10, ground := Ground.phase }, { on := 11, ground := Ground.phase }, { on := 12, ground := Ground.phase }], guard := none }) rfl (by kernel_rfl) (by rfl) (.tmp 4) (.tmp 14) rfl (g52) 0 0 rfl [0] yy rfl rfl RZ52_60.out (show 0 < 1 by omega) rfl ?_
          intro W61 hr61 hg61 hz61
          simp only [Act.put, List.setIfInBounds_toArray, List.set_cons_zero, List.set_cons_succ]
          have Ngp_61 := Lib.hid (Ngp_60.out.grown hg61 (by have := HX52_0.out; simp; omega))
          have RZ52_61 : Hid (RAt W61 g52 [yy]) := Lib.hid hr61
          have RZ58_61 := Lib.hid (RZ58_60.out.grown hg61 (by have := HX58_2.out; simp; omega))
          have HF_61 : Hid (Below w.heap.size w W61) := Lib.hid (HF_60.out.grown hg61 HF_60.out.size (fun r hr => by injection hr with hr; have := (show w.heap.size ≤ g52 from (by have := HG52.out; have := HLO8.out; omega)); omega))
          have HL_61 : Hid (u7.heap.size ≤ W61.heap.size) := Lib.hid (Nat.le_trans HL_60.out hg61.size)
          clear hr61 hg61 hz61 HL_60 Ngp_60 RZ52_60 RZ58_60 HF_60
          refine doneW (by kernel_rfl) ⟨rfl, ?_⟩ _
          exact ⟨g58, g52, Ngp_61.out, RZ58_61.out, RZ52_61.out, HG58.out, HG52.out, (by have := HX58_2.out; omega), HF_61.out, rfl⟩
      · refine wpOp_value (i := 10) (oi := { dst := some 3, op := Op.alloc 23, type := 0, pos := "curve.go:47", after := #[], guard := none }) rfl (by rfl) (exec_alloc 23 rfl (.agg (zbs 32)) zero23 W52) ⟨fun _ => (below_alloc W52 _).mono HL_52.out, ?_⟩
        obtain ⟨W62, hW62, hb62, hz62⟩ := alloc_zero W52
        rw [← hW62]
        obtain ⟨g62, hg62⟩ : ∃ g, g = W52.heap.size := ⟨_, rfl⟩
        rw [← hg62] at hz62 ⊢
        have HG62 : Hid (u7.heap.size ≤ g62) := Lib.hid (by rw [hg62]; exact HL_52.out)
        have HX62_1 : Hid (w.heap.size ≠ g62) := Lib.hid (by have := Ngp_52.out.lt; omega)
        have HX62_2 : Hid (g52 ≠ g62) := Lib.hid (by have := RZ52_52.out.lt; omega)
        have Ngp_62 := Lib.hid (Ngp_52.out.keep hb62)
        have RZ52_62 := Lib.hid (RZ52_52.out.keep hb62)
        have HF_62 : Hid (Below w.heap.size w W62) := Lib.hid (HF_52.out.trans (hb62.mono HF_52.out.size))
        have HL_62 : Hid (u7.heap.size ≤ W62.heap.size) := Lib.hid (Nat.le_trans HL_52.out hb62.size)
        have RZ62_62 : Hid (RAt W62 g62 [0]) := Lib.hid (zrow (k := 1) hz62)
        clear hb62 hz62 hg62 hW62 HL_52 Ngp_52 RZ52_52 HF_52
        simp only [Act.put, List.setIfInBounds_toArray, List.set_cons_zero, List.set_cons_succ]
        refine callW (i := 4) (oi := { dst := some 9, op := Op.call { callee := Callee.value (Operand.func 25), args := #[Operand.tmp 6, Operand.tmp 8], argTypes := #[23, 23] }, type := 23, pos := "curve.go:47", after := #[{ on := 1, ground := Ground.data }, { on := 3, ground := Ground.data }], guard := none }) rfl (by kernel_rfl) (by rfl) (exec_callL 25 [.tmp 6, .tmp 8] #[23, 23] rfl [vN x, vN x] rfl (CG25 _)) ((C0.out W62).mono ?_)
        rintro e63 W63 ⟨rfl, hb63⟩
        refine ⟨_, rfl, fun _ => hb63.mono HL_62.out, ?_⟩
        have Ngp_63 := Lib.hid (Ngp_62.out.keep hb63)
        have RZ52_63 := Lib.hid (RZ52_62.out.keep hb63)
        have RZ62_63 := Lib.hid (RZ62_62.out.keep hb63)
        have HF_63 : Hid (Below w.heap.size w W63) := Lib.hid (HF_62.out.trans (hb63.mono HF_62.out.size))
        have HL_63 : Hid (u7.heap.size ≤ W63.heap.size) := Lib.hid (Nat.le_trans HL_62.out hb63.size)
        clear hb63 HL_62 Ngp_62 RZ52_62 RZ62_62 HF_62
        simp only [Act.put, List.setIfInBounds_toArray, List.set_cons_zero, List.set_cons_succ]
        refine callW (i := 9) (oi := { dst := some 14, op := Op.call { callee := Callee.value (Operand.func 25), args := #[Operand.tmp 11, Operand.tmp 13], argTypes := #[23, 23] }, type := 23, pos := "curve.go:47", after := #[{ on := 6, ground := Ground.data }, { on := 8, ground := Ground.data }, { on := 4, ground := Ground.chain }], guard := none }) rfl (by kernel_rfl) (by rfl) (exec_callL 25 [.tmp 11, .tmp 13] #[23, 23] rfl [vN y, vN y] rfl (CG25 _)) ((C1.out W63).mono ?_)
        rintro e64 W64 ⟨rfl, hb64⟩
        refine ⟨_, rfl, fun _ => hb64.mono HL_63.out, ?_⟩
        have Ngp_64 := Lib.hid (Ngp_63.out.keep hb64)
        have RZ52_64 := Lib.hid (RZ52_63.out.keep hb64)
        have RZ62_64 := Lib.hid (RZ62_63.out.keep hb64)
        have HF_64 : Hid (Below w.heap.size w W64) := Lib.hid (HF_63.out.trans (hb64.mono HF_63.out.size))
        have HL_64 : Hid (u7.heap.size ≤ W64.heap.size) := Lib.hid (Nat.le_trans HL_63.out hb64.size)
        clear hb64 HL_63 Ngp_63 RZ52_63 RZ62_63 HF_63
        simp only [Act.put, List.setIfInBounds_toArray, List.set_cons_zero, List.set_cons_succ]
        refine storeW_F (i := 12) (oi := { dst := none, op := Op.store 23 (Operand.tmp 3) (Operand.tmp 9), type := 0, pos := "curve.go:47", after := #[{ on := 10, ground := Ground.data }, { on := 4, ground := Ground.data }, { on := 9, ground := Ground.chain }, { on := 0, ground := Ground.phase }, { on := 1, ground := Ground.phase }, { on := 2, ground := Ground.phase }, { on := 3, ground := Ground.phase }, { on := 4, ground := Ground.phase }, { on := 5, ground := Ground.textOnly Departure.lateStores }, { on := 6, ground := Ground.textOnly Departure.lateStores }, { on := 7, ground := Ground.textOnly Departure.lateStores }, { on := 8, ground := Ground.textOnly Departure.lateStores }, { on := 9, ground := Ground.textOnly Departure.lateStoresUnsure }, { on := 10, ground := Ground.phase }, { on := 11, ground := Ground.phase }], guard := none }) rfl (by kernel_rfl) (by rfl) (.tmp 3) (.tmp 9) rfl (g62) 0 0 rfl [0] xx rfl rfl RZ62_64.out (show 0 < 1 by omega) rfl ?_
        intro W65 hr65 hg65 hz65
        simp only [Act.put, List.setIfInBounds_toArray, List.set_cons_zero, List.set_cons_succ]
        have Ngp_65 := Lib.hid (Ngp_64.out.grown hg65 (by have := HX62_1.out; simp; omega))
        have RZ52_65 := Lib.hid (RZ52_64.out.grown hg65 (by have := HX62_2.out; simp; omega))
        have RZ62_65 : Hid (RAt W65 g62 [xx]) := Lib.hid hr65
        have HF_65 : Hid (Below w.heap.size w W65) := Lib.hid (HF_64.out.grown hg65 HF_64.out.size (fun r hr => by injection hr with hr; have := (show w.heap.size ≤ g62 from (by have := HG62.out; have := HLO8.out; omega)); omega))
        have HL_65 : Hid (u7.heap.size ≤ W65.heap.size) := Lib.hid (Nat.le_trans HL_64.out hg65.size)
        clear hr65 hg65 hz65 HL_64 Ngp_64 RZ52_64 RZ62_64 HF_64
        refine storeW_F (i := 13) (oi := { dst := none, op := Op.store 23 (Operand.tmp 4) (Operand.tmp 14), type := 0, pos := "curve.go:47", after := #[{ on := 11, ground := Ground.data }, { on := 9, ground := Ground.data }, { on := 12, ground := Ground.chain }, { on := 0, ground := Ground.phase }, { on := 1, ground := Ground.phase }, { on := 2, ground := Ground.phase }, { on := 3, ground := Ground.phase }, { on := 4, ground := Ground.phase }, { on := 5, ground := Ground.phase }, { on := 6, ground := Ground.phase }, { on := 7, ground := Ground.phase }, { on := 8, ground := Ground.phase }, { on := 9, ground := Ground.phase }, { on := 10, ground := Ground.phase }, { on := 11, ground := Ground.phase }, { on := 12, ground := Ground.phase }], guard := none }) rfl (by kernel_rfl) (by rfl) (.tmp 4) (.tmp 14) rfl (g52) 0 0 rfl [0] yy rfl rfl RZ52_65.out (show 0 < 1 by omega) rfl ?_
        intro W66 hr66 hg66 hz66
        simp only [Act.put, List.setIfInBounds_toArray, List.set_cons_zero, List.set_cons_succ]
        have Ngp_66 := Lib.hid (Ngp_65.out.grown hg66 (by have := HX52_0.out; simp; omega))
        have RZ52_66 : Hid (RAt W66 g52 [yy]) := Lib.hid hr66
        have RZ62_66 := Lib.hid (RZ62_65.out.grown hg66 (by have := HX62_2.out; simp; omega))
        have HF_66 : Hid (Below w.heap.size w W66) := Lib.hid (HF_65.out.grown hg66 HF_65.out.size (fun r hr => by injection hr with hr; have := (show w.heap.size ≤ g52 from (by have := HG52.out; have := HLO8.out; omega)); omega))
        have HL_66 : Hid (u7.heap.size ≤ W66.heap.size) := Lib.hid (Nat.le_trans HL_65.out hg66.size)
        clear hr66 hg66 hz66 HL_65 Ngp_65 RZ52_65 RZ62_65 HF_65
        refine doneW (by kernel_rfl) ⟨rfl, ?_⟩ _
        exact ⟨g62, g52, Ngp_66.out, RZ62_66.out, RZ52_66.out, HG62.out, HG52.out, (by have := HX62_2.out; omega), HF_66.out, rfl⟩
  rintro a' v67 ⟨a8_0, a8_1, h0, h1, h2, k0, k1, q0, hF, rfl⟩
  have Ngp_67 := Lib.hid h0
  have Na8_0_67 := Lib.hid h1
  have Na8_1_67 := Lib.hid h2
  have HNE67_0 : Hid (w.heap.size ≠ a8_0) := Lib.hid (by have := HLT8_0.out; omega)
  have HGE67_0 : Hid (w.heap.size ≤ a8_0) := Lib.hid (by have := HLO8.out; omega)
  have HNE67_1 : Hid (w.heap.size ≠ a8_1) := Lib.hid (by have := HLT8_0.out; omega)
  have HGE67_1 : Hid (w.heap.size ≤ a8_1) := Lib.hid (by have := HLO8.out; omega)
  have HNE67_2 := Lib.hid q0
  have HF_67 := Lib.hid hF
  clear h0 h1 h2 k0 k1 q0 hF HLT8_0 HLO8 Ngp_7 HF_7
  go_wp2_with fail
  have HLT68_0 : Hid (w.heap.size < v67.heap.size) := Lib.hid Ngp_67.out.lt
  have HLT68_1 : Hid (a8_0 < v67.heap.size) := Lib.hid Na8_0_67.out.lt
  have HLT68_2 : Hid (a8_1 < v67.heap.size) := Lib.hid Na8_1_67.out.lt
  have HLO68 : Hid (w.heap.size ≤ v67.heap.size) := Lib.hid HF_67.out.size
  refine region_split (fun a' W => RAt W w.heap.size [x, y] ∧ RAt W a8_0 [xx] ∧ RAt W a8_1 [yy] ∧ Below w.heap.size w W ∧ a' = ⟨#[vR [x, y], .pointer (some ⟨w.heap.size, 0, none⟩), .bool b, .pointer (some ⟨a8_0, 0, none⟩), .pointer (some ⟨a8_1, 0, none⟩), .pointer (some ⟨w.heap.size, 0, none⟩), vN x, .pointer (some ⟨w.heap.size, 0, none⟩), vN x, vN xx, .pointer (some ⟨w.heap.size, 32, none⟩), vN y, .pointer (some ⟨w.heap.size, 32, none⟩), vN y, vN yy, vN yy, vN xx, vN l, vN 1, vN dd, vN xx, vN yy, vN m, vN dm, vN r, .bool b], []⟩) ?_ ?_
  · refine startW (fun j => false) (v67.heap.size) (by kernel_rfl) ?_
    obtain ⟨D68, hD68⟩ : ∃ D, D = v67.drew := ⟨_, rfl⟩
    rw [← hD68]
    have HL_68 : Hid (v67.heap.size ≤ D68.heap.size) := Lib.hid (by rw [hD68]; exact Nat.le_refl _)
    have Ngp_68 : Hid (RAt D68 w.heap.size [x, y]) := Lib.hid (by rw [hD68]; exact Ngp_67.out)
    have Na8_0_68 : Hid (RAt D68 a8_0 [xx]) := Lib.hid (by rw [hD68]; exact Na8_0_67.out)
    have Na8_1_68 : Hid (RAt D68 a8_1 [yy]) := Lib.hid (by rw [hD68]; exact Na8_1_67.out)
    have HF_68 : Hid (Below w.heap.size w D68) := Lib.hid (by rw [hD68]; exact below_drewN' HF_67.out 1)
    clear hD68 Ngp_67 Na8_0_67 Na8_1_67 HF_67
    refine takeT (i := 0) (oi := { dst := some 15, op := Op.load 23 (Operand.tmp 4), type := 23, pos := "curve.go:48", after := #[], guard := none }) (vN yy) rfl (by kernel_rfl) (by kernel_rfl) (by kernel_rfl) (by kernel_rfl) (by kernel_rfl) (fun _ _ _ h => nomatch h.1) (by rfl) (fun w' hk => exec_loadF (.tmp 4) rfl (a8_1) 0 0 rfl [yy] yy rfl (Na8_1_68.out.below hk HLT68_2.out) rfl) ?_
    simp only [Act.put, List.setIfInBounds_toArray, List.set_cons_zero, List.set_cons_succ]
    refine takeT (i := 1) (oi := { dst := some 16, op := Op.load 23 (Operand.tmp 3), type := 23, pos := "curve.go:48", after := #[], guard := none }) (vN xx) rfl (by kernel_rfl) (by kernel_rfl) (by kernel_rfl) (by kernel_rfl) (by kernel_rfl) (fun _ _ _ h => nomatch h.1) (by rfl) (fun w' hk => exec_loadF (.tmp 3) rfl (a8_0) 0 0 rfl [xx] xx rfl (Na8_0_68.out.below hk HLT68_1.out) rfl) ?_
    simp only [Act.put, List.setIfInBounds_toArray, List.set_cons_zero, List.set_cons_succ]
    refine takeT (i := 5) (oi := { dst := some 20, op := Op.load 23 (Operand.tmp 3), type := 23, pos := "curve.go:48", after := #[], guard := none }) (vN xx) rfl (by kernel_rfl) (by kernel_rfl) (by kernel_rfl) (by kernel_rfl) (by kernel_rfl) (fun _ _ _ h => nomatch h.1) (by rfl) (fun w' hk => exec_loadF (.tmp 3) rfl (a8_0) 0 0 rfl [xx] xx rfl (Na8_0_68.out.below hk HLT68_1.out) rfl) ?_
    simp only [Act.put, List.setIfInBounds_toArray, List.set_cons_zero, List.set_cons_succ]
    refine takeT (i := 6) (oi := { dst := some 21, op := Op.load 23 (Operand.tmp 4), type := 23, pos := "curve.go:48", after := #[], guard := none }) (vN yy) rfl (by kernel_rfl) (by kernel_rfl) (by kernel_rfl) (by kernel_rfl) (by kernel_rfl) (fun _ _ _ h => nomatch h.1) (by rfl) (fun w' hk => exec_loadF (.tmp 4) rfl (a8_1) 0 0 rfl [yy] yy rfl (Na8_1_68.out.below hk HLT68_2.out) rfl) ?_
    simp only [Act.put, List.setIfInBounds_toArray, List.set_cons_zero, List.set_cons_succ]
    refine callW (i := 2) (oi := { dst := some 17, op := Op.call { callee := Callee.value (Operand.func 21), args := #[Operand.tmp 15, Operand.tmp 16], argTypes := #[23, 23] }, type := 23, pos := "curve.go:48", after := #[{ on := 0, ground := Ground.data }, { on := 1, ground := Ground.data }], guard := none }) rfl (by kernel_rfl) (by rfl) (exec_callL 21 [.tmp 15, .tmp 16] #[23, 23] rfl [vN yy, vN xx] rfl (CG21 _)) ((C2.out D68).mono ?_)
    rintro e69 W69 ⟨rfl, hb69⟩
    refine ⟨_, rfl, fun _ => hb69.mono HL_68.out, ?_⟩
    have Ngp_69 := Lib.hid (Ngp_68.out.keep hb69)
    have Na8_0_69 := Lib.hid (Na8_0_68.out.keep hb69)
    have Na8_1_69 := Lib.hid (Na8_1_68.out.keep hb69)
    have HF_69 : Hid (Below w.heap.size w W69) := Lib.hid (HF_68.out.trans (hb69.mono HF_68.out.size))
    have HL_69 : Hid (v67.heap.size ≤ W69.heap.size) := Lib.hid (Nat.le_trans HL_68.out hb69.size)
    clear hb69 HL_68 Ngp_68 Na8_0_68 Na8_1_68 HF_68
    simp only [Act.put, List.setIfInBounds_toArray, List.set_cons_zero, List.set_cons_succ]
    refine callW (i := 3) (oi := { dst := some 18, op := Op.call { callee := Callee.value (Operand.func 17), args := #[Operand.const (Value.int IntKind.u64 1)], argTypes := #[24] }, type := 23, pos := "curve.go:48", after := #[{ on := 2, ground := Ground.chain }], guard := none }) rfl (by kernel_rfl) (by rfl) (exec_callL 17 [.const (.int .u64 1)] #[24] rfl [.int .u64 1] rfl (CG17 _)) ((C3.out W69).mono ?_)
    rintro e70 W70 ⟨rfl, hb70⟩
    refine ⟨_, rfl, fun _ => hb70.mono HL_69.out, ?_⟩
    have Ngp_70 := Lib.hid (Ngp_69.out.keep hb70)
    have Na8_0_70 := Lib.hid (Na8_0_69.out.keep hb70)
    have Na8_1_70 := Lib.hid (Na8_1_69.out.keep hb70)
    have HF_70 : Hid (Below w.heap.size w W70) := Lib.hid (HF_69.out.trans (hb70.mono HF_69.out.size))
    have HL_70 : Hid (v67.heap.size ≤ W70.heap.size) := Lib.hid (Nat.le_trans HL_69.out hb70.size)
    clear hb70 HL_69 Ngp_69 Na8_0_69 Na8_1_69 HF_69
    simp only [Act.put, List.setIfInBounds_toArray, List.set_cons_zero, List.set_cons_succ]
    refine callW (i := 4) (oi := { dst := some 19, op := Op.call { callee := Callee.value (Operand.func 45), args := #[], argTypes := #[] }, type := 23, pos := "curve.go:48", after := #[{ on := 3, ground := Ground.chain }], guard := none }) rfl (by kernel_rfl) (by rfl) (exec_callL 45 [] #[] rfl [] rfl (CG45 _)) ((C4.out W70).mono ?_)
    rintro e71 W71 ⟨rfl, hb71⟩
    refine ⟨_, rfl, fun _ => hb71.mono HL_70.out, ?_⟩
    have Ngp_71 := Lib.hid (Ngp_70.out.keep hb71)
    have Na8_0_71 := Lib.hid (Na8_0_70.out.keep hb71)
    have Na8_1_71 := Lib.hid (Na8_1_70.out.keep hb71)
    have HF_71 : Hid (Below w.heap.size w W71) := Lib.hid (HF_70.out.trans (hb71.mono HF_70.out.size))
    have HL_71 : Hid (v67.heap.size ≤ W71.heap.size) := Lib.hid (Nat.le_trans HL_70.out hb71.size)
    clear hb71 HL_70 Ngp_70 Na8_0_70 Na8_1_70 HF_70
    simp only [Act.put, List.setIfInBounds_toArray, List.set_cons_zero, List.set_cons_succ]
    refine callW (i := 7) (oi := { dst := some 22, op := Op.call { callee := Callee.value (Operand.func 25), args := #[Operand.tmp 20, Operand.tmp 21], argTypes := #[23, 23] }, type := 23, pos := "curve.go:48", after := #[{ on := 5, ground := Ground.data }, { on := 6, ground := Ground.data }, { on := 4, ground := Ground.chain }], guard := none }) rfl (by kernel_rfl) (by rfl) (exec_callL 25 [.tmp 20, .tmp 21] #[23, 23] rfl [vN xx, vN yy] rfl (CG25 _)) ((C5.out W71).mono ?_)
    rintro e72 W72 ⟨rfl, hb72⟩
    refine ⟨_, rfl, fun _ => hb72.mono HL_71.out, ?_⟩
    have Ngp_72 := Lib.hid (Ngp_71.out.keep hb72)
    have Na8_0_72 := Lib.hid (Na8_0_71.out.keep hb72)
    have Na8_1_72 := Lib.hid (Na8_1_71.out.keep hb72)
    have HF_72 : Hid (Below w.heap.size w W72) := Lib.hid (HF_71.out.trans (hb72.mono HF_71.out.size))
    have HL_72 : Hid (v67.heap.size ≤ W72.heap.size) := Lib.hid (Nat.le_trans HL_71.out hb72.size)
    clear hb72 HL_71 Ngp_71 Na8_0_71 Na8_1_71 HF_71
    simp only [Act.put, List.setIfInBounds_toArray, List.set_cons_zero, List.set_cons_succ]
    refine callW (i := 8) (oi := { dst := some 23, op := Op.call { callee := Callee.value (Operand.func 25), args := #[Operand.tmp 19, Operand.tmp 22], argTypes := #[23, 23] }, type := 23, pos := "curve.go:48", after := #[{ on := 4, ground := Ground.data }, { on := 7, ground := Ground.data }, { on := 7, ground := Ground.chain }], guard := none }) rfl (by kernel_rfl) (by rfl) (exec_callL 25 [.tmp 19, .tmp 22] #[23, 23] rfl [vN dd, vN m] rfl (CG25 _)) ((C6.out W72).mono ?_)
    rintro e73 W73 ⟨rfl, hb73⟩
    refine ⟨_, rfl, fun _ => hb73.mono HL_72.out, ?_⟩
    have Ngp_73 := Lib.hid (Ngp_72.out.keep hb73)
    have Na8_0_73 := Lib.hid (Na8_0_72.out.keep hb73)
    have Na8_1_73 := Lib.hid (Na8_1_72.out.keep hb73)
    have HF_73 : Hid (Below w.heap.size w W73) := Lib.hid (HF_72.out.trans (hb73.mono HF_72.out.size))
    have HL_73 : Hid (v67.heap.size ≤ W73.heap.size) := Lib.hid (Nat.le_trans HL_72.out hb73.size)
    clear hb73 HL_72 Ngp_72 Na8_0_72 Na8_1_72 HF_72
    simp only [Act.put, List.setIfInBounds_toArray, List.set_cons_zero, List.set_cons_succ]
    refine callW (i := 9) (oi := { dst := some 24, op := Op.call { callee := Callee.value (Operand.func 19), args := #[Operand.tmp 18, Operand.tmp 23], argTypes := #[23, 23] }, type := 23, pos := "curve.go:48", after := #[{ on := 3, ground := Ground.data }, { on := 8, ground := Ground.data }, { on := 8, ground := Ground.chain }], guard := none }) rfl (by kernel_rfl) (by rfl) (exec_callL 19 [.tmp 18, .tmp 23] #[23, 23] rfl [vN 1, vN dm] rfl (CG19 _)) ((C7.out W73).mono ?_)
    rintro e74 W74 ⟨rfl, hb74⟩
    refine ⟨_, rfl, fun _ => hb74.mono HL_73.out, ?_⟩
    have Ngp_74 := Lib.hid (Ngp_73.out.keep hb74)
    have Na8_0_74 := Lib.hid (Na8_0_73.out.keep hb74)
    have Na8_1_74 := Lib.hid (Na8_1_73.out.keep hb74)
    have HF_74 : Hid (Below w.heap.size w W74) := Lib.hid (HF_73.out.trans (hb74.mono HF_73.out.size))
    have HL_74 : Hid (v67.heap.size ≤ W74.heap.size) := Lib.hid (Nat.le_trans HL_73.out hb74.size)
    clear hb74 HL_73 Ngp_73 Na8_0_73 Na8_1_73 HF_73
    simp only [Act.put, List.setIfInBounds_toArray, List.set_cons_zero, List.set_cons_succ]
    refine takeAE (i := 10) (oi := { dst := some 25, op := Op.binOp BinOp.eql 23 (Operand.tmp 17) (Operand.tmp 24) 23, type := 4, pos := "curve.go:48", after := #[{ on := 2, ground := Ground.data }, { on := 9, ground := Ground.data }], guard := none }) rfl (by kernel_rfl) (by kernel_rfl) (by kernel_rfl) (fun _ _ _ _ h => nomatch h.1) (by rfl) ?_
    refine ⟨.bool b, fun w' => exec_eq23 (.tmp 17) (.tmp 24) rfl rfl rfl (HE.out w'), ?_⟩
    simp only [Act.put, List.setIfInBounds_toArray, List.set_cons_zero, List.set_cons_succ]
    refine takeAE (i := 11) (oi := { dst := some 2, op := Op.assign (Operand.tmp 25), type := 4, pos := "curve.go:48", after := #[{ on := 10, ground := Ground.data }, { on := 9, ground := Ground.chain }, { on := 0, ground := Ground.phase }, { on := 1, ground := Ground.phase }, { on := 2, ground := Ground.phase }, { on := 3, ground := Ground.phase }, { on := 4, ground := Ground.phase }, { on := 5, ground := Ground.phase }, { on := 6, ground := Ground.phase }, { on := 7, ground := Ground.phase }, { on := 8, ground := Ground.phase }, { on := 9, ground := Ground.phase }, { on := 10, ground := Ground.phase }], guard := none }) rfl (by kernel_rfl) (by kernel_rfl) (by kernel_rfl) (fun _ _ _ _ h => nomatch h.1) (by rfl) ?_
    refine ⟨.bool b, fun w' => exec_moveA (.tmp 25) rfl _ rfl, ?_⟩
    simp only [Act.put, List.setIfInBounds_toArray, List.set_cons_zero, List.set_cons_succ]
    refine doneW (by kernel_rfl) ⟨rfl, ?_⟩ _
    exact ⟨Ngp_74.out, Na8_0_74.out, Na8_1_74.out, HF_74.out, rfl⟩
  rintro a' v75 ⟨h0, h1, h2, hF, rfl⟩
  have Ngp_75 := Lib.hid h0
  have Na8_0_75 := Lib.hid h1
  have Na8_1_75 := Lib.hid h2
  have HF_75 := Lib.hid hF
  clear h0 h1 h2 hF HLT68_0 HLT68_1 HLT68_2 HLO68 Ngp_67 Na8_0_67 Na8_1_67 HF_67
  go_wp2
  go_ret
  exact ⟨rfl, HF_75.out⟩
end Go.Proofs.Ytgdimnbdnepbgaa
