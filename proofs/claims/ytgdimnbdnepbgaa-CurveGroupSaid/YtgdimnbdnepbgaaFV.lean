/- The field's other functions of one number. No statement is proved here. -/
import Derived.Test.YtgdimnbdnepbgaaFU
namespace Go.Proofs.Ytgdimnbdnepbgaa
open Go.RowKit
set_option linter.unusedVariables false
set_option maxRecDepth 40000

theorem exec_build0 {o : Oper} {a : Act} {w : World} (ho : o.op = .build 23 #[]) : (execOp a.eval o).run Try.prog w = .ok (.value (vN 0)) w := by
  unfold execOp
  simp only [ho, List.map_toArray, List.map_nil, Sem.run_bind, Sem.run_pure]
  rw [run_build0 w]
  rfl
theorem exec_index0 {o : Oper} {a : Act} {w : World} {r x : Value} (i : Operand) (k : Operand) (ho : o.op = .index 23 i k) (hx : a.eval i = r) (hrun : (Instr.index 23 r (a.eval k)).run Try.prog w = .ok x w) : (execOp a.eval o).run Try.prog w = .ok (.value x) w := by
  unfold execOp
  simp only [ho, hx, Sem.run_bind, Sem.run_pure, Result.andThen_ok, hrun]

set_option maxHeartbeats 400000 in
theorem Canon_core (a r : Nat) (b : Bool) (w : World) (H11 : Hid (∀ w, Calls Try.prog 13 #[vN a] w (Gives (vN r) w))) (HE : Hid (∀ w, (Op.equalIn 10000 23 (vN a) (vN r)).run Try.prog w = .ok b w)) :
    Calls Try.prog 15 #[vN a] w (Gives (.bool b) w) := by
  go_enter Try.func15, Try.ntmps15
  go_wp2_with ((with_reducible show wpList _ _ _ (⟨some 1, .box 23 (.tmp 0), _, _, _, _⟩ :: _) _ _); go_must (refine wpList_box_row rfl 23 (.tmp 0) rfl (bcs (enc a)).toArray rfl ?_; intro w1 h1 z1 g1; have H1 := Lib.hid h1; have Z1 := Lib.hid z1; have G1 := Lib.hid g1; clear h1 z1 g1))
  have R : Hid (NAt w1 w.heap.size a) := ⟨23, H1.out⟩
  have HB : Hid (Below w.heap.size w w1) := below_of_grownBy G1.out
  clear H1 Z1 G1
  refine region_qb (by kernel_rfl) (by kernel_rfl) ?_
  refine qb_load rfl (.tmp 1) rfl (w.heap.size) a rfl R.out ?_
  simp only [Act.put, List.setIfInBounds_toArray, List.set_cons_zero, List.set_cons_succ]
  refine qb_load rfl (.tmp 1) rfl (w.heap.size) a rfl R.out ?_
  simp only [Act.put, List.setIfInBounds_toArray, List.set_cons_zero, List.set_cons_succ]
  refine qb_call rfl 13 [.tmp 4] #[23] rfl [vN a] rfl (CF11 _) (vN r) H11.out ?_
  simp only [Act.put, List.setIfInBounds_toArray, List.set_cons_zero, List.set_cons_succ]
  refine qb_eq rfl (.tmp 3) (.tmp 5) rfl a r rfl rfl b HE.out ?_
  simp only [Act.put, List.setIfInBounds_toArray, List.set_cons_zero, List.set_cons_succ]
  refine qb_assign rfl (.tmp 6) rfl (.bool b) rfl ?_
  simp only [Act.put, List.setIfInBounds_toArray, List.set_cons_zero, List.set_cons_succ]
  refine wpQuiet_nil ?_
  intro w2 hb
  have HB2 : Hid (Below w.heap.size w w2) := HB.out.trans (hb.mono HB.out.size)
  clear hb HB
  go_wp2
  go_ret
  exact ⟨rfl, HB2.out⟩

set_option maxHeartbeats 400000 in
theorem Neg_core (a r : Nat) (w : World) (H25 : Hid (∀ w, Calls Try.prog 21 #[vN 0, vN a] w (Gives (vN r) w))) :
    Calls Try.prog 23 #[vN a] w (Gives (vN r) w) := by
  go_enter Try.func23, Try.ntmps23
  go_wp2_with (first | ((with_reducible show wpList _ _ _ (⟨some 1, .box 23 (.tmp 0), _, _, _, _⟩ :: _) _ _); go_must (refine wpList_box_row rfl 23 (.tmp 0) rfl (bcs (enc a)).toArray rfl ?_; intro w1 h1 z1 g1; have H1 := Lib.hid h1; have Z1 := Lib.hid z1; have G1 := Lib.hid g1; clear h1 z1 g1)) | ((with_reducible show wpList _ _ _ (⟨some 2, .alloc 23, _, _, _, _⟩ :: _) _ _); go_must (refine wpList_alloc_row rfl 23 rfl (.agg (zbs 32)) zero23 ?_; intro w2 h1 z1 g1; have H2 := Lib.hid h1; have Z2 := Lib.hid z1; have G2 := Lib.hid g1; clear h1 z1 g1; have R : Hid (NAt w2 w.heap.size a) := NAt.grown ⟨23, H1.out⟩ G2.out (by simp))) | ((with_reducible show wpList _ _ _ (⟨_, .build 23 _, _, _, _, _⟩ :: _) _ _); go_must (refine wpList_exec rfl (vN 0) (exec_build0 rfl) ?_)) | ((with_reducible show wpList _ _ _ (⟨_, .load 23 (.tmp 1), _, _, _, _⟩ :: _) _ _); go_must (refine wpList_exec rfl (vN a) (exec_load23 (.tmp 1) rfl (w.heap.size) a rfl R.out) ?_)))
  have HB : Hid (Below w.heap.size w w2) := (below_of_grownBy G1.out).trans ((below_of_grownBy G2.out).mono (by have := Z1.out; omega))
  have HR2 : Hid (w2.heap[w.heap.size + 1]? = some (.cells (zbs 32) 23 (0, 0))) := by
    have h := H2.out
    rw [Z1.out] at h
    exact h
  rw [show w1.heap.size = w.heap.size + 1 from Z1.out]
  clear H1 Z1 G1 H2 Z2 G2 R
  refine (H25.out _).mono ?_
  rintro e x4 ⟨rfl, hb⟩
  have HRow : Hid (x4.heap[w.heap.size + 1]? = some (.cells (zbs 32) 23 (0, 0))) := (hb.block _ (Array.getElem?_eq_some_iff.1 HR2.out).1).trans HR2.out
  have HBel : Hid (Below w.heap.size w x4) := HB.out.trans (hb.mono HB.out.size)
  clear hb HB HR2 H25
  go_wp2_with ((with_reducible show wpList _ _ _ (⟨none, .store 23 (.tmp 2) (.tmp 5), _, _, _, _⟩ :: _) _ _); go_must (refine wpList_store_all rfl 23 (.tmp 2) (.tmp 5) rfl (w.heap.size + 1) rfl (bcs (enc r)).toArray rfl 23 _ HRow.out (by rw [List.size_toArray, bcs_enc_len]; exact size23) (by rw [List.size_toArray, bcs_enc_len]; rfl) (bcs_one _) ?_; intro x5 hh hg hz; have HH := Lib.hid hh; have HG := Lib.hid hg; clear hh hg hz))
  refine bodyPost_ret (results_cell_row rfl _ _ (w.heap.size + 1) 23 (bcs (enc r)).toArray _ _ rfl HH.out under23 rfl (by rw [List.size_toArray, bcs_enc_len]; exact size23)) rfl ?_
  exact ⟨rfl, HBel.out.grown HG.out HBel.out.size (fun r hr => by injection hr; omega)⟩

theorem enc_odd (n : Nat) : (bcs (enc n)).toArray[0]? = some (.int .u8 ((UInt8.ofNat (n % 18446744073709551616)).toNat : Int)) := rfl
set_option maxHeartbeats 400000 in
theorem Odd_core (a r : Nat) (b : Bool) (w : World) (H11 : Hid (∀ w, Calls Try.prog 13 #[vN a] w (Gives (vN r) w))) (HI : Hid (∀ w, (Instr.index 23 (vN r) (.int .i64 0)).run Try.prog w = .ok (.int .u8 ((r % 256 : Nat) : Int)) w))
    (HE : Hid ((bits .and .u8 ((r % 256 : Nat) : Int) 1 == 1) = b)) :
    Calls Try.prog 31 #[vN a] w (Gives (.bool b) w) := by
  have hlt : r % 256 < 256 := Nat.mod_lt _ (by omega)
  generalize r % 256 = x at *
  go_enter Try.func31, Try.ntmps31
  go_wp2_with (first | ((with_reducible show wpList _ _ _ (⟨some 1, .box 23 (.tmp 0), _, _, _, _⟩ :: _) _ _); go_must (refine wpList_box_row rfl 23 (.tmp 0) rfl (bcs (enc a)).toArray rfl ?_; intro w1 h1 z1 g1; have H1 := Lib.hid h1; have Z1 := Lib.hid z1; have G1 := Lib.hid g1; clear h1 z1 g1; have R : Hid (NAt w1 w.heap.size a) := ⟨23, H1.out⟩)) | ((with_reducible show wpList _ _ _ (⟨_, .load 23 (.tmp 1), _, _, _, _⟩ :: _) _ _); go_must (refine wpList_exec rfl (vN a) (exec_load23 (.tmp 1) rfl (w.heap.size) a rfl R.out) ?_)))
  have HB : Hid (Below w.heap.size w w1) := below_of_grownBy G1.out
  clear H1 Z1 G1 R
  refine (H11.out _).mono ?_
  rintro e x4 ⟨rfl, hb⟩
  have HBel : Hid (Below w.heap.size w x4) := HB.out.trans (hb.mono HB.out.size)
  clear hb HB H11
  go_wp2_with ((with_reducible show wpList _ _ _ (⟨_, .index 23 (.tmp 4) _, _, _, _, _⟩ :: _) _ _); go_must (refine wpList_exec rfl (.int .u8 (x : Int)) (exec_index0 _ _ rfl rfl (HI.out _)) ?_))
  go_ret
  refine ⟨?_, HBel.out⟩
  exact congrArg (fun x => Ending.returned (.bool x)) HE.out

set_option maxHeartbeats 400000 in
theorem Same_core (a b r s : Nat) (c : Bool) (w : World) (H1 : Hid (∀ w, Calls Try.prog 13 #[vN a] w (Gives (vN r) w))) (H2 : Hid (∀ w, Calls Try.prog 13 #[vN b] w (Gives (vN s) w))) (HE : Hid (∀ w, (Op.equalIn 10000 23 (vN r) (vN s)).run Try.prog w = .ok c w)) :
    Calls Try.prog 33 #[vN a, vN b] w (Gives (.bool c) w) := by
  go_enter Try.func33, Try.ntmps33
  go_wp2_with (first | ((with_reducible show wpList _ _ _ (⟨some 2, .box 23 (.tmp 0), _, _, _, _⟩ :: _) _ _); go_must (refine wpList_box_row rfl 23 (.tmp 0) rfl (bcs (enc a)).toArray rfl ?_; intro w3 h1 z1 g1; have H3 := Lib.hid h1; have Z3 := Lib.hid z1; have G3 := Lib.hid g1; clear h1 z1 g1)) | ((with_reducible show wpList _ _ _ (⟨some 3, .box 23 (.tmp 1), _, _, _, _⟩ :: _) _ _); go_must (refine wpList_box_row rfl 23 (.tmp 1) rfl (bcs (enc b)).toArray rfl ?_; intro w4 h1 z1 g1; have H4 := Lib.hid h1; have Z4 := Lib.hid z1; have G4 := Lib.hid g1; clear h1 z1 g1)))
  have R : Hid (NAt w4 w.heap.size a) := NAt.grown ⟨23, H3.out⟩ G4.out (by simp)
  have S : Hid (NAt w4 (w.heap.size + 1) b) := by
    have h := H4.out
    rw [Z3.out] at h
    exact ⟨23, h⟩
  have HB : Hid (Below w.heap.size w w4) := (below_of_grownBy G3.out).trans ((below_of_grownBy G4.out).mono (by have := Z3.out; omega))
  rw [show w3.heap.size = w.heap.size + 1 from Z3.out]
  clear H3 Z3 G3 H4 Z4 G4
  refine region_qb (by kernel_rfl) (by kernel_rfl) ?_
  refine qb_load rfl (.tmp 2) rfl (w.heap.size) a rfl R.out ?_
  simp only [Act.put, List.setIfInBounds_toArray, List.set_cons_zero, List.set_cons_succ]
  refine qb_call rfl 13 [.tmp 5] #[23] rfl [vN a] rfl (CF11 _) (vN r) H1.out ?_
  simp only [Act.put, List.setIfInBounds_toArray, List.set_cons_zero, List.set_cons_succ]
  refine qb_load rfl (.tmp 3) rfl (w.heap.size + 1) b rfl S.out ?_
  simp only [Act.put, List.setIfInBounds_toArray, List.set_cons_zero, List.set_cons_succ]
  refine qb_call rfl 13 [.tmp 7] #[23] rfl [vN b] rfl (CF11 _) (vN s) H2.out ?_
  simp only [Act.put, List.setIfInBounds_toArray, List.set_cons_zero, List.set_cons_succ]
  refine qb_eq rfl (.tmp 6) (.tmp 8) rfl r s rfl rfl c HE.out ?_
  simp only [Act.put, List.setIfInBounds_toArray, List.set_cons_zero, List.set_cons_succ]
  refine qb_assign rfl (.tmp 9) rfl (.bool c) rfl ?_
  simp only [Act.put, List.setIfInBounds_toArray, List.set_cons_zero, List.set_cons_succ]
  refine wpQuiet_nil ?_
  intro w2 hb
  have HB2 : Hid (Below w.heap.size w w2) := HB.out.trans (hb.mono HB.out.size)
  clear hb HB
  go_wp2
  go_ret
  exact ⟨rfl, HB2.out⟩
end Go.Proofs.Ytgdimnbdnepbgaa
