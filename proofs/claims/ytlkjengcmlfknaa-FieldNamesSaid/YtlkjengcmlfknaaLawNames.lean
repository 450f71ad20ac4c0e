/- It is proved that FieldNames returns true: the examples of the chapter have the results that it states. Conditions: none. -/
import Derived.Test.YtlkjengcmlfknaaRows
import Derived.Test.YtlkjengcmlfknaaGE
import Derived.ProofKit
import Derived.OpenShut
import Derived.ChangeOld
namespace Go.Proofs.Ytlkjengcmlfknaa.fieldNames
open Go.ChangeShapes Go.WideShapes Go.ChangeAt Go.RowKit
set_option linter.unusedVariables false

theorem own : ownKnob Try.prog.godebug = none := by kernel_rfl
theorem laidOut : laidOutB Try.prog = true := by kernel_rfl
set_option linter.unusedSimpArgs false

/-- The bytes of p, the inner ones set so far. -/
def pl : Nat → List UInt8
  | 0 => ((List.replicate 32 0).set 0 237).set 31 127
  | n + 1 => (pl n).set (n + 1) 255
theorem pl_len (n : Nat) : (pl n).length = 32 := by
  induction n with
  | zero => rfl
  | succ n ih => unfold pl; rw [List.length_set]; exact ih
theorem exec_buildp {o : Oper} {a : Act} {w : World} (ho : o.op = .build 23 #[(0, .const (.int .u8 237)), (31, .const (.int .u8 127))]) : (execOp a.eval o).run Try.prog w = .ok (.value (.agg (bcs (pl 0)).toArray)) w := by
  have h : (Instr.build 23 #[(0, .int .u8 237), (31, .int .u8 127)]).run Try.prog w = .ok (.agg (bcs (pl 0)).toArray) w := by kernel_rfl
  unfold execOp
  simp only [ho, List.map_toArray, List.map_cons, List.map_nil, Act.eval, Sem.run_bind, Sem.run_pure, Result.andThen_ok]
  rw [h]
  rfl
theorem exec_build258 {o : Oper} {a : Act} {w : World} (ho : o.op = .build 23 #[(0, .const (.int .u8 2)), (1, .const (.int .u8 1))]) : (execOp a.eval o).run Try.prog w = .ok (.value (vN 258)) w := by
  have h : (Instr.build 23 #[(0, .int .u8 2), (1, .int .u8 1)]).run Try.prog w = .ok (vN 258) w := by kernel_rfl
  unfold execOp
  simp only [ho, List.map_toArray, List.map_cons, List.map_nil, Act.eval, Sem.run_bind, Sem.run_pure, Result.andThen_ok]
  rw [h]
  rfl
/-- The row of p. -/
structure PR (w : World) (l : List UInt8) (w' : World) : Prop where
  row : w'.heap[w.heap.size]? = some (.cells (bcs l).toArray 23 (0, 0))
  bel : Below w.heap.size w w'
theorem PR.set {w : World} {l : List UInt8} {w' w'' : World} (h : PR w l w') (hg : w'.grownBy w'' (some w.heap.size)) (l' : List UInt8) (hh : w''.heap[w.heap.size]? = some (.cells (bcs l').toArray 23 (0, 0))) : PR w l' w'' :=
  ⟨hh, h.bel.grown hg h.bel.size (fun r hr => by injection hr; omega)⟩

set_option maxHeartbeats 8000000 in
set_option maxRecDepth 100000 in
theorem names_core (pp l : Nat) (w : World) (HP : Hid (pl 30 = enc pp))
    (C0 : Hid (∀ w, Calls Try.prog 10 #[] w (Gives (.bool true) w)))
    (C1 : Hid (∀ w, Calls Try.prog 9 #[vN pp] w (Gives (.tuple #[vN 0, .bool true]) w)))
    (C2 : Hid (∀ w, Calls Try.prog 11 #[vN pp] w (Gives (vN 0) w)))
    (C3 : Hid (∀ w, Calls Try.prog 12 #[vN pp] w (Gives (.bool false) w)))
    (C4 : Hid (∀ w, Calls Try.prog 14 #[.int .u64 1] w (Gives (vN 1) w)))
    (C5 : Hid (∀ w, Calls Try.prog 13 #[vN 1] w (Gives (vN l) w)))
    (C6 : Hid (∀ w, Calls Try.prog 12 #[vN l] w (Gives (.bool true) w)))
    (C7 : Hid (∀ w, Calls Try.prog 15 #[vN pp] w (Gives (vN 0) w)))
    (C8 : Hid (∀ w, Calls Try.prog 16 #[vN pp, vN 0] w (Gives (vN 1) w)))
    (C9 : Hid (∀ w, Calls Try.prog 14 #[.int .u64 7] w (Gives (vN 7) w)))
    (C10 : Hid (∀ w, Calls Try.prog 17 #[vN 7] w (Gives (.bool true) w)))
    (C11 : Hid (∀ w, Calls Try.prog 17 #[vN l] w (Gives (.bool false) w)))
    (C12 : Hid (∀ w, Calls Try.prog 18 #[vN pp, vN 0] w (Gives (.bool true) w)))
    (C13 : Hid (∀ w, Calls Try.prog 14 #[.int .u64 258] w (Gives (vN 258) w))) :
    Calls Try.prog 3 #[] w (Gives (.bool true) w) := by
  go_enter Try.func3, Try.ntmps3
  go_wp2_with (first | ((with_reducible show wpList _ _ _ (⟨some 5, .build 23 _, _, _, _, _⟩ :: _) _ _); go_must (refine wpList_exec rfl (.agg (bcs (pl 0)).toArray) (exec_buildp rfl) ?_)) | ((with_reducible show wpList _ _ _ (⟨some 1, .alloc 23, _, _, _, _⟩ :: _) _ _); go_must (refine wpList_alloc_row rfl 23 rfl (.agg (zbs 32)) zero23 ?_; intro w1 h1 z1 g1; have H1 := Lib.hid h1; have Z1 := Lib.hid z1; have G1 := Lib.hid g1; clear h1 z1 g1)) | ((with_reducible show wpList _ _ _ (⟨none, .store 23 (.tmp 1) (.tmp 5), _, _, _, _⟩ :: _) _ _); go_must (refine wpList_store_all rfl 23 (.tmp 1) (.tmp 5) rfl (w.heap.size) rfl (bcs (pl 0)).toArray rfl 23 _ H1.out size23 rfl (bcs_one _) ?_; intro w2 hh hg hz; have HH := Lib.hid hh; have HG := Lib.hid hg; clear hh hg hz)) | fail)
  have S : Hid (PR w (pl 0) w2) := Lib.hid ⟨HH.out, (below_of_grownBy G1.out).grown HG.out (by have := Z1.out; omega) (fun r hr => by injection hr with hr; omega)⟩
  clear H1 Z1 G1 HH HG
  go_loopw [2] (fun i wr => ∃ q : Nat, q ≤ 30 ∧ i = .int .i64 (q + 1 : Nat) ∧ PR w (pl q) wr) (fun i _ => 31 - (intOf i).toNat)
  case atStart => exact ⟨0, by omega, rfl, S.out⟩
  case round =>
    obtain ⟨q, hq, rfl, hp⟩ := hrel
    have H := Lib.hid hp
    clear hp S
    by_cases hlt : q < 30
    · have hki : ((q + 1 : Nat) : Int) < 31 := by omega
      have hkl : ((q + 1 : Nat) : Int) < 32 := by omega
      have HL : Hid ((pl q).length = 32) := pl_len q
      have HE : Hid (pl (q + 1) = (pl q).set (q + 1) 255) := rfl
      go_wp2_with ((with_reducible show wpList _ _ _ (⟨none, .store 5 (.tmp 11) _, _, _, _, _⟩ :: _) _ _); go_must (refine wpList_store_one rfl 5 (.tmp 11) _ rfl (w.heap.size) (q + 1) rfl .u8 255 rfl 23 _ H.out.row size5 (by simp only [List.size_toArray, bcs_len]; have := HL.out; omega) ?_; intro y0 hh hg hz; rw [show (255 : Int) = ((255 : UInt8).toNat : Int) from rfl, bcs_set, ← HE.out] at hh; have H2 := Lib.hid (H.out.set hg _ hh); clear hh hg hz H))
      exact ⟨⟨q + 1, by omega, by first | go_num | (congr 1; omega), H2.out⟩, by simp [intOf]; omega⟩
    · obtain rfl : q = 30 := by omega
      have RP_0 : Hid (NAt wr w.heap.size pp) := Lib.hid ⟨23, by rw [← HP.out]; exact H.out.row⟩
      have HB_0 := Lib.hid H.out.bel
      clear H HP
      go_wp2_with (first | ((with_reducible show wpList _ _ _ (⟨_, .load 23 (.tmp 1), _, _, _, _⟩ :: _) _ _); go_must (refine wpList_exec rfl (vN pp) (exec_load23 (.tmp 1) rfl (w.heap.size) pp rfl RP_0.out) ?_)) | fail)
      refine (C1.out _).mono ?_
      rintro ex x11 ⟨rfl, hb⟩
      have RP_11 := Lib.hid (RP_0.out.keep hb)
      have HB_11 := Lib.hid (HB_0.out.trans (hb.mono HB_0.out.size))
      clear hb RP_0 HB_0
      go_wp2_with (first | ((with_reducible show wpList _ _ _ (⟨some 3, .alloc 23, _, _, _, _⟩ :: _) _ _); go_must (refine wpList_alloc_row rfl 23 rfl (.agg (zbs 32)) zero23 ?_; intro u12 h1 z1 g1; have H12 := Lib.hid h1; have Z12 := Lib.hid z1; have G12 := Lib.hid g1; clear h1 z1 g1)) | ((with_reducible show wpList _ _ _ (⟨none, .store 23 (.tmp 3) (.tmp 15), _, _, _, _⟩ :: _) _ _); go_must (refine wpList_store_all rfl 23 (.tmp 3) (.tmp 15) rfl (x11.heap.size) rfl (bcs (enc 0)).toArray rfl 23 _ (H12.out) (by rw [List.size_toArray, bcs_enc_len]; exact size23) (by rw [List.size_toArray, bcs_enc_len]; rfl) (bcs_one _) ?_; intro v12 hh hg hz; have HH12 := Lib.hid hh; have HG12 := Lib.hid hg; clear hh hg hz; have RP_12 := Lib.hid ((RP_11.out.grown G12.out (by simp)).grown HG12.out (by have := RP_11.out.lt; simp; omega)); have X_12 : Hid (NAt v12 x11.heap.size 0) := Lib.hid ⟨23, HH12.out⟩; have HB_12 : Hid (Below w.heap.size w v12) := Lib.hid ((HB_11.out.grown G12.out HB_11.out.size (by simp)).grown HG12.out (by have := HB_11.out.size; have := Z12.out; omega) (fun r hr => by injection hr with hr; have := HB_11.out.size; omega)); clear H12 Z12 G12 HH12 HG12 HB_11 RP_11)) | fail)
      generalize x11.heap.size = g3 at *
      refine (C0.out _).mono ?_
      rintro ex x13 ⟨rfl, hb⟩
      have RP_13 := Lib.hid (RP_12.out.keep hb)
      have X_13 := Lib.hid (X_12.out.keep hb)
      have HB_13 := Lib.hid (HB_12.out.trans (hb.mono HB_12.out.size))
      clear hb RP_12 X_12 HB_12
      go_wp2_with (first | ((with_reducible show wpList _ _ _ (⟨_, .load 23 (.tmp 1), _, _, _, _⟩ :: _) _ _); go_must (refine wpList_exec rfl (vN pp) (exec_load23 (.tmp 1) rfl (w.heap.size) pp rfl RP_13.out) ?_)) | ((with_reducible show wpList _ _ _ (⟨_, .load 23 (.tmp 3), _, _, _, _⟩ :: _) _ _); go_must (refine wpList_exec rfl (vN 0) (exec_load23 (.tmp 3) rfl (g3) 0 rfl X_13.out) ?_)) | ((with_reducible show wpList _ _ _ (⟨some 72, .build 23 _, _, _, _, _⟩ :: _) _ _); go_must (refine wpList_exec rfl (vN 258) (exec_build258 rfl) ?_)) | ((with_reducible show wpList _ _ _ (⟨_, .build 23 _, _, _, _, _⟩ :: _) _ _); go_must (refine wpList_exec rfl (vN 0) (exec_build0 rfl) ?_)) | fail)
      refine (C2.out _).mono ?_
      rintro ex x14 ⟨rfl, hb⟩
      have RP_14 := Lib.hid (RP_13.out.keep hb)
      have X_14 := Lib.hid (X_13.out.keep hb)
      have HB_14 := Lib.hid (HB_13.out.trans (hb.mono HB_13.out.size))
      clear hb RP_13 X_13 HB_13
      go_wp2_with (first | ((with_reducible show wpList _ _ _ (⟨_, .load 23 (.tmp 1), _, _, _, _⟩ :: _) _ _); go_must (refine wpList_exec rfl (vN pp) (exec_load23 (.tmp 1) rfl (w.heap.size) pp rfl RP_14.out) ?_)) | ((with_reducible show wpList _ _ _ (⟨_, .load 23 (.tmp 3), _, _, _, _⟩ :: _) _ _); go_must (refine wpList_exec rfl (vN 0) (exec_load23 (.tmp 3) rfl (g3) 0 rfl X_14.out) ?_)) | ((with_reducible show wpList _ _ _ (⟨some 72, .build 23 _, _, _, _, _⟩ :: _) _ _); go_must (refine wpList_exec rfl (vN 258) (exec_build258 rfl) ?_)) | ((with_reducible show wpList _ _ _ (⟨_, .build 23 _, _, _, _, _⟩ :: _) _ _); go_must (refine wpList_exec rfl (vN 0) (exec_build0 rfl) ?_)) | ((with_reducible show wpList _ _ _ (⟨_, .binOp .eql 23 (.tmp 20) (.tmp 21) 23, _, _, _, _⟩ :: _) _ _); go_must (refine wpList_exec rfl (.bool true) (exec_eq23 (.tmp 20) (.tmp 21) rfl rfl rfl (eqN_same 0 _)) ?_)) | fail)
      refine (C3.out _).mono ?_
      rintro ex x15 ⟨rfl, hb⟩
      have RP_15 := Lib.hid (RP_14.out.keep hb)
      have X_15 := Lib.hid (X_14.out.keep hb)
      have HB_15 := Lib.hid (HB_14.out.trans (hb.mono HB_14.out.size))
      clear hb RP_14 X_14 HB_14
      go_wp2_with (first | ((with_reducible show wpList _ _ _ (⟨_, .load 23 (.tmp 1), _, _, _, _⟩ :: _) _ _); go_must (refine wpList_exec rfl (vN pp) (exec_load23 (.tmp 1) rfl (w.heap.size) pp rfl RP_15.out) ?_)) | ((with_reducible show wpList _ _ _ (⟨_, .load 23 (.tmp 3), _, _, _, _⟩ :: _) _ _); go_must (refine wpList_exec rfl (vN 0) (exec_load23 (.tmp 3) rfl (g3) 0 rfl X_15.out) ?_)) | ((with_reducible show wpList _ _ _ (⟨some 72, .build 23 _, _, _, _, _⟩ :: _) _ _); go_must (refine wpList_exec rfl (vN 258) (exec_build258 rfl) ?_)) | ((with_reducible show wpList _ _ _ (⟨_, .build 23 _, _, _, _, _⟩ :: _) _ _); go_must (refine wpList_exec rfl (vN 0) (exec_build0 rfl) ?_)) | fail)
      refine (C4.out _).mono ?_
      rintro ex x16 ⟨rfl, hb⟩
      have RP_16 := Lib.hid (RP_15.out.keep hb)
      have X_16 := Lib.hid (X_15.out.keep hb)
      have HB_16 := Lib.hid (HB_15.out.trans (hb.mono HB_15.out.size))
      clear hb RP_15 X_15 HB_15
      go_wp2_with (first | ((with_reducible show wpList _ _ _ (⟨_, .load 23 (.tmp 1), _, _, _, _⟩ :: _) _ _); go_must (refine wpList_exec rfl (vN pp) (exec_load23 (.tmp 1) rfl (w.heap.size) pp rfl RP_16.out) ?_)) | ((with_reducible show wpList _ _ _ (⟨_, .load 23 (.tmp 3), _, _, _, _⟩ :: _) _ _); go_must (refine wpList_exec rfl (vN 0) (exec_load23 (.tmp 3) rfl (g3) 0 rfl X_16.out) ?_)) | ((with_reducible show wpList _ _ _ (⟨some 72, .build 23 _, _, _, _, _⟩ :: _) _ _); go_must (refine wpList_exec rfl (vN 258) (exec_build258 rfl) ?_)) | ((with_reducible show wpList _ _ _ (⟨_, .build 23 _, _, _, _, _⟩ :: _) _ _); go_must (refine wpList_exec rfl (vN 0) (exec_build0 rfl) ?_)) | fail)
      refine (C5.out _).mono ?_
      rintro ex x17 ⟨rfl, hb⟩
      have RP_17 := Lib.hid (RP_16.out.keep hb)
      have X_17 := Lib.hid (X_16.out.keep hb)
      have HB_17 := Lib.hid (HB_16.out.trans (hb.mono HB_16.out.size))
      clear hb RP_16 X_16 HB_16
      go_wp2_with (first | ((with_reducible show wpList _ _ _ (⟨_, .load 23 (.tmp 1), _, _, _, _⟩ :: _) _ _); go_must (refine wpList_exec rfl (vN pp) (exec_load23 (.tmp 1) rfl (w.heap.size) pp rfl RP_17.out) ?_)) | ((with_reducible show wpList _ _ _ (⟨_, .load 23 (.tmp 3), _, _, _, _⟩ :: _) _ _); go_must (refine wpList_exec rfl (vN 0) (exec_load23 (.tmp 3) rfl (g3) 0 rfl X_17.out) ?_)) | ((with_reducible show wpList _ _ _ (⟨some 72, .build 23 _, _, _, _, _⟩ :: _) _ _); go_must (refine wpList_exec rfl (vN 258) (exec_build258 rfl) ?_)) | ((with_reducible show wpList _ _ _ (⟨_, .build 23 _, _, _, _, _⟩ :: _) _ _); go_must (refine wpList_exec rfl (vN 0) (exec_build0 rfl) ?_)) | fail)
      refine (C6.out _).mono ?_
      rintro ex x18 ⟨rfl, hb⟩
      have RP_18 := Lib.hid (RP_17.out.keep hb)
      have X_18 := Lib.hid (X_17.out.keep hb)
      have HB_18 := Lib.hid (HB_17.out.trans (hb.mono HB_17.out.size))
      clear hb RP_17 X_17 HB_17
      go_wp2_with (first | ((with_reducible show wpList _ _ _ (⟨_, .load 23 (.tmp 1), _, _, _, _⟩ :: _) _ _); go_must (refine wpList_exec rfl (vN pp) (exec_load23 (.tmp 1) rfl (w.heap.size) pp rfl RP_18.out) ?_)) | ((with_reducible show wpList _ _ _ (⟨_, .load 23 (.tmp 3), _, _, _, _⟩ :: _) _ _); go_must (refine wpList_exec rfl (vN 0) (exec_load23 (.tmp 3) rfl (g3) 0 rfl X_18.out) ?_)) | ((with_reducible show wpList _ _ _ (⟨some 72, .build 23 _, _, _, _, _⟩ :: _) _ _); go_must (refine wpList_exec rfl (vN 258) (exec_build258 rfl) ?_)) | ((with_reducible show wpList _ _ _ (⟨_, .build 23 _, _, _, _, _⟩ :: _) _ _); go_must (refine wpList_exec rfl (vN 0) (exec_build0 rfl) ?_)) | ((with_reducible show wpList _ _ _ (⟨_, .binOp .eql 23 (.tmp 38) (.tmp 39) 23, _, _, _, _⟩ :: _) _ _); go_must (refine wpList_exec rfl (.bool true) (exec_eq23 (.tmp 38) (.tmp 39) rfl rfl rfl (eqN_same 0 _)) ?_)) | fail)
      refine (C7.out _).mono ?_
      rintro ex x19 ⟨rfl, hb⟩
      have RP_19 := Lib.hid (RP_18.out.keep hb)
      have X_19 := Lib.hid (X_18.out.keep hb)
      have HB_19 := Lib.hid (HB_18.out.trans (hb.mono HB_18.out.size))
      clear hb RP_18 X_18 HB_18
      go_wp2_with (first | ((with_reducible show wpList _ _ _ (⟨_, .load 23 (.tmp 1), _, _, _, _⟩ :: _) _ _); go_must (refine wpList_exec rfl (vN pp) (exec_load23 (.tmp 1) rfl (w.heap.size) pp rfl RP_19.out) ?_)) | ((with_reducible show wpList _ _ _ (⟨_, .load 23 (.tmp 3), _, _, _, _⟩ :: _) _ _); go_must (refine wpList_exec rfl (vN 0) (exec_load23 (.tmp 3) rfl (g3) 0 rfl X_19.out) ?_)) | ((with_reducible show wpList _ _ _ (⟨some 72, .build 23 _, _, _, _, _⟩ :: _) _ _); go_must (refine wpList_exec rfl (vN 258) (exec_build258 rfl) ?_)) | ((with_reducible show wpList _ _ _ (⟨_, .build 23 _, _, _, _, _⟩ :: _) _ _); go_must (refine wpList_exec rfl (vN 0) (exec_build0 rfl) ?_)) | ((with_reducible show wpList _ _ _ (⟨_, .binOp .eql 23 (.tmp 44) (.tmp 45) 23, _, _, _, _⟩ :: _) _ _); go_must (refine wpList_exec rfl (.bool true) (exec_eq23 (.tmp 44) (.tmp 45) rfl rfl rfl (eqN_same 0 _)) ?_)) | fail)
      refine (C8.out _).mono ?_
      rintro ex x20 ⟨rfl, hb⟩
      have RP_20 := Lib.hid (RP_19.out.keep hb)
      have X_20 := Lib.hid (X_19.out.keep hb)
      have HB_20 := Lib.hid (HB_19.out.trans (hb.mono HB_19.out.size))
      clear hb RP_19 X_19 HB_19
      go_wp2_with (first | ((with_reducible show wpList _ _ _ (⟨_, .load 23 (.tmp 1), _, _, _, _⟩ :: _) _ _); go_must (refine wpList_exec rfl (vN pp) (exec_load23 (.tmp 1) rfl (w.heap.size) pp rfl RP_20.out) ?_)) | ((with_reducible show wpList _ _ _ (⟨_, .load 23 (.tmp 3), _, _, _, _⟩ :: _) _ _); go_must (refine wpList_exec rfl (vN 0) (exec_load23 (.tmp 3) rfl (g3) 0 rfl X_20.out) ?_)) | ((with_reducible show wpList _ _ _ (⟨some 72, .build 23 _, _, _, _, _⟩ :: _) _ _); go_must (refine wpList_exec rfl (vN 258) (exec_build258 rfl) ?_)) | ((with_reducible show wpList _ _ _ (⟨_, .build 23 _, _, _, _, _⟩ :: _) _ _); go_must (refine wpList_exec rfl (vN 0) (exec_build0 rfl) ?_)) | fail)
      refine (C4.out _).mono ?_
      rintro ex x21 ⟨rfl, hb⟩
      have RP_21 := Lib.hid (RP_20.out.keep hb)
      have X_21 := Lib.hid (X_20.out.keep hb)
      have HB_21 := Lib.hid (HB_20.out.trans (hb.mono HB_20.out.size))
      clear hb RP_20 X_20 HB_20
      go_wp2_with (first | ((with_reducible show wpList _ _ _ (⟨_, .load 23 (.tmp 1), _, _, _, _⟩ :: _) _ _); go_must (refine wpList_exec rfl (vN pp) (exec_load23 (.tmp 1) rfl (w.heap.size) pp rfl RP_21.out) ?_)) | ((with_reducible show wpList _ _ _ (⟨_, .load 23 (.tmp 3), _, _, _, _⟩ :: _) _ _); go_must (refine wpList_exec rfl (vN 0) (exec_load23 (.tmp 3) rfl (g3) 0 rfl X_21.out) ?_)) | ((with_reducible show wpList _ _ _ (⟨some 72, .build 23 _, _, _, _, _⟩ :: _) _ _); go_must (refine wpList_exec rfl (vN 258) (exec_build258 rfl) ?_)) | ((with_reducible show wpList _ _ _ (⟨_, .build 23 _, _, _, _, _⟩ :: _) _ _); go_must (refine wpList_exec rfl (vN 0) (exec_build0 rfl) ?_)) | ((with_reducible show wpList _ _ _ (⟨_, .binOp .eql 23 (.tmp 51) (.tmp 52) 23, _, _, _, _⟩ :: _) _ _); go_must (refine wpList_exec rfl (.bool true) (exec_eq23 (.tmp 51) (.tmp 52) rfl rfl rfl (eqN_same 1 _)) ?_)) | fail)
      refine (C9.out _).mono ?_
      rintro ex x22 ⟨rfl, hb⟩
      have RP_22 := Lib.hid (RP_21.out.keep hb)
      have X_22 := Lib.hid (X_21.out.keep hb)
      have HB_22 := Lib.hid (HB_21.out.trans (hb.mono HB_21.out.size))
      clear hb RP_21 X_21 HB_21
      go_wp2_with (first | ((with_reducible show wpList _ _ _ (⟨_, .load 23 (.tmp 1), _, _, _, _⟩ :: _) _ _); go_must (refine wpList_exec rfl (vN pp) (exec_load23 (.tmp 1) rfl (w.heap.size) pp rfl RP_22.out) ?_)) | ((with_reducible show wpList _ _ _ (⟨_, .load 23 (.tmp 3), _, _, _, _⟩ :: _) _ _); go_must (refine wpList_exec rfl (vN 0) (exec_load23 (.tmp 3) rfl (g3) 0 rfl X_22.out) ?_)) | ((with_reducible show wpList _ _ _ (⟨some 72, .build 23 _, _, _, _, _⟩ :: _) _ _); go_must (refine wpList_exec rfl (vN 258) (exec_build258 rfl) ?_)) | ((with_reducible show wpList _ _ _ (⟨_, .build 23 _, _, _, _, _⟩ :: _) _ _); go_must (refine wpList_exec rfl (vN 0) (exec_build0 rfl) ?_)) | fail)
      refine (C10.out _).mono ?_
      rintro ex x23 ⟨rfl, hb⟩
      have RP_23 := Lib.hid (RP_22.out.keep hb)
      have X_23 := Lib.hid (X_22.out.keep hb)
      have HB_23 := Lib.hid (HB_22.out.trans (hb.mono HB_22.out.size))
      clear hb RP_22 X_22 HB_22
      go_wp2_with (first | ((with_reducible show wpList _ _ _ (⟨_, .load 23 (.tmp 1), _, _, _, _⟩ :: _) _ _); go_must (refine wpList_exec rfl (vN pp) (exec_load23 (.tmp 1) rfl (w.heap.size) pp rfl RP_23.out) ?_)) | ((with_reducible show wpList _ _ _ (⟨_, .load 23 (.tmp 3), _, _, _, _⟩ :: _) _ _); go_must (refine wpList_exec rfl (vN 0) (exec_load23 (.tmp 3) rfl (g3) 0 rfl X_23.out) ?_)) | ((with_reducible show wpList _ _ _ (⟨some 72, .build 23 _, _, _, _, _⟩ :: _) _ _); go_must (refine wpList_exec rfl (vN 258) (exec_build258 rfl) ?_)) | ((with_reducible show wpList _ _ _ (⟨_, .build 23 _, _, _, _, _⟩ :: _) _ _); go_must (refine wpList_exec rfl (vN 0) (exec_build0 rfl) ?_)) | fail)
      refine (C4.out _).mono ?_
      rintro ex x24 ⟨rfl, hb⟩
      have RP_24 := Lib.hid (RP_23.out.keep hb)
      have X_24 := Lib.hid (X_23.out.keep hb)
      have HB_24 := Lib.hid (HB_23.out.trans (hb.mono HB_23.out.size))
      clear hb RP_23 X_23 HB_23
      go_wp2_with (first | ((with_reducible show wpList _ _ _ (⟨_, .load 23 (.tmp 1), _, _, _, _⟩ :: _) _ _); go_must (refine wpList_exec rfl (vN pp) (exec_load23 (.tmp 1) rfl (w.heap.size) pp rfl RP_24.out) ?_)) | ((with_reducible show wpList _ _ _ (⟨_, .load 23 (.tmp 3), _, _, _, _⟩ :: _) _ _); go_must (refine wpList_exec rfl (vN 0) (exec_load23 (.tmp 3) rfl (g3) 0 rfl X_24.out) ?_)) | ((with_reducible show wpList _ _ _ (⟨some 72, .build 23 _, _, _, _, _⟩ :: _) _ _); go_must (refine wpList_exec rfl (vN 258) (exec_build258 rfl) ?_)) | ((with_reducible show wpList _ _ _ (⟨_, .build 23 _, _, _, _, _⟩ :: _) _ _); go_must (refine wpList_exec rfl (vN 0) (exec_build0 rfl) ?_)) | fail)
      refine (C5.out _).mono ?_
      rintro ex x25 ⟨rfl, hb⟩
      have RP_25 := Lib.hid (RP_24.out.keep hb)
      have X_25 := Lib.hid (X_24.out.keep hb)
      have HB_25 := Lib.hid (HB_24.out.trans (hb.mono HB_24.out.size))
      clear hb RP_24 X_24 HB_24
      go_wp2_with (first | ((with_reducible show wpList _ _ _ (⟨_, .load 23 (.tmp 1), _, _, _, _⟩ :: _) _ _); go_must (refine wpList_exec rfl (vN pp) (exec_load23 (.tmp 1) rfl (w.heap.size) pp rfl RP_25.out) ?_)) | ((with_reducible show wpList _ _ _ (⟨_, .load 23 (.tmp 3), _, _, _, _⟩ :: _) _ _); go_must (refine wpList_exec rfl (vN 0) (exec_load23 (.tmp 3) rfl (g3) 0 rfl X_25.out) ?_)) | ((with_reducible show wpList _ _ _ (⟨some 72, .build 23 _, _, _, _, _⟩ :: _) _ _); go_must (refine wpList_exec rfl (vN 258) (exec_build258 rfl) ?_)) | ((with_reducible show wpList _ _ _ (⟨_, .build 23 _, _, _, _, _⟩ :: _) _ _); go_must (refine wpList_exec rfl (vN 0) (exec_build0 rfl) ?_)) | fail)
      refine (C11.out _).mono ?_
      rintro ex x26 ⟨rfl, hb⟩
      have RP_26 := Lib.hid (RP_25.out.keep hb)
      have X_26 := Lib.hid (X_25.out.keep hb)
      have HB_26 := Lib.hid (HB_25.out.trans (hb.mono HB_25.out.size))
      clear hb RP_25 X_25 HB_25
      go_wp2_with (first | ((with_reducible show wpList _ _ _ (⟨_, .load 23 (.tmp 1), _, _, _, _⟩ :: _) _ _); go_must (refine wpList_exec rfl (vN pp) (exec_load23 (.tmp 1) rfl (w.heap.size) pp rfl RP_26.out) ?_)) | ((with_reducible show wpList _ _ _ (⟨_, .load 23 (.tmp 3), _, _, _, _⟩ :: _) _ _); go_must (refine wpList_exec rfl (vN 0) (exec_load23 (.tmp 3) rfl (g3) 0 rfl X_26.out) ?_)) | ((with_reducible show wpList _ _ _ (⟨some 72, .build 23 _, _, _, _, _⟩ :: _) _ _); go_must (refine wpList_exec rfl (vN 258) (exec_build258 rfl) ?_)) | ((with_reducible show wpList _ _ _ (⟨_, .build 23 _, _, _, _, _⟩ :: _) _ _); go_must (refine wpList_exec rfl (vN 0) (exec_build0 rfl) ?_)) | fail)
      refine (C12.out _).mono ?_
      rintro ex x27 ⟨rfl, hb⟩
      have RP_27 := Lib.hid (RP_26.out.keep hb)
      have X_27 := Lib.hid (X_26.out.keep hb)
      have HB_27 := Lib.hid (HB_26.out.trans (hb.mono HB_26.out.size))
      clear hb RP_26 X_26 HB_26
      go_wp2_with (first | ((with_reducible show wpList _ _ _ (⟨_, .load 23 (.tmp 1), _, _, _, _⟩ :: _) _ _); go_must (refine wpList_exec rfl (vN pp) (exec_load23 (.tmp 1) rfl (w.heap.size) pp rfl RP_27.out) ?_)) | ((with_reducible show wpList _ _ _ (⟨_, .load 23 (.tmp 3), _, _, _, _⟩ :: _) _ _); go_must (refine wpList_exec rfl (vN 0) (exec_load23 (.tmp 3) rfl (g3) 0 rfl X_27.out) ?_)) | ((with_reducible show wpList _ _ _ (⟨some 72, .build 23 _, _, _, _, _⟩ :: _) _ _); go_must (refine wpList_exec rfl (vN 258) (exec_build258 rfl) ?_)) | ((with_reducible show wpList _ _ _ (⟨_, .build 23 _, _, _, _, _⟩ :: _) _ _); go_must (refine wpList_exec rfl (vN 0) (exec_build0 rfl) ?_)) | fail)
      refine (C13.out _).mono ?_
      rintro ex x28 ⟨rfl, hb⟩
      have RP_28 := Lib.hid (RP_27.out.keep hb)
      have X_28 := Lib.hid (X_27.out.keep hb)
      have HB_28 := Lib.hid (HB_27.out.trans (hb.mono HB_27.out.size))
      clear hb RP_27 X_27 HB_27
      go_wp2_with (first | ((with_reducible show wpList _ _ _ (⟨_, .load 23 (.tmp 1), _, _, _, _⟩ :: _) _ _); go_must (refine wpList_exec rfl (vN pp) (exec_load23 (.tmp 1) rfl (w.heap.size) pp rfl RP_28.out) ?_)) | ((with_reducible show wpList _ _ _ (⟨_, .load 23 (.tmp 3), _, _, _, _⟩ :: _) _ _); go_must (refine wpList_exec rfl (vN 0) (exec_load23 (.tmp 3) rfl (g3) 0 rfl X_28.out) ?_)) | ((with_reducible show wpList _ _ _ (⟨some 72, .build 23 _, _, _, _, _⟩ :: _) _ _); go_must (refine wpList_exec rfl (vN 258) (exec_build258 rfl) ?_)) | ((with_reducible show wpList _ _ _ (⟨_, .build 23 _, _, _, _, _⟩ :: _) _ _); go_must (refine wpList_exec rfl (vN 0) (exec_build0 rfl) ?_)) | ((with_reducible show wpList _ _ _ (⟨_, .binOp .eql 23 (.tmp 71) (.tmp 72) 23, _, _, _, _⟩ :: _) _ _); go_must (refine wpList_exec rfl (.bool true) (exec_eq23 (.tmp 71) (.tmp 72) rfl rfl rfl (eqN_same 258 _)) ?_)) | fail)
      go_ret
      exact ⟨rfl, HB_28.out⟩

theorem zT : 0 < TT := by unfold TT; omega
theorem oT : 1 < TT := by unfold TT; omega
theorem P1 : 1 < PP := by unfold PP; omega
theorem gives_eq {f : FuncId} {args : Array Value} {x y : Nat} {w : World} (e : x = y) (h : Calls Try.prog f args w (Gives (vN x) w)) : Calls Try.prog f args w (Gives (vN y) w) := e ▸ h
theorem gives_b {f : FuncId} {args : Array Value} {x y : Bool} {w : World} (e : x = y) (h : Calls Try.prog f args w (Gives (.bool x) w)) : Calls Try.prog f args w (Gives (.bool y) w) := e ▸ h
theorem rt_p (k : Nat) : rt PP k PP = (0, true) := by
  unfold rt
  rw [Nat.mod_self, Nat.zero_pow (by omega), Nat.zero_mod, Nat.mul_zero, Nat.zero_mod, if_pos rfl]
  rfl
theorem walk (w : World) : Calls Try.prog 3 #[] w fun e w' => e = .returned (.bool true) ∧ Below w.heap.size w w' := by
  obtain ⟨k, hk⟩ := k_ex
  obtain ⟨q, hq⟩ := q_ex
  have hR : ∀ w, Calls Try.prog 9 #[vN PP] w (Gives (.tuple #[vN 0, .bool true]) w) := fun w => by
    have h := Root_any k hk PP PP_lt w
    rw [rt_p] at h
    exact h
  have hl : (PP - 1 % PP) % PP = PP - 1 := by
    have := P1
    rw [Nat.mod_eq_of_lt P1, Nat.mod_eq_of_lt (by omega)]
  have hN : ∀ w, Calls Try.prog 13 #[vN 1] w (Gives (vN (PP - 1)) w) := fun w => gives_eq hl (Neg_any 1 oT w)
  have hlT : PP - 1 < TT := by have := PP_lt; omega
  have hlm : (PP - 1) % PP = PP - 1 := Nat.mod_eq_of_lt (by have := P1; omega)
  have hodd : (PP - 1) % 2 = 0 := by unfold PP; omega
  have hC : ∀ w, Calls Try.prog 12 #[vN (PP - 1)] w (Gives (.bool true) w) := fun w => gives_b (decide_eq_true hlm.symm) (Canon_any (PP - 1) hlT w)
  have hO : ∀ w, Calls Try.prog 17 #[vN (PP - 1)] w (Gives (.bool false) w) := fun w => gives_b (decide_eq_false (by rw [hlm, hodd]; omega)) (Odd_any (PP - 1) hlT w)
  have hp : pl 30 = enc PP := by kernel_rfl
  have m0 : PP % PP = 0 := Nat.mod_self _
  have ne0 : ¬ PP = PP % PP := by rw [m0]; have := P1; omega
  generalize PP - 1 = l at *
  exact names_core PP l w (Lib.hid hp) (Lib.hid lives_any) (Lib.hid hR) (Lib.hid fun w => gives_eq m0 (Rest_any PP PP_lt w)) (Lib.hid fun w => gives_b (decide_eq_false ne0) (Canon_any PP PP_lt w)) (Lib.hid fun w => Of_any 1 (by omega) w) (Lib.hid hN) (Lib.hid hC)
    (Lib.hid fun w => gives_eq (by rw [Nat.pow_mod, m0, Nat.zero_pow (by unfold PP at hq; omega), Nat.zero_mod]) (Inv_any q hq PP PP_lt w)) (Lib.hid fun w => gives_eq (by rw [Nat.pow_zero]; exact Nat.mod_eq_of_lt P1) (Pow_any PP 0 PP_lt zT w))
    (Lib.hid fun w => Of_any 7 (by omega) w) (Lib.hid fun w => gives_b (decide_eq_true (by unfold PP; omega)) (Odd_any 7 (by unfold TT; omega) w)) (Lib.hid hO) (Lib.hid fun w => gives_b (decide_eq_true (by rw [m0, Nat.zero_mod])) (Same_any PP 0 PP_lt zT w)) (Lib.hid fun w => Of_any 258 (by omega) w)

set_option maxRecDepth 100000 in
theorem lifted (os : Os) (started : os.Started) (H : Type) (enc : TypeId × Value → H) :
    ReturnsInHanded {} Try.checked os 3 .any (Rows.fieldNamesSpec.pre6 enc Try.prog Try.f3 Rows.fieldNamesRow.domain false) (Rows.fieldNamesSpec.post enc Try.prog Try.f3 false true false false) := by
  refine returnsInHanded_of_change (C := Try.checked) own started (by kernel_rfl) Try.func3
    (ChangeSpec.witness6 (enc := enc) (C := Try.checked) false ⟨#[], #[], []⟩ 8 (by kernel_rfl) (by kernel_rfl) (by kernel_rfl) (by kernel_rfl)) ?_
  intro W base args ds gs before hval0 hW hcnd _
  have hval : ∀ (j : Nat) t v, Try.f3.params[j]? = some t → args[j]? = some v → Value.okWide Try.prog W .any base t v := hval0
  have hW' := hW
  obtain ⟨p, q, hA0, hV, rfl, hfz, hnd⟩ := hW
  have hA : DataW.TrodAll enc Try.prog W 0 (fun _ => true) true Try.f3.params.toList args.toList ds p := hA0
  rw [Try.params3] at hA hval
  obtain ⟨hargs, rfl, rfl⟩ := trodAll_nil hA
  obtain rfl : args = #[] := by cases args; simp_all
  obtain ⟨rfl, rfl⟩ := trodVars_none hV
  clear hA0 hval0
  refine (walk W).mono fun e W' ⟨he, bel⟩ => ?_
  subst he
  exact ⟨_, rfl, _, _, _, [], _, [], hW', trodAll_mk1 (shut_bool Try.underlying4 _), trodAll_mk0, rfl, bel.frame _, fun h => by cases h⟩

theorem over : Rows.fieldNamesRow.holds Try.pinned (OpenSpec.ofChange Rows.fieldNamesSpec) :=
  OpenClaim.holds_of_wide 3 Try.f3 rfl rfl rfl rfl rfl rfl rfl ⟨rfl, rfl, rfl, rfl, rfl⟩ rfl rfl rfl rfl rfl (by kernel_rfl) Try.func3 (by kernel_rfl)
    (of_decide_eq_true (by kernel_rfl)) (by unfold Func.isWrapper; first | (rw [if_pos (by decide +kernel)]; kernel_rfl) | (rw [if_neg (by decide +kernel)]; exact ⟨rfl, rfl⟩))
    (fun os started H enc _ => lifted os started H enc)

/-- The statement. -/
theorem proved : Rows.FieldNamesSaid := over
#print axioms proved
end Go.Proofs.Ytlkjengcmlfknaa.fieldNames
