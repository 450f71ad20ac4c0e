/- What a call writes, whether there are few calls, and a call of a disk. No statement is proved here. -/
import Derived.Test.YtfhjcfoecmbhkaaLB
import Derived.Test.YtfhjcfoecmbhkaaAS
namespace Go.Proofs.Ytfhjcfoecmbhkaa
open Go.RowKit Go.Maps
set_option linter.unusedVariables false
set_option linter.unusedSimpArgs false

theorem wpList_box46 {P : Program} {ops : Array Oper} {rest : List Oper} {o : Oper} {a : Act} {w : World} {Q : Exit → Act → World → Prop} (hgd : Region.wanted o (yielded ops a.tmps) = true) (x : Operand) (ho : o.op = .box 46 x) (v : ActV) (hx : a.eval x = .agg v.cells.toArray)
    (h : ∀ w', w'.heap[w.heap.size]? = some (.cells v.cells.toArray 46 (0, 0)) → w'.heap.size = w.heap.size + 1 → w.grownBy w' none → wpList P ops Q rest (a.put o.dst (.pointer (some ⟨w.heap.size, 0, none⟩))) w') :
    wpList P ops Q (o :: rest) a w := by
  refine wpList_want hgd fun K hK => ?_
  have hrun : (Instr.box 46 (.agg v.cells.toArray)).run P w = .ok (.pointer (some ⟨w.heap.size, 0, none⟩)) (w.alloc (.cells v.cells.toArray 46)) := by
    simp [Instr.box, newVar, newRow, Value.cells]
  unfold Oper.wp execOp
  simp only [ho, hx, Sem.run_bind, Sem.run_pure, Result.andThen_ok, hrun]
  exact hK _ _ (h _ (heap_alloc_new w _) (by simp) (World.grownBy_alloc w _ none))
/-- A call in a row of its own. -/
structure Bx (w : World) (g : Nat) (v : ActV) : Prop where
  c0 : w.cell? ⟨g, 0, none⟩ = some (.int .i64 v.kind)
  c1 : w.cell? ⟨g, 1, none⟩ = some (.int .i64 v.at_)
  c2 : w.cell? ⟨g, 2, none⟩ = some (.int .u8 (v.b.toNat : Int))
  c3 : w.cell? ⟨g, 3, none⟩ = some (.bool v.long)
  c4 : w.cell? ⟨g, 4, none⟩ = some (.slice v.A v.kn v.kc)
theorem Bx.of {w : World} {g : Nat} {v : ActV} {t : TypeId} (h : w.heap[g]? = some (.cells v.cells.toArray t (0, 0))) : Bx w g v := by
  refine ⟨?_, ?_, ?_, ?_, ?_⟩ <;> (rw [cell_of_row w _ _ _ _ _ h]; rfl)
theorem Bx.keeps {G : Nat → Prop} {w w' : World} {g : Nat} {v : ActV} (h : Bx w g v) (hk : Keeps G w w') (hg : g < w.heap.size) (hG : ¬ G g) : Bx w' g v :=
  ⟨(hk.cell hg hG).trans h.c0, (hk.cell hg hG).trans h.c1, (hk.cell hg hG).trans h.c2, (hk.cell hg hG).trans h.c3, (hk.cell hg hG).trans h.c4⟩
/-- What a call writes. -/
def actB (b : UInt8) (long : Bool) : List UInt8 := if long then (rep b).set b.toNat (b + 1) ++ [1] else (rep b).set b.toNat (b + 1)
theorem actB_len (b : UInt8) (long : Bool) : (actB b long).length = if long then 257 else 256 := by
  unfold actB
  split
  · rw [List.length_append, List.length_set, rep_len]; rfl
  · rw [List.length_set, rep_len]
theorem u8_succ (b : UInt8) : ((b.toNat : Int) + 1) % 256 = ((b + 1).toNat : Int) := by
  rw [UInt8.toNat_add]
  have : (1 : UInt8).toNat = 1 := rfl
  rw [this]
  omega

set_option maxRecDepth 100000 in
set_option maxHeartbeats 1000000 in
theorem bytes_any (w : World) (v : ActV) : Calls Try.prog 25 #[.agg v.cells.toArray] w fun e w' => ∃ u, e = .returned u ∧ w'.ownsRow w.heap.size 5 1 u (actB v.b v.long).length (bcs (actB v.b v.long)) ∧ Below w.heap.size w w' := by
  obtain ⟨i0, hi, hq0, hq1, hq2⟩ := info_parts info5
  have HU := Lib.hid (u8_succ v.b)
  have hb8 : (v.b.toNat : Int) < 256 := by have := v.b.toNat_lt; omega
  have hb0 : (0 : Int) ≤ (v.b.toNat : Int) := by omega
  have HR := Lib.hid (fun w b => row_any w b)
  go_enter Try.func25, Try.ntmps25
  go_wp2_with ((with_reducible show wpList _ _ _ (⟨some 1, .box 46 _, _, _, _, _⟩ :: _) _ _); go_must (refine wpList_box46 rfl _ rfl v rfl ?_; intro w1 hh1 hz1 hg1; have HX1 := Lib.hid (Bx.of hh1); have HB1 := Lib.hid (below_of_grownBy hg1); have c2 := HX1.out.c2; have HZ1 := Lib.hid hz1; clear hh1 hg1 hz1))
  refine (row_any w1 v.b).mono ?_
  rintro e2 w2 ⟨rfl, hr2, hb2⟩
  have HX2 := Lib.hid (HX1.out.keeps (Keeps.of_below (G := fun _ => False) hb2) (by have := HZ1.out; omega) id)
  have HB2 := Lib.hid (HB1.out.trans (hb2.mono HB1.out.size))
  have HR2 := Lib.hid hr2
  have c2 := HX2.out.c2
  have hz2 := hb2.size
  have HSZ : Hid (v.b.toNat < (bcs (rep v.b)).toArray.size) := Lib.hid (by simp [bcs_len, rep_len]; omega)
  clear hr2 hb2 HB1 HX1 HR
  cases hlong : v.long
  · have HL : Hid (actB v.b false = (rep v.b).set v.b.toNat (v.b + 1)) := Lib.hid rfl
    go_wp2_with ((with_reducible show wpList _ _ _ (⟨none, .store 5 _ _, _, _, _, _⟩ :: _) _ _); go_must (refine wpList_store_one rfl 5 _ _ rfl w1.heap.size v.b.toNat rfl .u8 _ rfl 5 _ HR2.out size5 HSZ.out ?_; intro w3 hh3 hg3 hz3; have HH3 : Hid (w3.heap[w1.heap.size]? = some (.cells (bcs ((rep v.b).set v.b.toNat (v.b + 1))).toArray 5 (0, 0))) := Lib.hid (by rw [← bcs_set, ← HU.out]; exact hh3); have HX3 := Lib.hid (HX2.out.keeps (Keeps.of_grown (G := fun b => b = w1.heap.size) hg3 (fun r hr => by cases hr; rfl)) (by have := HZ1.out; omega) (by have := HZ1.out; omega)); have HB3 := Lib.hid (HB2.out.grown hg3 HB2.out.size (fun r hr => by cases hr; have := HZ1.out; omega)); have c3 := HX3.out.c3; rw [hlong] at c3; have HZ3 := Lib.hid hz3; clear hh3 hg3 hz3 HX2 HB2))
    go_ret
    refine ⟨_, rfl, ?_, HB3.out⟩
    rw [hlong, HL.out, List.length_set, rep_len]
    exact ⟨by rw [bcs_len, List.length_set, rep_len], .inr ⟨_, _, _, rfl, by have := HZ1.out; omega, HH3.out, Nat.le_refl _, by unfold maxLen; omega, by simp [bcs_len, rep_len], by simp [List.take_of_length_le, bcs_len, rep_len]⟩⟩
  · have HL : Hid (actB v.b true = (rep v.b).set v.b.toNat (v.b + 1) ++ [1]) := Lib.hid rfl
    go_wp2_with (first | ((with_reducible show wpList _ _ _ (⟨none, .store 5 _ _, _, _, _, _⟩ :: _) _ _); go_must (refine wpList_store_one rfl 5 _ _ rfl w1.heap.size v.b.toNat rfl .u8 _ rfl 5 _ HR2.out size5 HSZ.out ?_; intro w3 hh3 hg3 hz3; have HH3 : Hid (w3.heap[w1.heap.size]? = some (.cells (bcs ((rep v.b).set v.b.toNat (v.b + 1))).toArray 5 (0, 0))) := Lib.hid (by rw [← bcs_set, ← HU.out]; exact hh3); have HX3 := Lib.hid (HX2.out.keeps (Keeps.of_grown (G := fun b => b = w1.heap.size) hg3 (fun r hr => by cases hr; rfl)) (by have := HZ1.out; omega) (by have := HZ1.out; omega)); have HB3 := Lib.hid (HB2.out.grown hg3 HB2.out.size (fun r hr => by cases hr; have := HZ1.out; omega)); have c3 := HX3.out.c3; rw [hlong] at c3; have HZ3 := Lib.hid hz3; clear hh3 hg3 hz3 HX2 HB2)) | (at_builtin; go_must (have HO : Hid ((w3.alloc (.cells #[.int .u8 1] 5)).ownsRow w.heap.size 5 1 (.slice (some ⟨w1.heap.size, 0, none⟩) 256 256) 256 (bcs ((rep v.b).set v.b.toNat (v.b + 1)))) := Lib.hid (ownsRow_keep ⟨by rw [bcs_len, List.length_set, rep_len], .inr ⟨_, _, _, rfl, by have := HZ1.out; omega, HH3.out, Nat.le_refl _, by unfold maxLen; omega, by simp [bcs_len, rep_len], by simp [List.take_of_length_le, bcs_len, rep_len]⟩⟩ (below_alloc w3 _)); have HS := Lib.hid (Src.lit1 w3 (.int .u8 1) 5); refine wpList_app _ rfl _ _ 27 rfl w.heap.size 5 i0 (.int .u8 0) 1 under27 hi hq0 hq1 hq2 rfl _ 256 _ rfl HO.out _ _ 1 1 (bcs [1]) rfl HS.out (bcs_one _) (by unfold maxLen; omega) (by omega) (by have := HB3.out.size; simp; omega) ?_; intro v4 w4 ho4 hg4 hl4)))
    go_ret
    have hg5 : (w3.alloc (.cells #[.int .u8 1] 5)).grownBy w4 (some w1.heap.size) := hg4
    have HB4 := HB3.out.trans ((below_alloc w3 (.cells #[.int .u8 1] 5)).mono HB3.out.size)
    refine ⟨v4, rfl, ?_, HB4.grown hg5 HB4.size (fun r hr => by cases hr; have := HZ1.out; omega)⟩
    rw [hlong, HL.out]
    rw [← bcs_append] at ho4
    rw [List.length_append, List.length_set, rep_len]
    exact ho4
end Go.Proofs.Ytfhjcfoecmbhkaa
