/- Words for drawn regions over records and digests in rows. No statement is proved here. -/
import Derived.Test.YtkglicidjdifkaaRB
namespace Go.Proofs.Ytkglicidjdifkaa
open Go.RowKit
set_option linter.unusedVariables false
set_option linter.unusedSimpArgs false

/-- A digest in a row. -/
structure DAt (w : World) (g : Nat) (ch : List UInt8) : Prop where
  row : w.heap[g]? = some (.cells (bcs ch).toArray 23 (0, 0))
  len : ch.length = 32
section
variable {w w' : World} {g : Nat} {ch : List UInt8} {k : UInt8} {A : Option Addr} {n c : Nat}
theorem DAt.lt (h : DAt w g ch) : g < w.heap.size := (Array.getElem?_eq_some_iff.1 h.row).1
theorem DAt.below {B : Nat} (h : DAt w g ch) (hb : Below B w w') (hg : g < B) : DAt w' g ch := ⟨(hb.block g hg).trans h.row, h.len⟩
theorem DAt.keeps {G : Nat → Prop} (h : DAt w g ch) (hk : Keeps G w w') (hg : ¬ G g) : DAt w' g ch := ⟨(hk.block g h.lt hg).trans h.row, h.len⟩
theorem DAt.drewN (h : DAt w g ch) (j : Nat) : DAt (w.drewN j) g ch := ⟨h.row, h.len⟩
theorem DAt.drew (h : DAt w g ch) : DAt w.drew g ch := ⟨h.row, h.len⟩
theorem RAt.keeps {G : Nat → Prop} (h : RAt w g k A n c) (hk : Keeps G w w') (hg : ¬ G g) : RAt w' g k A n c := ⟨(hk.block g h.lt hg).trans h.row⟩
theorem RAt.drewN (h : RAt w g k A n c) (j : Nat) : RAt (w.drewN j) g k A n c := ⟨h.row⟩
theorem RAt.drew (h : RAt w g k A n c) : RAt w.drew g k A n c := ⟨h.row⟩
theorem DAt.grown {row : Option Nat} (h : DAt w g ch) (hg : w.grownBy w' row) (hr : ∀ r, row = some r → r ≠ g) : DAt w' g ch := ⟨(hg.block g h.lt (fun e => hr g e.symm rfl)).trans h.row, h.len⟩
theorem RAt.grown {row : Option Nat} (h : RAt w g k A n c) (hg : w.grownBy w' row) (hr : ∀ r, row = some r → r ≠ g) : RAt w' g k A n c := ⟨(hg.block g h.lt (fun e => hr g e.symm rfl)).trans h.row⟩
theorem DAt.src (h : DAt w g ch) : Src w (fun b => b = g) (some ⟨g, 0, none⟩) 32 (bcs ch) :=
  ⟨by rw [bcs_len, h.len], fun _ => ⟨g, 0, rfl, rfl, fun i hi => by rw [Nat.zero_add, cell_of_row w g i _ _ _ h.row]; simp⟩⟩
end
theorem size31 : (Try.prog.info? 31).map (·.size) = some 2 := by kernel_rfl
theorem len23 : Try.prog.arrayLen 23 = 32 := by kernel_rfl
theorem el23 : Try.prog.elem 23 = 5 := by kernel_rfl
section
variable {ops : Array Oper} {Q : Exit → Act → World → Prop} {md : Region.Mode} {G : Nat → Prop} {fuel : Nat} {listed : Array Bool} {a : Act} {w w' : World} {o : Oper}
theorem exec_rec {x : Operand} (ho : o.op = .load 31 x) {g : Nat} {k : UInt8} {A : Option Addr} {n c : Nat} (hx : a.eval x = .pointer (some ⟨g, 0, none⟩)) (h : RAt w g k A n c) : (execOp a.eval o).run Try.prog w = .ok (.value (vR k A n c)) w :=
  exec_load 31 x ho g 0 hx [.int .u8 (k.toNat : Int), .slice A n c] (fun j u hj => by rw [Nat.zero_add]; exact row_cells h.row j u hj) _ Try.underlying31 rfl size31
theorem exec_dig {x : Operand} (ho : o.op = .load 23 x) {g : Nat} {ch : List UInt8} (hx : a.eval x = .pointer (some ⟨g, 0, none⟩)) (h : DAt w g ch) : (execOp a.eval o).run Try.prog w = .ok (.value (.agg (bcs ch).toArray)) w :=
  exec_load 23 x ho g 0 hx (bcs ch) (fun j u hj => by rw [Nat.zero_add]; exact row_cells h.row j u (by simpa using hj)) _ under23 rfl (by rw [size23, bcs_len, h.len])
theorem exec_one {t : TypeId} {x : Operand} (ho : o.op = .load t x) {b p : Nat} {v : Value} (hx : a.eval x = .pointer (some ⟨b, p, none⟩)) (ha : (isAgg t).run Try.prog w = .ok false w) (h : w.cell? ⟨b, p, none⟩ = some v) : (execOp a.eval o).run Try.prog w = .ok (.value v) w := by
  unfold execOp
  simp [ho, hx, Instr.loadAt, Instr.sureAddr, loadVar, ha, h]
theorem sz5 (w : World) : (sizeOf 5).run Try.prog w = .ok 1 w := by
  obtain ⟨i0, hi, _, hz, _⟩ := info_parts info5
  simp [sizeOf, typeInfo, hi, hz]
theorem exec_all23 {x : Operand} (ho : o.op = .slice 23 x none none none) {g : Nat} (hx : a.eval x = .pointer (some ⟨g, 0, none⟩)) : (execOp a.eval o).run Try.prog w = .ok (.value (.slice (some ⟨g, 0, none⟩) 32 32)) w := by
  have hr := run_sliceAt_array_all (P := Try.prog) (t := 23) w ⟨g, 0, none⟩ (by rw [len23, el23]; exact under23)
  rw [len23, el23, sz5] at hr
  unfold execOp
  simp only [ho, Option.map_none, Sem.run_bind, hx, hr, Result.andThen_ok, Sem.run_pure]
  rfl
theorem exec_8_23 {x : Operand} (ho : o.op = .slice 23 x none (some (.const (.int .i64 8))) none) {g : Nat} (hx : a.eval x = .pointer (some ⟨g, 0, none⟩)) : (execOp a.eval o).run Try.prog w = .ok (.value (.slice (some ⟨g, 0, none⟩) 8 32)) w := by
  have hr := run_sliceAt_array_h (P := Try.prog) (t := 23) w ⟨g, 0, none⟩ (by rw [len23, el23]; exact under23) .i64 8 (by omega) (by rw [len23]; omega)
  rw [len23, el23, sz5] at hr
  unfold execOp
  simp only [ho, Option.map_none, Option.map_some, Sem.run_bind, hx, show a.eval (.const (.int .i64 8)) = .int .i64 8 from rfl, hr, Result.andThen_ok, Sem.run_pure]
  rfl
/-- Number i alone may come, and yields a value. -/
theorem anyVal {P : Program} {i : Nat} {oi : Oper} {v : Value} (hi : ops[i]? = some oi) (hr : Region.ready md ops listed = [i]) (hw : Region.wanted oi (yielded ops a.tmps) = true)
    (he : (execOp a.eval oi).run P w = .ok (.value v) w') (hk : Keeps G w w') (h : wpAnyR P md ops Q (Keeps G) fuel (listed.setIfInBounds i true) (a.put oi.dst v) w') : wpAnyR P md ops Q (Keeps G) (fuel + 1) listed a w := by
  refine anyOp hi hr hw ?_
  unfold Oper.wp
  rw [he]
  exact ⟨hk, h⟩
/-- Number i alone may come, and yields nothing. -/
theorem anySkp {P : Program} {i : Nat} {oi : Oper} (hi : ops[i]? = some oi) (hr : Region.ready md ops listed = [i]) (hw : Region.wanted oi (yielded ops a.tmps) = true)
    (he : (execOp a.eval oi).run P w = .ok .skip w') (hk : Keeps G w w') (h : wpAnyR P md ops Q (Keeps G) fuel (listed.setIfInBounds i true) (a.put oi.dst undef) w') : wpAnyR P md ops Q (Keeps G) (fuel + 1) listed a w := by
  refine anyOp hi hr hw ?_
  unfold Oper.wp
  rw [he]
  exact ⟨hk, h⟩
/-- A whole digest stored. -/
theorem anyStoreD {i : Nat} {oi : Oper} (hi : ops[i]? = some oi) (hr : Region.ready md ops listed = [i]) (hw : Region.wanted oi (yielded ops a.tmps) = true) (p x : Operand) (ho : oi.op = .store 23 p x) {g : Nat} {ch0 ch : List UInt8}
    (hp : a.eval p = .pointer (some ⟨g, 0, none⟩)) (hx : a.eval x = .agg (bcs ch).toArray) (h0 : DAt w g ch0) (hl : ch.length = 32) (hG : G g)
    (h : ∀ w', DAt w' g ch → w.grownBy w' (some g) → w'.heap.size = w.heap.size → wpAnyR Try.prog md ops Q (Keeps G) fuel (listed.setIfInBounds i true) (a.put oi.dst undef) w') : wpAnyR Try.prog md ops Q (Keeps G) (fuel + 1) listed a w := by
  obtain ⟨w', h1, h2, h3, h4⟩ := exec_store_all (P := Try.prog) 23 p x ho g hp (bcs ch).toArray hx 23 (bcs ch0).toArray h0.row (by rw [size23]; simp [bcs_len, hl]) (by simp [bcs_len, hl, h0.len]) (by simpa using bcs_one ch)
  exact anySkp hi hr hw h1 (Keeps.of_grown h3 (fun r e => by cases e; exact hG)) (h w' ⟨h2, hl⟩ h3 h4)
/-- A whole record stored. -/
theorem anyStoreR {i : Nat} {oi : Oper} (hi : ops[i]? = some oi) (hr : Region.ready md ops listed = [i]) (hw : Region.wanted oi (yielded ops a.tmps) = true) (p x : Operand) (ho : oi.op = .store 31 p x) {g : Nat} {k0 k : UInt8} {A0 A : Option Addr} {n0 c0 n c : Nat}
    (hp : a.eval p = .pointer (some ⟨g, 0, none⟩)) (hx : a.eval x = vR k A n c) (h0 : RAt w g k0 A0 n0 c0) (hG : G g)
    (h : ∀ w', RAt w' g k A n c → w.grownBy w' (some g) → w'.heap.size = w.heap.size → wpAnyR Try.prog md ops Q (Keeps G) fuel (listed.setIfInBounds i true) (a.put oi.dst undef) w') : wpAnyR Try.prog md ops Q (Keeps G) (fuel + 1) listed a w := by
  obtain ⟨w', h1, h2, h3, h4⟩ := exec_store_all (P := Try.prog) 31 p x ho g hp #[.int .u8 (k.toNat : Int), .slice A n c] hx 31 _ h0.row (by rw [size31]; rfl) rfl (by intro u hu; simp at hu; rcases hu with rfl | rfl <;> rfl)
  exact anySkp hi hr hw h1 (Keeps.of_grown h3 (fun r e => by cases e; exact hG)) (h w' ⟨h2⟩ h3 h4)
/-- A slice of three slices. -/
theorem exec_three {x y z : Operand} (ho : o.op = .buildSlice 61 3 #[(0, x), (1, y), (2, z)]) {A0 A1 A2 : Option Addr} {n0 c0 n1 c1 n2 c2 : Nat} (hx : a.eval x = .slice A0 n0 c0) (hy : a.eval y = .slice A1 n1 c1) (hz : a.eval z = .slice A2 n2 c2) :
    (execOp a.eval o).run Try.prog w = .ok (.value (.slice (some ⟨w.heap.size, 0, none⟩) 3 3)) (w.alloc (.cells #[.slice A0 n0 c0, .slice A1 n1 c1, .slice A2 n2 c2] 26)) := by
  unfold execOp
  simp only [ho]
  simp [hx, hy, hz]
  go_simp
end
end Go.Proofs.Ytkglicidjdifkaa
