/- Records in plain words, and the calls of package record that make them. No statement is proved here. -/
import Derived.Test.YtkglicidjdifkaaSU
import Derived.Test.YtkglicidjdifkaaSJ
import Derived.Test.YtkglicidjdifkaaOG
namespace Go.Proofs.Ytkglicidjdifkaa
open Go.RowKit
set_option linter.unusedVariables false
set_option linter.unusedSimpArgs false

/-- What is ahead of a record's data. -/
def hdL (k : UInt8) (n : Nat) : List UInt8 := k :: encN n
theorem hdL_len (k : UInt8) (n : Nat) : (hdL k n).length = 1 + sz n := by simp [hdL, encN_len]; omega
/-- The chain behind a record. -/
def nextL (ch : List UInt8) (k : UInt8) (d : List UInt8) : List UInt8 := sum256 (ch ++ (hdL k d.length ++ d))
theorem nextL_len (ch : List UInt8) (k : UInt8) (d : List UInt8) : (nextL ch k d).length = 32 := sum256_len _
/-- Is a record valid? -/
def okR (k : UInt8) (n : Nat) : Bool := !(decide (k.toNat = 0)) && decide (n ≤ 8192)
/-- A record's bytes. -/
def recB (ch : List UInt8) (k : UInt8) (d : List UInt8) : List UInt8 := hdL k d.length ++ (d ++ (nextL ch k d).take 8)
/-- How many they are. -/
def sizeR (n : Nat) : Nat := 1 + sz n + n + 8
theorem recB_len (ch : List UInt8) (k : UInt8) (d : List UInt8) : (recB ch k d).length = sizeR d.length := by
  simp [recB, sizeR, hdL_len, nextL_len]; omega
/-- A record as a value. -/
def vR (k : UInt8) (A : Option Addr) (n c : Nat) : Value := .agg #[.int .u8 (k.toNat : Int), .slice A n c]

theorem wpList_box_row {P : Program} {ops : Array Oper} {rest : List Oper} {o : Oper} {a : Act} {w : World} {Q : Exit → Act → World → Prop} (hgd : Region.wanted o (yielded ops a.tmps) = true) (elem : TypeId) (x : Operand) (ho : o.op = .box elem x) (cs : Array Value) (hx : a.eval x = .agg cs)
    (h : ∀ w', w'.heap[w.heap.size]? = some (.cells cs elem (0, 0)) → w'.heap.size = w.heap.size + 1 → w.grownBy w' none → wpList P ops Q rest (a.put o.dst (.pointer (some ⟨w.heap.size, 0, none⟩))) w') :
    wpList P ops Q (o :: rest) a w := by
  refine wpList_want hgd fun K hK => ?_
  have hrun : (Instr.box elem (.agg cs)).run P w = .ok (.pointer (some ⟨w.heap.size, 0, none⟩)) (w.alloc (.cells cs elem)) := by
    simp [Instr.box, newVar, newRow, Value.cells]
  unfold Oper.wp execOp
  simp only [ho, hx, Sem.run_bind, Sem.run_pure, Result.andThen_ok, hrun]
  exact hK _ _ (h _ (heap_alloc_new w _) (by simp) (World.grownBy_alloc w _ none))

/-- A record in a row. -/
structure RAt (w : World) (g : Nat) (k : UInt8) (A : Option Addr) (n c : Nat) : Prop where
  row : w.heap[g]? = some (.cells #[.int .u8 (k.toNat : Int), .slice A n c] 31 (0, 0))
section
variable {w w' : World} {g : Nat} {k : UInt8} {A : Option Addr} {n c : Nat}
theorem RAt.c0 (h : RAt w g k A n c) : w.cell? ⟨g, 0, none⟩ = some (.int .u8 (k.toNat : Int)) := row_cells h.row 0 _ rfl
theorem RAt.c1 (h : RAt w g k A n c) : w.cell? ⟨g, 1, none⟩ = some (.slice A n c) := row_cells h.row 1 _ rfl
theorem RAt.lt (h : RAt w g k A n c) : g < w.heap.size := (Array.getElem?_eq_some_iff.1 h.row).1
theorem RAt.below {B : Nat} (h : RAt w g k A n c) (hb : Below B w w') (hg : g < B) : RAt w' g k A n c := ⟨(hb.block g hg).trans h.row⟩
theorem RAt.fr (h : RAt w g k A n c) (j : Nat) : w.frozen? ⟨g, j, none⟩ = false := frozen_of_row w g j _ _ h.row
end

theorem u8_zero (k : UInt8) : (((k.toNat : Int) == 0) = decide (k.toNat = 0)) := by
  by_cases h : k.toNat = 0
  · simp [h]
  · have : ¬ ((k.toNat : Int) = 0) := by omega
    simp [h, this]

set_option maxHeartbeats 400000 in
theorem check_any (w : World) (k : UInt8) (A : Option Addr) (n c : Nat) (hn : n ≤ 1000000000) :
    Calls Try.prog 13 #[vR k A n c] w fun e w' => e = .returned (.int .i64 (if okR k n = true then 0 else 2)) ∧ Below w.heap.size w w' := by
  unfold vR
  by_cases hk : k.toNat = 0
  · have hr : okR k n = false := by simp [okR, hk]
    have h0 : (k.toNat : Int) = 0 := by omega
    rw [hr]
    clear hr
    go_enter Try.func13, Try.ntmps13
    go_wp2_with (with_reducible refine wpList_box_row rfl 31 _ rfl _ rfl ?_; intro w1 hh1 hz1 hg1; have c0 := (RAt.mk hh1).c0; have c1 := (RAt.mk hh1).c1; rw [h0] at c0; have HB := Lib.hid (below_of_grownBy hg1); clear hg1 hh1)
    go_ret
    exact ⟨rfl, HB.out⟩
  · have hne : ((k.toNat : Int) == 0) = false := by rw [u8_zero]; simp [hk]
    by_cases hl : n ≤ 8192
    · have hr : okR k n = true := by simp [okR, hk, hl]
      have hlt : ¬ (8192 < (n : Int)) := by omega
      rw [hr]
      clear hr
      go_enter Try.func13, Try.ntmps13
      go_wp2_with (with_reducible refine wpList_box_row rfl 31 _ rfl _ rfl ?_; intro w1 hh1 hz1 hg1; have c0 := (RAt.mk hh1).c0; have c1 := (RAt.mk hh1).c1; have HB := Lib.hid (below_of_grownBy hg1); clear hg1 hh1)
      go_ret
      exact ⟨rfl, HB.out⟩
    · have hr : okR k n = false := by simp [okR, hl]
      have hlt : 8192 < (n : Int) := by omega
      rw [hr]
      clear hr
      go_enter Try.func13, Try.ntmps13
      go_wp2_with (with_reducible refine wpList_box_row rfl 31 _ rfl _ rfl ?_; intro w1 hh1 hz1 hg1; have c0 := (RAt.mk hh1).c0; have c1 := (RAt.mk hh1).c1; have HB := Lib.hid (below_of_grownBy hg1); clear hg1 hh1)
      go_ret
      exact ⟨rfl, HB.out⟩
end Go.Proofs.Ytkglicidjdifkaa
