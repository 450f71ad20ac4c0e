/- Regions in which calls and new variables come in any order; the region at the head of Piece. No statement is proved here. -/
import Derived.Test.YtkglicidjdifkaaSC

namespace Go.Proofs.Ytkglicidjdifkaa
open Go.RowKit
set_option linter.unusedVariables false

section
variable {P : Program} {ops : Array Oper} {Q : Exit → Act → World → Prop} {md : Region.Mode} {R : World → World → Prop} {fuel : Nat} {listed : Array Bool} {a : Act} {w : World}
end

theorem put_comm (a : Act) (i j : Nat) (x y : Value) (h : i ≠ j) : (a.put (some i) x).put (some j) y = (a.put (some j) y).put (some i) x := by
  simp only [Act.put]
  rw [Array.setIfInBounds_comm _ _ h]
theorem put_put (a : Act) (i : Nat) (x y : Value) : (a.put (some i) x).put (some i) y = a.put (some i) y := by
  simp [Act.put]
theorem put_eval (a : Act) (i : Nat) (x : Value) (h : i < a.tmps.size) : (a.put (some i) x).eval (.tmp i) = x := by
  simp [Act.put, Act.eval, h]
theorem put_eval_ne (a : Act) (i j : Nat) (x : Value) (h : i ≠ j) : (a.put (some i) x).eval (.tmp j) = a.eval (.tmp j) := by
  show (a.tmps.setIfInBounds i x).getD j undef = a.tmps.getD j undef
  rw [Array.getD_eq_getD_getElem?, Array.getD_eq_getD_getElem?, Array.getElem?_setIfInBounds_ne h]
/-- The frame with four slots. -/
def fr (a : Act) (v5 v6 v20 v22 : Value) : Act := (((a.put (some 5) v5).put (some 6) v6).put (some 20) v20).put (some 22) v22
section
variable (a : Act) (v5 v6 v20 v22 x : Value)
theorem fr22 : (fr a v5 v6 v20 v22).put (some 22) x = fr a v5 v6 v20 x := put_put _ _ _ _
theorem fr20 : (fr a v5 v6 v20 v22).put (some 20) x = fr a v5 v6 x v22 := by
  unfold fr
  rw [put_comm _ 22 20 _ _ (by omega), put_put]
theorem fr6 : (fr a v5 v6 v20 v22).put (some 6) x = fr a v5 x v20 v22 := by
  unfold fr
  rw [put_comm _ 22 6 _ _ (by omega), put_comm _ 20 6 _ _ (by omega), put_put]
theorem fr5 : (fr a v5 v6 v20 v22).put (some 5) x = fr a x v6 v20 v22 := by
  unfold fr
  rw [put_comm _ 22 5 _ _ (by omega), put_comm _ 20 5 _ _ (by omega), put_comm _ 6 5 _ _ (by omega), put_put]
theorem fr_e5 (h : 23 ≤ a.tmps.size) : (fr a v5 v6 v20 v22).eval (.tmp 5) = v5 := by
  unfold fr
  rw [put_eval_ne _ _ _ _ (by omega), put_eval_ne _ _ _ _ (by omega), put_eval_ne _ _ _ _ (by omega), put_eval _ _ _ (by omega)]
theorem fr_e6 (h : 23 ≤ a.tmps.size) : (fr a v5 v6 v20 v22).eval (.tmp 6) = v6 := by
  unfold fr
  rw [put_eval_ne _ _ _ _ (by omega), put_eval_ne _ _ _ _ (by omega), put_eval _ _ _ (by simp [Act.put]; omega)]
theorem fr_e20 (h : 23 ≤ a.tmps.size) : (fr a v5 v6 v20 v22).eval (.tmp 20) = v20 := by
  unfold fr
  rw [put_eval_ne _ _ _ _ (by omega), put_eval _ _ _ (by simp [Act.put]; omega)]
theorem fr_e22 (h : 23 ≤ a.tmps.size) : (fr a v5 v6 v20 v22).eval (.tmp 22) = v22 := by
  unfold fr
  rw [put_eval _ _ _ (by simp [Act.put]; omega)]
theorem fr_e21 : (fr a v5 v6 v20 v22).eval (.tmp 21) = a.eval (.tmp 21) := by
  unfold fr
  rw [put_eval_ne _ _ _ _ (by omega), put_eval_ne _ _ _ _ (by omega), put_eval_ne _ _ _ _ (by omega), put_eval_ne _ _ _ _ (by omega)]
end

/-- The operations of the region at the head of Piece. -/
def ops1 : Array Oper := #[{ dst := some 20, op := Op.call { callee := Callee.value (Operand.func 54), args := #[], argTypes := #[] }, type := 93, pos := "sha.go:82", after := #[], guard := none },
  { dst := some 21, op := Op.load 84 (Operand.tmp 3), type := 84, pos := "sha.go:82", after := #[], guard := none },
  { dst := some 22, op := Op.call { callee := Callee.value (Operand.func 55), args := #[Operand.tmp 21], argTypes := #[84] }, type := 93, pos := "sha.go:82", after := #[{ on := 1, ground := Ground.data }, { on := 0, ground := Ground.chain }], guard := none },
  { dst := some 5, op := Op.alloc 93, type := 0, pos := "sha.go:82", after := #[], guard := none },
  { dst := some 6, op := Op.alloc 93, type := 0, pos := "sha.go:82", after := #[], guard := none },
  { dst := none, op := Op.store 93 (Operand.tmp 5) (Operand.tmp 20), type := 0, pos := "sha.go:82", after := #[{ on := 3, ground := Ground.data }, { on := 0, ground := Ground.data }, { on := 2, ground := Ground.chain }, { on := 0, ground := Ground.phase }, { on := 1, ground := Ground.textOnly Departure.lateStores }, { on := 2, ground := Ground.textOnly Departure.lateStoresUnsure }, { on := 3, ground := Ground.phase }, { on := 4, ground := Ground.phase }], guard := none },
  { dst := none, op := Op.store 93 (Operand.tmp 6) (Operand.tmp 22), type := 0, pos := "sha.go:82", after := #[{ on := 4, ground := Ground.data }, { on := 2, ground := Ground.data }, { on := 5, ground := Ground.chain }, { on := 0, ground := Ground.phase }, { on := 1, ground := Ground.phase }, { on := 2, ground := Ground.phase }, { on := 3, ground := Ground.phase }, { on := 4, ground := Ground.phase }, { on := 5, ground := Ground.phase }], guard := none }]

/-- What holds while the region runs. -/
structure Rg (lo : Nat) (w0 : World) (s5 s6 : Bool) (v5 v6 : Value) (w : World) : Prop where
  bel : Below lo w0 w
  lo_le : lo ≤ w.heap.size
  h5 : s5 = true → ∃ g, v5 = .pointer (some ⟨g, 0, none⟩) ∧ lo ≤ g ∧ g < w.heap.size ∧ w.heap[g]? = some (.cells (zw 80) 93 (0, 0))
  h6 : s6 = true → ∃ g, v6 = .pointer (some ⟨g, 0, none⟩) ∧ lo ≤ g ∧ g < w.heap.size ∧ w.heap[g]? = some (.cells (zw 80) 93 (0, 0))
  ne : s5 = true → s6 = true → v5 ≠ v6
section
variable {lo : Nat} {w0 w w' : World} {s5 s6 : Bool} {v5 v6 : Value}
theorem Rg.keep (h : Rg lo w0 s5 s6 v5 v6 w) (hb : Below w.heap.size w w') : Rg lo w0 s5 s6 v5 v6 w' := by
  have hs := hb.size
  refine ⟨h.bel.trans (hb.mono h.lo_le), Nat.le_trans h.lo_le hs, fun e => ?_, fun e => ?_, h.ne⟩
  · obtain ⟨g, a, b, c, d⟩ := h.h5 e
    exact ⟨g, a, b, by omega, (hb.block g c).trans d⟩
  · obtain ⟨g, a, b, c, d⟩ := h.h6 e
    exact ⟨g, a, b, by omega, (hb.block g c).trans d⟩
theorem Rg.a5 (h : Rg lo w0 false s6 v5 v6 w) : Rg lo w0 true s6 (.pointer (some ⟨w.heap.size, 0, none⟩)) v6 (w.alloc (.cells (zw 80) 93)) := by
  have k := h.keep (below_alloc w (.cells (zw 80) 93))
  refine ⟨k.bel, k.lo_le, fun _ => ⟨_, rfl, h.lo_le, by simp, heap_alloc_new w _⟩, k.h6, fun _ e he => ?_⟩
  obtain ⟨g, a, b, c, d⟩ := h.h6 e
  rw [a] at he
  injection he with he
  injection he with he
  injection he with he
  omega
theorem Rg.a6 (h : Rg lo w0 s5 false v5 v6 w) : Rg lo w0 s5 true v5 (.pointer (some ⟨w.heap.size, 0, none⟩)) (w.alloc (.cells (zw 80) 93)) := by
  have k := h.keep (below_alloc w (.cells (zw 80) 93))
  refine ⟨k.bel, k.lo_le, k.h5, fun _ => ⟨_, rfl, h.lo_le, by simp, heap_alloc_new w _⟩, fun e _ he => ?_⟩
  obtain ⟨g, a, b, c, d⟩ := h.h5 e
  rw [a] at he
  injection he with he
  injection he with he
  injection he with he
  omega
end

def K80v : Value := .agg K80a
/-- All have come but the two stores. -/
def R1Post (Q : Exit → Act → World → Prop) (a : Act) (lo : Nat) (w0 : World) (S : List Nat) : Prop :=
  ∀ g5 g6 w', lo ≤ g5 → lo ≤ g6 → g5 < w'.heap.size → g6 < w'.heap.size → Below lo w0 w' → w'.heap[g5]? = some (.cells K80a 93 (0, 0)) → w'.heap[g6]? = some (.cells (ucs S).toArray 93 (0, 0)) →
    Q .normal (fr a (.pointer (some ⟨g5, 0, none⟩)) (.pointer (some ⟨g6, 0, none⟩)) (.agg K80a) (.agg (ucs S).toArray)) w'

section
variable {Q : Exit → Act → World → Prop} {a : Act} {lo : Nat} {w0 : World} {S : List Nat} {blk : List UInt8} {v5 v6 v20 v22 : Value} {w : World}
theorem st5 (hsz : 23 ≤ a.tmps.size) (hS : S.length = 80) (hQ : R1Post Q a lo w0 S) (h : Rg lo w0 true true v5 v6 w) :
    wpAnyR Try.prog .any ops1 Q (Keeps (fun b => lo ≤ b)) 2 #[true, true, true, true, true, false, false] (fr a v5 v6 (.agg K80a) (.agg (ucs S).toArray)) w := by
  obtain ⟨g5, rfl, l5, z5, c5⟩ := h.h5 rfl
  obtain ⟨g6, rfl, l6, z6, c6⟩ := h.h6 rfl
  have hne : g5 ≠ g6 := fun e => h.ne rfl rfl (by rw [e])
  obtain ⟨w1, hr1, hh1, hg1, hz1⟩ := exec_store_all (P := Try.prog) (a := fr a (.pointer (some ⟨g5, 0, none⟩)) (.pointer (some ⟨g6, 0, none⟩)) (.agg K80a) (.agg (ucs S).toArray)) (w := w) (o := ops1[5]) 93 (.tmp 5) (.tmp 20) rfl g5 (fr_e5 _ _ _ _ _ hsz) K80a (fr_e20 _ _ _ _ _ hsz) 93 (zw 80) c5 (by rw [size93, K80a_size]) (by rw [K80a_size]; rfl) K80a_one
  have c6' : w1.heap[g6]? = some (.cells (zw 80) 93 (0, 0)) := (hg1.block g6 z6 (by simpa using hne.symm)).trans c6
  have hsz6 : (ucs S).toArray.size = 80 := by simp [ucs_len, hS]
  obtain ⟨w2, hr2, hh2, hg2, hz2⟩ := exec_store_all (P := Try.prog) (a := fr a (.pointer (some ⟨g5, 0, none⟩)) (.pointer (some ⟨g6, 0, none⟩)) (.agg K80a) (.agg (ucs S).toArray)) (w := w1) (o := ops1[6]) 93 (.tmp 6) (.tmp 22) rfl g6 (fr_e6 _ _ _ _ _ hsz) (ucs S).toArray (fr_e22 _ _ _ _ _ hsz) 93 (zw 80) c6' (by rw [size93, hsz6]) (by rw [hsz6]; rfl) (ucs_one S)
  refine anyOp (i := 5) (oi := ops1[5]) rfl (by kernel_rfl) rfl ?_
  unfold Oper.wp
  rw [hr1]
  refine ⟨Keeps.of_grown hg1 (fun r hr => by injection hr with hr; omega), ?_⟩
  refine anyOp (i := 6) (oi := ops1[6]) rfl (by kernel_rfl) rfl ?_
  unfold Oper.wp
  rw [show (Act.put (fr a (.pointer (some ⟨g5, 0, none⟩)) (.pointer (some ⟨g6, 0, none⟩)) (.agg K80a) (.agg (ucs S).toArray)) ops1[5].dst undef) = fr a (.pointer (some ⟨g5, 0, none⟩)) (.pointer (some ⟨g6, 0, none⟩)) (.agg K80a) (.agg (ucs S).toArray) from rfl, hr2]
  refine ⟨Keeps.of_grown hg2 (fun r hr => by injection hr with hr; omega), ?_⟩
  refine anyDone (by kernel_rfl) ?_ _
  refine hQ g5 g6 w2 l5 l6 (by omega) (by omega) ?_ ?_ hh2
  · exact (h.bel.grown hg1 h.lo_le (fun r hr => by injection hr with hr; omega)).grown hg2 (by have := h.lo_le; omega) (fun r hr => by injection hr with hr; omega)
  · exact (hg2.block g5 (by omega) (by simpa using hne)).trans hh1

theorem exec_K (a : Act) (w : World) : (execOp a.eval ops1[0]).run Try.prog w = .ok (.enter 54 #[]) w := by
  simp only [ops1, List.getElem_toArray, List.getElem_cons_zero, List.getElem_cons_succ]
  go_simp
theorem exec_S (a : Act) (w : World) : (execOp a.eval ops1[2]).run Try.prog w = .ok (.enter 55 #[a.eval (.tmp 21)]) w := by
  simp only [ops1, List.getElem_toArray, List.getElem_cons_zero, List.getElem_cons_succ]
  go_simp

theorem st_210 (hblk : blk.length = 128) (hS : S = sched blk) (h21 : a.eval (.tmp 21) = .agg (bcs blk).toArray) (hsz : 23 ≤ a.tmps.size) (hQ : R1Post Q a lo w0 S) (h : Rg lo w0 true false v5 undef w) :
    wpAnyR Try.prog .any ops1 Q (Keeps (fun b => lo ≤ b)) 3 #[true, true, true, true, false, false, false] (fr a v5 undef (.agg K80a) (.agg (ucs S).toArray)) w := by
  refine anyEach [4] (by kernel_rfl) (by simp) fun i hi => ?_
  simp only [List.mem_cons, List.not_mem_nil, or_false] at hi
  rcases hi with rfl
  · refine wpOp_value (oi := ops1[4]) rfl rfl (exec_alloc 93 rfl (.agg (zw 80)) zero93 w) ⟨Keeps.of_below (below_alloc w _), ?_⟩
    rw [show ops1[4].dst = some 6 from rfl, fr6]
    exact st5 hsz (by rw [hS, sched_len]) hQ h.a6

theorem st_201 (hblk : blk.length = 128) (hS : S = sched blk) (h21 : a.eval (.tmp 21) = .agg (bcs blk).toArray) (hsz : 23 ≤ a.tmps.size) (hQ : R1Post Q a lo w0 S) (h : Rg lo w0 false true undef v6 w) :
    wpAnyR Try.prog .any ops1 Q (Keeps (fun b => lo ≤ b)) 3 #[true, true, true, false, true, false, false] (fr a undef v6 (.agg K80a) (.agg (ucs S).toArray)) w := by
  refine anyEach [3] (by kernel_rfl) (by simp) fun i hi => ?_
  simp only [List.mem_cons, List.not_mem_nil, or_false] at hi
  rcases hi with rfl
  · refine wpOp_value (oi := ops1[3]) rfl rfl (exec_alloc 93 rfl (.agg (zw 80)) zero93 w) ⟨Keeps.of_below (below_alloc w _), ?_⟩
    rw [show ops1[3].dst = some 5 from rfl, fr5]
    exact st5 hsz (by rw [hS, sched_len]) hQ h.a5

theorem st_111 (hblk : blk.length = 128) (hS : S = sched blk) (h21 : a.eval (.tmp 21) = .agg (bcs blk).toArray) (hsz : 23 ≤ a.tmps.size) (hQ : R1Post Q a lo w0 S) (h : Rg lo w0 true true v5 v6 w) :
    wpAnyR Try.prog .any ops1 Q (Keeps (fun b => lo ≤ b)) 3 #[true, true, false, true, true, false, false] (fr a v5 v6 (.agg K80a) undef) w := by
  refine anyEach [2] (by kernel_rfl) (by simp) fun i hi => ?_
  simp only [List.mem_cons, List.not_mem_nil, or_false] at hi
  rcases hi with rfl
  · refine wpOp_call (oi := ops1[2]) rfl rfl (exec_S _ _) ?_
    rw [fr_e21, h21]
    refine (schedule_any blk hblk w).mono ?_
    rintro e w' ⟨rfl, hb⟩
    refine ⟨_, rfl, Keeps.of_below hb, ?_⟩
    rw [show ops1[2].dst = some 22 from rfl, fr22, ← hS]
    exact st5 hsz (by rw [hS, sched_len]) hQ (h.keep hb)

theorem st_200 (hblk : blk.length = 128) (hS : S = sched blk) (h21 : a.eval (.tmp 21) = .agg (bcs blk).toArray) (hsz : 23 ≤ a.tmps.size) (hQ : R1Post Q a lo w0 S) (h : Rg lo w0 false false undef undef w) :
    wpAnyR Try.prog .any ops1 Q (Keeps (fun b => lo ≤ b)) 4 #[true, true, true, false, false, false, false] (fr a undef undef (.agg K80a) (.agg (ucs S).toArray)) w := by
  refine anyEach [3, 4] (by kernel_rfl) (by simp) fun i hi => ?_
  simp only [List.mem_cons, List.not_mem_nil, or_false] at hi
  rcases hi with rfl | rfl
  · refine wpOp_value (oi := ops1[3]) rfl rfl (exec_alloc 93 rfl (.agg (zw 80)) zero93 w) ⟨Keeps.of_below (below_alloc w _), ?_⟩
    rw [show ops1[3].dst = some 5 from rfl, fr5]
    exact st_210 hblk hS h21 hsz hQ h.a5
  · refine wpOp_value (oi := ops1[4]) rfl rfl (exec_alloc 93 rfl (.agg (zw 80)) zero93 w) ⟨Keeps.of_below (below_alloc w _), ?_⟩
    rw [show ops1[4].dst = some 6 from rfl, fr6]
    exact st_201 hblk hS h21 hsz hQ h.a6

theorem st_110 (hblk : blk.length = 128) (hS : S = sched blk) (h21 : a.eval (.tmp 21) = .agg (bcs blk).toArray) (hsz : 23 ≤ a.tmps.size) (hQ : R1Post Q a lo w0 S) (h : Rg lo w0 true false v5 undef w) :
    wpAnyR Try.prog .any ops1 Q (Keeps (fun b => lo ≤ b)) 4 #[true, true, false, true, false, false, false] (fr a v5 undef (.agg K80a) undef) w := by
  refine anyEach [2, 4] (by kernel_rfl) (by simp) fun i hi => ?_
  simp only [List.mem_cons, List.not_mem_nil, or_false] at hi
  rcases hi with rfl | rfl
  · refine wpOp_call (oi := ops1[2]) rfl rfl (exec_S _ _) ?_
    rw [fr_e21, h21]
    refine (schedule_any blk hblk w).mono ?_
    rintro e w' ⟨rfl, hb⟩
    refine ⟨_, rfl, Keeps.of_below hb, ?_⟩
    rw [show ops1[2].dst = some 22 from rfl, fr22, ← hS]
    exact st_210 hblk hS h21 hsz hQ (h.keep hb)
  · refine wpOp_value (oi := ops1[4]) rfl rfl (exec_alloc 93 rfl (.agg (zw 80)) zero93 w) ⟨Keeps.of_below (below_alloc w _), ?_⟩
    rw [show ops1[4].dst = some 6 from rfl, fr6]
    exact st_111 hblk hS h21 hsz hQ h.a6

theorem st_101 (hblk : blk.length = 128) (hS : S = sched blk) (h21 : a.eval (.tmp 21) = .agg (bcs blk).toArray) (hsz : 23 ≤ a.tmps.size) (hQ : R1Post Q a lo w0 S) (h : Rg lo w0 false true undef v6 w) :
    wpAnyR Try.prog .any ops1 Q (Keeps (fun b => lo ≤ b)) 4 #[true, true, false, false, true, false, false] (fr a undef v6 (.agg K80a) undef) w := by
  refine anyEach [2, 3] (by kernel_rfl) (by simp) fun i hi => ?_
  simp only [List.mem_cons, List.not_mem_nil, or_false] at hi
  rcases hi with rfl | rfl
  · refine wpOp_call (oi := ops1[2]) rfl rfl (exec_S _ _) ?_
    rw [fr_e21, h21]
    refine (schedule_any blk hblk w).mono ?_
    rintro e w' ⟨rfl, hb⟩
    refine ⟨_, rfl, Keeps.of_below hb, ?_⟩
    rw [show ops1[2].dst = some 22 from rfl, fr22, ← hS]
    exact st_201 hblk hS h21 hsz hQ (h.keep hb)
  · refine wpOp_value (oi := ops1[3]) rfl rfl (exec_alloc 93 rfl (.agg (zw 80)) zero93 w) ⟨Keeps.of_below (below_alloc w _), ?_⟩
    rw [show ops1[3].dst = some 5 from rfl, fr5]
    exact st_111 hblk hS h21 hsz hQ h.a5

theorem st_011 (hblk : blk.length = 128) (hS : S = sched blk) (h21 : a.eval (.tmp 21) = .agg (bcs blk).toArray) (hsz : 23 ≤ a.tmps.size) (hQ : R1Post Q a lo w0 S) (h : Rg lo w0 true true v5 v6 w) :
    wpAnyR Try.prog .any ops1 Q (Keeps (fun b => lo ≤ b)) 4 #[false, true, false, true, true, false, false] (fr a v5 v6 undef undef) w := by
  refine anyEach [0] (by kernel_rfl) (by simp) fun i hi => ?_
  simp only [List.mem_cons, List.not_mem_nil, or_false] at hi
  rcases hi with rfl
  · refine wpOp_call (oi := ops1[0]) rfl rfl (exec_K _ _) ((K_any w).mono ?_)
    rintro e w' ⟨rfl, hb⟩
    refine ⟨_, rfl, Keeps.of_below hb, ?_⟩
    rw [show ops1[0].dst = some 20 from rfl, fr20]
    exact st_111 hblk hS h21 hsz hQ (h.keep hb)

theorem st_100 (hblk : blk.length = 128) (hS : S = sched blk) (h21 : a.eval (.tmp 21) = .agg (bcs blk).toArray) (hsz : 23 ≤ a.tmps.size) (hQ : R1Post Q a lo w0 S) (h : Rg lo w0 false false undef undef w) :
    wpAnyR Try.prog .any ops1 Q (Keeps (fun b => lo ≤ b)) 5 #[true, true, false, false, false, false, false] (fr a undef undef (.agg K80a) undef) w := by
  refine anyEach [2, 3, 4] (by kernel_rfl) (by simp) fun i hi => ?_
  simp only [List.mem_cons, List.not_mem_nil, or_false] at hi
  rcases hi with rfl | rfl | rfl
  · refine wpOp_call (oi := ops1[2]) rfl rfl (exec_S _ _) ?_
    rw [fr_e21, h21]
    refine (schedule_any blk hblk w).mono ?_
    rintro e w' ⟨rfl, hb⟩
    refine ⟨_, rfl, Keeps.of_below hb, ?_⟩
    rw [show ops1[2].dst = some 22 from rfl, fr22, ← hS]
    exact st_200 hblk hS h21 hsz hQ (h.keep hb)
  · refine wpOp_value (oi := ops1[3]) rfl rfl (exec_alloc 93 rfl (.agg (zw 80)) zero93 w) ⟨Keeps.of_below (below_alloc w _), ?_⟩
    rw [show ops1[3].dst = some 5 from rfl, fr5]
    exact st_110 hblk hS h21 hsz hQ h.a5
  · refine wpOp_value (oi := ops1[4]) rfl rfl (exec_alloc 93 rfl (.agg (zw 80)) zero93 w) ⟨Keeps.of_below (below_alloc w _), ?_⟩
    rw [show ops1[4].dst = some 6 from rfl, fr6]
    exact st_101 hblk hS h21 hsz hQ h.a6

theorem st_010 (hblk : blk.length = 128) (hS : S = sched blk) (h21 : a.eval (.tmp 21) = .agg (bcs blk).toArray) (hsz : 23 ≤ a.tmps.size) (hQ : R1Post Q a lo w0 S) (h : Rg lo w0 true false v5 undef w) :
    wpAnyR Try.prog .any ops1 Q (Keeps (fun b => lo ≤ b)) 5 #[false, true, false, true, false, false, false] (fr a v5 undef undef undef) w := by
  refine anyEach [0, 4] (by kernel_rfl) (by simp) fun i hi => ?_
  simp only [List.mem_cons, List.not_mem_nil, or_false] at hi
  rcases hi with rfl | rfl
  · refine wpOp_call (oi := ops1[0]) rfl rfl (exec_K _ _) ((K_any w).mono ?_)
    rintro e w' ⟨rfl, hb⟩
    refine ⟨_, rfl, Keeps.of_below hb, ?_⟩
    rw [show ops1[0].dst = some 20 from rfl, fr20]
    exact st_110 hblk hS h21 hsz hQ (h.keep hb)
  · refine wpOp_value (oi := ops1[4]) rfl rfl (exec_alloc 93 rfl (.agg (zw 80)) zero93 w) ⟨Keeps.of_below (below_alloc w _), ?_⟩
    rw [show ops1[4].dst = some 6 from rfl, fr6]
    exact st_011 hblk hS h21 hsz hQ h.a6

theorem st_001 (hblk : blk.length = 128) (hS : S = sched blk) (h21 : a.eval (.tmp 21) = .agg (bcs blk).toArray) (hsz : 23 ≤ a.tmps.size) (hQ : R1Post Q a lo w0 S) (h : Rg lo w0 false true undef v6 w) :
    wpAnyR Try.prog .any ops1 Q (Keeps (fun b => lo ≤ b)) 5 #[false, true, false, false, true, false, false] (fr a undef v6 undef undef) w := by
  refine anyEach [0, 3] (by kernel_rfl) (by simp) fun i hi => ?_
  simp only [List.mem_cons, List.not_mem_nil, or_false] at hi
  rcases hi with rfl | rfl
  · refine wpOp_call (oi := ops1[0]) rfl rfl (exec_K _ _) ((K_any w).mono ?_)
    rintro e w' ⟨rfl, hb⟩
    refine ⟨_, rfl, Keeps.of_below hb, ?_⟩
    rw [show ops1[0].dst = some 20 from rfl, fr20]
    exact st_101 hblk hS h21 hsz hQ (h.keep hb)
  · refine wpOp_value (oi := ops1[3]) rfl rfl (exec_alloc 93 rfl (.agg (zw 80)) zero93 w) ⟨Keeps.of_below (below_alloc w _), ?_⟩
    rw [show ops1[3].dst = some 5 from rfl, fr5]
    exact st_011 hblk hS h21 hsz hQ h.a5

theorem st_000 (hblk : blk.length = 128) (hS : S = sched blk) (h21 : a.eval (.tmp 21) = .agg (bcs blk).toArray) (hsz : 23 ≤ a.tmps.size) (hQ : R1Post Q a lo w0 S) (h : Rg lo w0 false false undef undef w) :
    wpAnyR Try.prog .any ops1 Q (Keeps (fun b => lo ≤ b)) 6 #[false, true, false, false, false, false, false] (fr a undef undef undef undef) w := by
  refine anyEach [0, 3, 4] (by kernel_rfl) (by simp) fun i hi => ?_
  simp only [List.mem_cons, List.not_mem_nil, or_false] at hi
  rcases hi with rfl | rfl | rfl
  · refine wpOp_call (oi := ops1[0]) rfl rfl (exec_K _ _) ((K_any w).mono ?_)
    rintro e w' ⟨rfl, hb⟩
    refine ⟨_, rfl, Keeps.of_below hb, ?_⟩
    rw [show ops1[0].dst = some 20 from rfl, fr20]
    exact st_100 hblk hS h21 hsz hQ (h.keep hb)
  · refine wpOp_value (oi := ops1[3]) rfl rfl (exec_alloc 93 rfl (.agg (zw 80)) zero93 w) ⟨Keeps.of_below (below_alloc w _), ?_⟩
    rw [show ops1[3].dst = some 5 from rfl, fr5]
    exact st_010 hblk hS h21 hsz hQ h.a5
  · refine wpOp_value (oi := ops1[4]) rfl rfl (exec_alloc 93 rfl (.agg (zw 80)) zero93 w) ⟨Keeps.of_below (below_alloc w _), ?_⟩
    rw [show ops1[4].dst = some 6 from rfl, fr6]
    exact st_001 hblk hS h21 hsz hQ h.a6

theorem st_start (hblk : blk.length = 128) (hS : S = sched blk) (ha : fr a undef undef undef undef = a) (h21 : a.eval (.tmp 21) = .agg (bcs blk).toArray) (hsz : 23 ≤ a.tmps.size) (hlo : lo ≤ w.heap.size) (hb : Below lo w0 w) (hQ : R1Post Q a lo w0 S) :
    wpAnyR Try.prog .any ops1 Q (Keeps (fun b => lo ≤ b)) 6 #[false, true, false, false, false, false, false] a w := by
  have := st_000 (lo := lo) (w0 := w0) (w := w) hblk hS h21 hsz hQ ⟨hb, hlo, nofun, nofun, nofun⟩
  rw [show fr a undef undef undef undef = a from ha] at this
  exact this
end
end Go.Proofs.Ytkglicidjdifkaa
