/- Several texts in one. No statement is proved here. -/
import Derived.Test.YtgdimnbdnepbgaaC2
/- Rows of cells, all of them in one fact. No statement is proved here. -/
namespace Go.Proofs.Ytgdimnbdnepbgaa
open Go.RowKit
set_option linter.unusedVariables false
set_option maxRecDepth 40000
set_option linter.unusedSimpArgs false

def CAt (w : World) (g : Nat) (cs : List Value) : Prop := ∃ t, w.heap[g]? = some (.cells cs.toArray t (0, 0))
theorem CAt.lt {w : World} {g : Nat} {cs : List Value} (h : CAt w g cs) : g < w.heap.size := by obtain ⟨t, ht⟩ := h; exact (Array.getElem?_eq_some_iff.1 ht).1
theorem CAt.keep {w w' : World} {g : Nat} {cs : List Value} (h : CAt w g cs) (hb : Below w.heap.size w w') : CAt w' g cs := by
  have := h.lt
  obtain ⟨t, ht⟩ := h
  exact ⟨t, (hb.block g this).trans ht⟩
theorem CAt.grown {w w' : World} {g : Nat} {cs : List Value} {row : Option Nat} (h : CAt w g cs) (hb : w.grownBy w' row) (hg : some g ≠ row) : CAt w' g cs := by
  have := h.lt
  obtain ⟨t, ht⟩ := h
  exact ⟨t, (hb.block g this hg).trans ht⟩
def Rws (w : World) (ρ : List (Nat × List Value)) : Prop := ∀ r ∈ ρ, CAt w r.1 r.2
theorem rwG {w : World} {ρ : List (Nat × List Value)} (h : Hid (Rws w ρ)) (i : Nat) {g : Nat} {cs : List Value} (hi : ρ[i]? = some (g, cs)) : CAt w g cs := h.out _ (List.mem_of_getElem? hi)
theorem rw0 (w : World) : Hid (Rws w []) := Lib.hid (fun r hr => absurd hr (by simp))
theorem rwC {w w' : World} {ρ : List (Nat × List Value)} (h : Hid (Rws w ρ)) (hb : Below w.heap.size w w') : Hid (Rws w' ρ) := Lib.hid (fun r hr => (h.out r hr).keep hb)
theorem rwN {w w' : World} {ρ : List (Nat × List Value)} {g : Nat} {cs : List Value} (h : Hid (Rws w ρ)) (hb : Below w.heap.size w w') (c : CAt w' g cs) : Hid (Rws w' ((g, cs) :: ρ)) := Lib.hid (fun r hr => by
  rcases List.mem_cons.1 hr with rfl | hr
  · exact c
  · exact (h.out r hr).keep hb)
theorem rwD {w : World} {ρ : List (Nat × List Value)} {g : Nat} {cs : List Value} (h : Hid (Rws w ρ)) (c : CAt w g cs) : Hid (Rws w ((g, cs) :: ρ)) := rwN h (Below.refl _ _) c
theorem bT {w x y : World} (h : Hid (Below w.heap.size w x)) (k : Below x.heap.size x y) : Hid (Below w.heap.size w y) := Lib.hid (h.out.trans (k.mono h.out.size))
theorem cbS {w : World} {n : Nat} {cs : List Value} {t : TypeId} (h : w.heap[n]? = some (.cells cs.toArray t (0, 0))) : CAt w n cs := ⟨t, h⟩
/-- A row is made and filled. -/
theorem wpList_mk {ops : Array Oper} {rest : List Oper} {o1 o2 : Oper} {a : Act} {w : World} {Q : Exit → Act → World → Prop} (hw1 : Region.wanted o1 (yielded ops a.tmps) = true) (ty : TypeId) (ho1 : o1.op = .alloc ty) (z : Array Value) (hz : ∀ w, (zeroValue ty).run Try.prog w = .ok (.agg z) w)
    (p x : Operand) (ho2 : o2.op = .store ty p x) (cs : List Value) (hp : (a.put o1.dst (.pointer (some ⟨w.heap.size, 0, none⟩))).eval p = .pointer (some ⟨w.heap.size, 0, none⟩)) (hx : (a.put o1.dst (.pointer (some ⟨w.heap.size, 0, none⟩))).eval x = .agg cs.toArray)
    (hw2 : Region.wanted o2 (yielded ops (a.put o1.dst (.pointer (some ⟨w.heap.size, 0, none⟩))).tmps) = true) (hsz : (Try.prog.info? ty).map (·.size) = some cs.length) (hzs : z.size = cs.length) (h1 : ∀ u ∈ cs, u.oneCell' = true)
    (h : ∀ y, CAt y w.heap.size cs → Below w.heap.size w y → wpList Try.prog ops Q rest ((a.put o1.dst (.pointer (some ⟨w.heap.size, 0, none⟩))).put o2.dst undef) y) : wpList Try.prog ops Q (o1 :: o2 :: rest) a w := by
  refine wpList_alloc_row hw1 ty ho1 (.agg z) hz ?_
  intro u h2 z2 g2
  refine wpList_store_all hw2 ty p x ho2 w.heap.size hp cs.toArray hx ty _ h2 (by rw [List.size_toArray]; exact hsz) (by rw [List.size_toArray]; exact hzs.symm) (by simpa using h1) ?_
  intro y hh hg hy
  exact h y ⟨ty, hh⟩ ((below_of_grownBy g2).grown hg (by omega) (fun r hr => by injection hr; omega))
/-- The result is stored. -/
theorem exec_put {o : Oper} {a : Act} {w0 w : World} (ty : TypeId) (p x : Operand) (ho : o.op = .store ty p x) (g : Nat) (hp : a.eval p = .pointer (some ⟨g, 0, none⟩)) (cs cur : List Value) (hx : a.eval x = .agg cs.toArray) (hr : CAt w g cur)
    (hsz : (Try.prog.info? ty).map (·.size) = some cs.length) (hl : cs.length = cur.length) (h1 : ∀ u ∈ cs, u.oneCell' = true) (hf : Below w0.heap.size w0 w) (hg : w0.heap.size ≤ g) :
    ∃ w', (execOp a.eval o).run Try.prog w = .ok .skip w' ∧ CAt w' g cs ∧ Below w0.heap.size w0 w' := by
  obtain ⟨t, ht⟩ := hr
  obtain ⟨w', h1, h2, h3, h4⟩ := exec_store_all (P := Try.prog) (a := a) (w := w) (o := o) ty p x ho g hp cs.toArray hx t _ ht (by rw [List.size_toArray]; exact hsz) (by rw [List.size_toArray, List.size_toArray]; exact hl) (by simpa using h1)
  exact ⟨w', h1, ⟨t, h2⟩, hf.grown h3 hf.size (fun r hr => by injection hr; omega)⟩
theorem exec_putR {o : Oper} {a : Act} {w0 w : World} {R : World → Prop} (ty : TypeId) (p x : Operand) (ho : o.op = .store ty p x) (g : Nat) (hp : a.eval p = .pointer (some ⟨g, 0, none⟩)) (cs cur : List Value) (hx : a.eval x = .agg cs.toArray) (hr : CAt w g cur)
    (hsz : (Try.prog.info? ty).map (·.size) = some cs.length) (hl : cs.length = cur.length) (h1 : ∀ u ∈ cs, u.oneCell' = true) (hf : Below w0.heap.size w0 w) (hg : w0.heap.size ≤ g)
    (h : ∀ w', CAt w' g cs → Below w0.heap.size w0 w' → R w') : ∃ w', (execOp a.eval o).run Try.prog w = .ok .skip w' ∧ R w' := by
  obtain ⟨w', e1, e2, e3⟩ := exec_put (a := a) ty p x ho g hp cs cur hx hr hsz hl h1 hf hg
  exact ⟨w', e1, h w' e2 e3⟩
theorem wpList_put {ops : Array Oper} {rest : List Oper} {o : Oper} {a : Act} {w0 w : World} {Q : Exit → Act → World → Prop} (hgd : Region.wanted o (yielded ops a.tmps) = true) (ty : TypeId) (p x : Operand) (ho : o.op = .store ty p x) (g : Nat) (hp : a.eval p = .pointer (some ⟨g, 0, none⟩)) (cs cur : List Value) (hx : a.eval x = .agg cs.toArray) (hr : CAt w g cur)
    (hsz : (Try.prog.info? ty).map (·.size) = some cs.length) (hl : cs.length = cur.length) (h1 : ∀ u ∈ cs, u.oneCell' = true) (hf : Below w0.heap.size w0 w) (hg : w0.heap.size ≤ g)
    (h : ∀ w', CAt w' g cs → Below w0.heap.size w0 w' → wpList Try.prog ops Q rest (a.put o.dst undef) w') : wpList Try.prog ops Q (o :: rest) a w := by
  refine wpList_want hgd fun K hK => ?_
  obtain ⟨w', e1, e2, e3⟩ := exec_put (a := a) ty p x ho g hp cs cur hx hr hsz hl h1 hf hg
  unfold Oper.wp
  rw [e1]
  exact hK _ _ (h w' e2 e3)
/-- What a region fills. -/
theorem fill {o : Oper} (ty : TypeId) (p x : Operand) (ho : o.op = .store ty p x) (g : Nat) (cs z : List Value) (hsz : (Try.prog.info? ty).map (·.size) = some cs.length) (hl : cs.length = z.length) (h1 : ∀ u ∈ cs, u.oneCell' = true) {a : Act} {w : World} {t : TypeId} (hp : a.eval p = .pointer (some ⟨g, 0, none⟩)) (hx : a.eval x = .agg cs.toArray) (hz : w.heap[g]? = some (.cells z.toArray t (0, 0))) :
    ∃ w', (execOp a.eval o).run Try.prog w = .ok .skip w' ∧ w'.heap[g]? = some (.cells cs.toArray t (0, 0)) ∧ w.grownBy w' (some g) ∧ w'.heap.size = w.heap.size :=
  exec_store_all ty p x ho g hp cs.toArray hx t _ hz (by rw [List.size_toArray]; exact hsz) (by rw [List.size_toArray, List.size_toArray]; exact hl) (by simpa using h1)
section
variable {a : Act}
theorem hx1 {x : Operand} {u : Value} (h : a.eval x = u) : [x].map a.eval = [u] := by rw [List.map_cons, h]; rfl
theorem hx2 {x y : Operand} {u v : Value} (h : a.eval x = u) (k : a.eval y = v) : [x, y].map a.eval = [u, v] := by rw [List.map_cons, h, hx1 k]
theorem hx3 {x y z : Operand} {u v q : Value} (h : a.eval x = u) (k : a.eval y = v) (m : a.eval z = q) : [x, y, z].map a.eval = [u, v, q] := by rw [List.map_cons, h, hx2 k m]
theorem hx4 {x y z z' : Operand} {u v q q' : Value} (h : a.eval x = u) (k : a.eval y = v) (m : a.eval z = q) (m' : a.eval z' = q') : [x, y, z, z'].map a.eval = [u, v, q, q'] := by rw [List.map_cons, h, hx3 k m m']
end
theorem vcall {o : Oper} {a : Act} {w : World} (f : FuncId) (xs : List Operand) (ts : Array TypeId) (ho : o.op = .call { callee := .value (.func f), args := xs.toArray, argTypes := ts }) (args : List Value) (hx : xs.map a.eval = args) (hcf : ∀ w, (callFunc f args.toArray).run Try.prog w = .ok (.enter f args.toArray) w) {v : Value} (hc : ∀ w, Calls Try.prog f args.toArray w (Gives v w)) : RO.Vat Try.prog o a w v :=
  .inr ⟨f, args.toArray, exec_callL f xs ts ho args hx hcf, hc w⟩
theorem bcs_one' (l : List UInt8) : ∀ u ∈ bcs l, u.oneCell' = true := bcs_one l
theorem ce (n : Nat) : (bcs (enc n)).length = 32 := by rw [bcs_enc_len]
theorem cr (l : List Nat) : (bcs (encs l)).length = 32 * l.length := by rw [bcs_len, encs_len]
theorem neO {W : World} {ρ : List (Nat × List Value)} {g : Nat} (h : Hid (Rws W ρ)) (hg : W.heap.size ≤ g) : ∀ r ∈ ρ, r.1 ≠ g := fun r hr => Nat.ne_of_lt (Nat.lt_of_lt_of_le (h.out r hr).lt hg)
theorem neC {ρ : List (Nat × List Value)} {g a : Nat} {c : List Value} (h : a ≠ g) (k : ∀ r ∈ ρ, r.1 ≠ g) : ∀ r ∈ (a, c) :: ρ, r.1 ≠ g := fun r hr => by
  rcases List.mem_cons.1 hr with rfl | hr
  · exact h
  · exact k r hr
theorem wpList_set {ops : Array Oper} {rest : List Oper} {o : Oper} {a : Act} {w : World} {Q : Exit → Act → World → Prop} (hgd : Region.wanted o (yielded ops a.tmps) = true) (ty : TypeId) (p x : Operand) (ho : o.op = .store ty p x) (g : Nat) (hp : a.eval p = .pointer (some ⟨g, 0, none⟩)) (cs cur : List Value) (hx : a.eval x = .agg cs.toArray) (hr : CAt w g cur)
    (hsz : (Try.prog.info? ty).map (·.size) = some cs.length) (hl : cs.length = cur.length) (h1 : ∀ u ∈ cs, u.oneCell' = true)
    (h : ∀ w', CAt w' g cs → w.grownBy w' (some g) → wpList Try.prog ops Q rest (a.put o.dst undef) w') : wpList Try.prog ops Q (o :: rest) a w := by
  obtain ⟨t, ht⟩ := hr
  exact wpList_store_all hgd ty p x ho g hp cs.toArray hx t _ ht (by rw [List.size_toArray]; exact hsz) (by rw [List.size_toArray, List.size_toArray]; exact hl) (by simpa using h1) (fun w' h2 h3 _ => h w' ⟨t, h2⟩ h3)
theorem rwT {w : World} {ρ : List (Nat × List Value)} {r : Nat × List Value} (h : Hid (Rws w (r :: ρ))) : Hid (Rws w ρ) := Lib.hid (fun q hq => h.out q (List.mem_cons_of_mem _ hq))
theorem rwGr {w w' : World} {ρ : List (Nat × List Value)} {g : Nat} (h : Hid (Rws w ρ)) (ne : Hid (∀ r ∈ ρ, r.1 ≠ g)) (hg : w.grownBy w' (some g)) : Hid (Rws w' ρ) := Lib.hid (fun r hr => (h.out r hr).grown hg (fun e => ne.out r hr (by injection e)))
section
variable {o : Oper} {a : Act} {w : World}
theorem loadN (x : Operand) (ho : o.op = .load 23 x) (g n : Nat) (hx : a.eval x = .pointer (some ⟨g, 0, none⟩)) (hr : CAt w g (bcs (enc n))) : (execOp a.eval o).run Try.prog w = .ok (.value (vN n)) w :=
  exec_loadF x ho g 0 0 rfl [n] n hx (by obtain ⟨t, ht⟩ := hr; exact ⟨t, by rw [encs_one]; exact ht⟩) rfl
theorem loadP (x : Operand) (ho : o.op = .load 35 x) (g m n : Nat) (hx : a.eval x = .pointer (some ⟨g, 0, none⟩)) (hr : CAt w g (bcs (encs [m, n]))) : (execOp a.eval o).run Try.prog w = .ok (.value (vR [m, n])) w := exec_loadP x ho g m n hx hr
theorem loadX (x : Operand) (ho : o.op = .load 23 x) (g m n : Nat) (hx : a.eval x = .pointer (some ⟨g, 0, none⟩)) (hr : CAt w g (bcs (encs [m, n]))) : (execOp a.eval o).run Try.prog w = .ok (.value (vN m)) w := exec_loadF x ho g 0 0 rfl [m, n] m hx hr rfl
theorem loadY (x : Operand) (ho : o.op = .load 23 x) (g m n : Nat) (hx : a.eval x = .pointer (some ⟨g, 32, none⟩)) (hr : CAt w g (bcs (encs [m, n]))) : (execOp a.eval o).run Try.prog w = .ok (.value (vN n)) w := exec_loadF x ho g 1 32 rfl [m, n] n hx hr rfl
end
end Go.Proofs.Ytgdimnbdnepbgaa
/- The reference's words: ten of 26 and 25 bits. No statement is proved here. -/
namespace Go.Proofs.Ytgdimnbdnepbgaa
open Go.RowKit
set_option linter.unusedVariables false
set_option maxRecDepth 40000
set_option linter.unusedSimpArgs false

/-- One word as a cell. -/
def ic (n : Nat) : Value := .int .i64 (n : Int)
def ics (l : List Nat) : List Value := l.map ic
theorem ics_len (l : List Nat) : (ics l).length = l.length := List.length_map ..
theorem ics_one (l : List Nat) : ∀ u ∈ ics l, u.oneCell' = true := by
  intro u hu
  obtain ⟨b, _, rfl⟩ := List.mem_map.1 hu
  rfl
theorem ics_get (l : List Nat) (i : Nat) : (ics l)[i]? = l[i]?.map ic := List.getElem?_map ..
theorem ics_set (l : List Nat) (j x : Nat) : (ics l).toArray.setIfInBounds j (.int .i64 (x : Int)) = (ics (l.set j x)).toArray := by
  apply Array.toList_inj.1
  rw [Array.toList_setIfInBounds]
  simp [ics, ic, List.map_set]
theorem iword_cell {w : World} {g : Nat} {t : TypeId} {l : List Nat} (h : w.heap[g]? = some (.cells (ics l).toArray t (0, 0))) (i : Nat) (hi : i < l.length) : w.cell? ⟨g, i, none⟩ = some (.int .i64 (l.getD i 0 : Nat)) := by
  refine row_cells h i _ ?_
  rw [List.toList_toArray, ics_get, List.getD_eq_getElem?_getD, List.getElem?_eq_getElem hi]
  rfl
/-- Ten words lie in row g. -/
def IAt (w : World) (g : Nat) (o : List Nat) : Prop := o.length = 10 ∧ ∃ t, w.heap[g]? = some (.cells (ics o).toArray t (0, 0))
theorem IAt.lt {w : World} {g : Nat} {o : List Nat} (h : IAt w g o) : g < w.heap.size := by
  obtain ⟨_, t, ht⟩ := h
  exact (Array.getElem?_eq_some_iff.1 ht).1
theorem IAt.cell {w : World} {g : Nat} {o : List Nat} (h : IAt w g o) (i : Nat) (hi : i < 10) : w.cell? ⟨g, i, none⟩ = some (.int .i64 (o.getD i 0 : Nat)) := by
  obtain ⟨hl, t, ht⟩ := h
  exact iword_cell ht i (by omega)
theorem IAt.keep {w w' : World} {g : Nat} {o : List Nat} (h : IAt w g o) (hb : Below w.heap.size w w') : IAt w' g o := by
  have := h.lt
  obtain ⟨hl, t, ht⟩ := h
  exact ⟨hl, t, (hb.block g this).trans ht⟩
theorem IAt.grown {w w' : World} {g : Nat} {o : List Nat} {row : Option Nat} (h : IAt w g o) (hb : w.grownBy w' row) (hg : some g ≠ row) : IAt w' g o := by
  have := h.lt
  obtain ⟨hl, t, ht⟩ := h
  exact ⟨hl, t, (hb.block g this hg).trans ht⟩
theorem size2 : (Try.prog.info? 2).map (·.size) = some 1 := by kernel_rfl
theorem under65 : Try.prog.underlying 65 = some (.array 10 2) := by kernel_rfl
theorem size65 : (Try.prog.info? 65).map (·.size) = some 10 := by kernel_rfl
def ziw : Array Value := (ics (List.replicate 10 0)).toArray
theorem zero65 (w : World) : (zeroValue 65).run Try.prog w = .ok (.agg ziw) w := by kernel_rfl

/-- How many bits word i has. -/
def b10 (i : Nat) : Nat := if i % 2 = 0 then 26 else 25
theorem bits_any (i : Nat) (h : i < 10) (w : World) : Calls Try.prog 95 #[.int .i64 (i : Nat)] w fun e w' => e = .returned (.int .u64 (b10 i : Nat)) ∧ w' = w := by
  have hi : i = 0 ∨ i = 1 ∨ i = 2 ∨ i = 3 ∨ i = 4 ∨ i = 5 ∨ i = 6 ∨ i = 7 ∨ i = 8 ∨ i = 9 := by omega
  rcases hi with rfl | rfl | rfl | rfl | rfl | rfl | rfl | rfl | rfl | rfl <;>
  · go_enter Try.func95, Try.ntmps95
    go_wp2
    go_ret
    exact ⟨rfl, rfl⟩
theorem bits_even (i : Nat) (h : i < 10) (he : i % 2 = 0) (w : World) : Calls Try.prog 95 #[.int .i64 (i : Nat)] w fun e w' => e = .returned (.int .u64 26) ∧ w' = w := by
  have h := bits_any i h w
  rw [show b10 i = 26 from by unfold b10; rw [if_pos he]] at h
  exact h
theorem bits_odd (i : Nat) (h : i < 10) (he : i % 2 = 1) (w : World) : Calls Try.prog 95 #[.int .i64 (i : Nat)] w fun e w' => e = .returned (.int .u64 25) ∧ w' = w := by
  have h := bits_any i h w
  rw [show b10 i = 25 from by unfold b10; rw [if_neg (by omega)]] at h
  exact h
end Go.Proofs.Ytgdimnbdnepbgaa
/- Points in extended coordinates: read, divide. No statement is proved here. -/
namespace Go.Proofs.Ytgdimnbdnepbgaa
open Go.RowKit
set_option linter.unusedVariables false
set_option maxRecDepth 40000
set_option linter.unusedSimpArgs false
def oEB0 : Oper := { dst := some 10, op := Op.move (Operand.tmp 0), type := 80, pos := "extended.go:51", after := #[], guard := none }
def oEB1 : Oper := { dst := some 11, op := Op.move (Operand.tmp 1), type := 62, pos := "extended.go:51", after := #[], guard := none }
def oEB2 : Oper := { dst := some 12, op := Op.nilCheck (Operand.tmp 11), type := 0, pos := "extended.go:51", after := #[{ on := 1, ground := Ground.data }], guard := none }
def oEB3 : Oper := { dst := some 13, op := Op.load 23 (Operand.tmp 12), type := 23, pos := "extended.go:51", after := #[{ on := 2, ground := Ground.data }], guard := none }
def oEB4 : Oper := { dst := some 14, op := Op.move (Operand.tmp 4), type := 62, pos := "extended.go:51", after := #[], guard := none }
def oEB5 : Oper := { dst := some 15, op := Op.nilCheck (Operand.tmp 14), type := 0, pos := "extended.go:51", after := #[{ on := 4, ground := Ground.data }], guard := none }
def oEB6 : Oper := { dst := some 16, op := Op.load 23 (Operand.tmp 15), type := 23, pos := "extended.go:51", after := #[{ on := 5, ground := Ground.data }], guard := none }
def oEB7 : Oper := { dst := some 17, op := Op.call { callee := Callee.value (Operand.func 25), args := #[Operand.tmp 13, Operand.tmp 16], argTypes := #[23, 23] }, type := 23, pos := "extended.go:51", after := #[{ on := 3, ground := Ground.data }, { on := 6, ground := Ground.data }], guard := none }
def oEB8 : Oper := { dst := some 18, op := Op.nilCheck (Operand.tmp 10), type := 0, pos := "extended.go:51", after := #[{ on := 0, ground := Ground.data }, { on := 0, ground := Ground.phase }, { on := 1, ground := Ground.phase }, { on := 2, ground := Ground.phase }, { on := 3, ground := Ground.phase }, { on := 4, ground := Ground.phase }, { on := 5, ground := Ground.phase }, { on := 6, ground := Ground.phase }, { on := 7, ground := Ground.phase }], guard := none }
def oEB9 : Oper := { dst := some 19, op := Op.fieldAddr 76 (Operand.tmp 18) 0, type := 0, pos := "extended.go:51", after := #[{ on := 8, ground := Ground.data }, { on := 0, ground := Ground.phase }, { on := 1, ground := Ground.phase }, { on := 2, ground := Ground.phase }, { on := 3, ground := Ground.phase }, { on := 4, ground := Ground.phase }, { on := 5, ground := Ground.phase }, { on := 6, ground := Ground.phase }, { on := 7, ground := Ground.phase }], guard := none }
def oEB10 : Oper := { dst := none, op := Op.store 23 (Operand.tmp 19) (Operand.tmp 17), type := 0, pos := "extended.go:51", after := #[{ on := 9, ground := Ground.data }, { on := 7, ground := Ground.data }, { on := 7, ground := Ground.chain }, { on := 0, ground := Ground.phase }, { on := 1, ground := Ground.phase }, { on := 2, ground := Ground.phase }, { on := 3, ground := Ground.phase }, { on := 4, ground := Ground.phase }, { on := 5, ground := Ground.phase }, { on := 6, ground := Ground.phase }, { on := 7, ground := Ground.phase }], guard := none }
def oEB11 : Oper := { dst := some 20, op := Op.move (Operand.tmp 0), type := 80, pos := "extended.go:52", after := #[], guard := none }
def oEB12 : Oper := { dst := some 21, op := Op.move (Operand.tmp 3), type := 62, pos := "extended.go:52", after := #[], guard := none }
def oEB13 : Oper := { dst := some 22, op := Op.nilCheck (Operand.tmp 21), type := 0, pos := "extended.go:52", after := #[{ on := 1, ground := Ground.data }], guard := none }
def oEB14 : Oper := { dst := some 23, op := Op.load 23 (Operand.tmp 22), type := 23, pos := "extended.go:52", after := #[{ on := 2, ground := Ground.data }], guard := none }
def oEB15 : Oper := { dst := some 24, op := Op.move (Operand.tmp 2), type := 62, pos := "extended.go:52", after := #[], guard := none }
def oEB16 : Oper := { dst := some 25, op := Op.nilCheck (Operand.tmp 24), type := 0, pos := "extended.go:52", after := #[{ on := 4, ground := Ground.data }], guard := none }
def oEB17 : Oper := { dst := some 26, op := Op.load 23 (Operand.tmp 25), type := 23, pos := "extended.go:52", after := #[{ on := 5, ground := Ground.data }], guard := none }
def oEB18 : Oper := { dst := some 27, op := Op.call { callee := Callee.value (Operand.func 25), args := #[Operand.tmp 23, Operand.tmp 26], argTypes := #[23, 23] }, type := 23, pos := "extended.go:52", after := #[{ on := 3, ground := Ground.data }, { on := 6, ground := Ground.data }], guard := none }
def oEB19 : Oper := { dst := some 28, op := Op.nilCheck (Operand.tmp 20), type := 0, pos := "extended.go:52", after := #[{ on := 0, ground := Ground.data }, { on := 0, ground := Ground.phase }, { on := 1, ground := Ground.phase }, { on := 2, ground := Ground.phase }, { on := 3, ground := Ground.phase }, { on := 4, ground := Ground.phase }, { on := 5, ground := Ground.phase }, { on := 6, ground := Ground.phase }, { on := 7, ground := Ground.phase }], guard := none }
def oEB20 : Oper := { dst := some 29, op := Op.fieldAddr 76 (Operand.tmp 28) 1, type := 0, pos := "extended.go:52", after := #[{ on := 8, ground := Ground.data }, { on := 0, ground := Ground.phase }, { on := 1, ground := Ground.phase }, { on := 2, ground := Ground.phase }, { on := 3, ground := Ground.phase }, { on := 4, ground := Ground.phase }, { on := 5, ground := Ground.phase }, { on := 6, ground := Ground.phase }, { on := 7, ground := Ground.phase }], guard := none }
def oEB21 : Oper := { dst := none, op := Op.store 23 (Operand.tmp 29) (Operand.tmp 27), type := 0, pos := "extended.go:52", after := #[{ on := 9, ground := Ground.data }, { on := 7, ground := Ground.data }, { on := 7, ground := Ground.chain }, { on := 0, ground := Ground.phase }, { on := 1, ground := Ground.phase }, { on := 2, ground := Ground.phase }, { on := 3, ground := Ground.phase }, { on := 4, ground := Ground.phase }, { on := 5, ground := Ground.phase }, { on := 6, ground := Ground.phase }, { on := 7, ground := Ground.phase }], guard := none }
def oEB22 : Oper := { dst := some 30, op := Op.move (Operand.tmp 0), type := 80, pos := "extended.go:53", after := #[], guard := none }
def oEB23 : Oper := { dst := some 31, op := Op.move (Operand.tmp 2), type := 62, pos := "extended.go:53", after := #[], guard := none }
def oEB24 : Oper := { dst := some 32, op := Op.nilCheck (Operand.tmp 31), type := 0, pos := "extended.go:53", after := #[{ on := 1, ground := Ground.data }], guard := none }
def oEB25 : Oper := { dst := some 33, op := Op.load 23 (Operand.tmp 32), type := 23, pos := "extended.go:53", after := #[{ on := 2, ground := Ground.data }], guard := none }
def oEB26 : Oper := { dst := some 34, op := Op.move (Operand.tmp 4), type := 62, pos := "extended.go:53", after := #[], guard := none }
def oEB27 : Oper := { dst := some 35, op := Op.nilCheck (Operand.tmp 34), type := 0, pos := "extended.go:53", after := #[{ on := 4, ground := Ground.data }], guard := none }
def oEB28 : Oper := { dst := some 36, op := Op.load 23 (Operand.tmp 35), type := 23, pos := "extended.go:53", after := #[{ on := 5, ground := Ground.data }], guard := none }
def oEB29 : Oper := { dst := some 37, op := Op.call { callee := Callee.value (Operand.func 25), args := #[Operand.tmp 33, Operand.tmp 36], argTypes := #[23, 23] }, type := 23, pos := "extended.go:53", after := #[{ on := 3, ground := Ground.data }, { on := 6, ground := Ground.data }], guard := none }
def oEB30 : Oper := { dst := some 38, op := Op.nilCheck (Operand.tmp 30), type := 0, pos := "extended.go:53", after := #[{ on := 0, ground := Ground.data }, { on := 0, ground := Ground.phase }, { on := 1, ground := Ground.phase }, { on := 2, ground := Ground.phase }, { on := 3, ground := Ground.phase }, { on := 4, ground := Ground.phase }, { on := 5, ground := Ground.phase }, { on := 6, ground := Ground.phase }, { on := 7, ground := Ground.phase }], guard := none }
def oEB31 : Oper := { dst := some 39, op := Op.fieldAddr 76 (Operand.tmp 38) 2, type := 0, pos := "extended.go:53", after := #[{ on := 8, ground := Ground.data }, { on := 0, ground := Ground.phase }, { on := 1, ground := Ground.phase }, { on := 2, ground := Ground.phase }, { on := 3, ground := Ground.phase }, { on := 4, ground := Ground.phase }, { on := 5, ground := Ground.phase }, { on := 6, ground := Ground.phase }, { on := 7, ground := Ground.phase }], guard := none }
def oEB32 : Oper := { dst := none, op := Op.store 23 (Operand.tmp 39) (Operand.tmp 37), type := 0, pos := "extended.go:53", after := #[{ on := 9, ground := Ground.data }, { on := 7, ground := Ground.data }, { on := 7, ground := Ground.chain }, { on := 0, ground := Ground.phase }, { on := 1, ground := Ground.phase }, { on := 2, ground := Ground.phase }, { on := 3, ground := Ground.phase }, { on := 4, ground := Ground.phase }, { on := 5, ground := Ground.phase }, { on := 6, ground := Ground.phase }, { on := 7, ground := Ground.phase }], guard := none }
def oEB33 : Oper := { dst := some 40, op := Op.move (Operand.tmp 0), type := 80, pos := "extended.go:54", after := #[], guard := none }
def oEB34 : Oper := { dst := some 41, op := Op.move (Operand.tmp 1), type := 62, pos := "extended.go:54", after := #[], guard := none }
def oEB35 : Oper := { dst := some 42, op := Op.nilCheck (Operand.tmp 41), type := 0, pos := "extended.go:54", after := #[{ on := 1, ground := Ground.data }], guard := none }
def oEB36 : Oper := { dst := some 43, op := Op.load 23 (Operand.tmp 42), type := 23, pos := "extended.go:54", after := #[{ on := 2, ground := Ground.data }], guard := none }
def oEB37 : Oper := { dst := some 44, op := Op.move (Operand.tmp 3), type := 62, pos := "extended.go:54", after := #[], guard := none }
def oEB38 : Oper := { dst := some 45, op := Op.nilCheck (Operand.tmp 44), type := 0, pos := "extended.go:54", after := #[{ on := 4, ground := Ground.data }], guard := none }
def oEB39 : Oper := { dst := some 46, op := Op.load 23 (Operand.tmp 45), type := 23, pos := "extended.go:54", after := #[{ on := 5, ground := Ground.data }], guard := none }
def oEB40 : Oper := { dst := some 47, op := Op.call { callee := Callee.value (Operand.func 25), args := #[Operand.tmp 43, Operand.tmp 46], argTypes := #[23, 23] }, type := 23, pos := "extended.go:54", after := #[{ on := 3, ground := Ground.data }, { on := 6, ground := Ground.data }], guard := none }
def oEB41 : Oper := { dst := some 48, op := Op.nilCheck (Operand.tmp 40), type := 0, pos := "extended.go:54", after := #[{ on := 0, ground := Ground.data }, { on := 0, ground := Ground.phase }, { on := 1, ground := Ground.phase }, { on := 2, ground := Ground.phase }, { on := 3, ground := Ground.phase }, { on := 4, ground := Ground.phase }, { on := 5, ground := Ground.phase }, { on := 6, ground := Ground.phase }, { on := 7, ground := Ground.phase }], guard := none }
def oEB42 : Oper := { dst := some 49, op := Op.fieldAddr 76 (Operand.tmp 48) 3, type := 0, pos := "extended.go:54", after := #[{ on := 8, ground := Ground.data }, { on := 0, ground := Ground.phase }, { on := 1, ground := Ground.phase }, { on := 2, ground := Ground.phase }, { on := 3, ground := Ground.phase }, { on := 4, ground := Ground.phase }, { on := 5, ground := Ground.phase }, { on := 6, ground := Ground.phase }, { on := 7, ground := Ground.phase }], guard := none }
def oEB43 : Oper := { dst := none, op := Op.store 23 (Operand.tmp 49) (Operand.tmp 47), type := 0, pos := "extended.go:54", after := #[{ on := 9, ground := Ground.data }, { on := 7, ground := Ground.data }, { on := 7, ground := Ground.chain }, { on := 0, ground := Ground.phase }, { on := 1, ground := Ground.phase }, { on := 2, ground := Ground.phase }, { on := 3, ground := Ground.phase }, { on := 4, ground := Ground.phase }, { on := 5, ground := Ground.phase }, { on := 6, ground := Ground.phase }, { on := 7, ground := Ground.phase }], guard := none }
def oEB44 : Oper := { dst := some 4, op := Op.move (Operand.tmp 0), type := 80, pos := "extended.go:16", after := #[], guard := none }
def oEB45 : Oper := { dst := some 5, op := Op.move (Operand.tmp 0), type := 80, pos := "extended.go:16", after := #[{ on := 14, ground := Ground.gcOnly Departure.lateStores }], guard := none }
def oEB46 : Oper := { dst := some 6, op := Op.move (Operand.tmp 0), type := 80, pos := "extended.go:16", after := #[{ on := 17, ground := Ground.gcOnly Departure.lateStores }], guard := none }
def oEB47 : Oper := { dst := some 7, op := Op.move (Operand.tmp 1), type := 78, pos := "extended.go:16", after := #[], guard := none }
def oEB48 : Oper := { dst := some 8, op := Op.nilCheck (Operand.tmp 7), type := 0, pos := "extended.go:16", after := #[{ on := 3, ground := Ground.data }], guard := none }
def oEB49 : Oper := { dst := some 9, op := Op.fieldAddr 35 (Operand.tmp 8) 0, type := 0, pos := "extended.go:16", after := #[{ on := 4, ground := Ground.data }], guard := none }
def oEB50 : Oper := { dst := some 10, op := Op.load 23 (Operand.tmp 9), type := 23, pos := "extended.go:16", after := #[{ on := 5, ground := Ground.data }], guard := none }
def oEB51 : Oper := { dst := some 11, op := Op.move (Operand.tmp 1), type := 78, pos := "extended.go:16", after := #[], guard := none }
def oEB52 : Oper := { dst := some 12, op := Op.nilCheck (Operand.tmp 11), type := 0, pos := "extended.go:16", after := #[{ on := 7, ground := Ground.data }], guard := none }
def oEB53 : Oper := { dst := some 13, op := Op.fieldAddr 35 (Operand.tmp 12) 1, type := 0, pos := "extended.go:16", after := #[{ on := 8, ground := Ground.data }], guard := none }
def oEB54 : Oper := { dst := some 14, op := Op.load 23 (Operand.tmp 13), type := 23, pos := "extended.go:16", after := #[{ on := 9, ground := Ground.data }], guard := none }
def oEB55 : Oper := { dst := some 15, op := Op.call { callee := Callee.value (Operand.func 17), args := #[Operand.const (Value.int IntKind.u64 1)], argTypes := #[24] }, type := 23, pos := "extended.go:16", after := #[], guard := none }
def oEB56 : Oper := { dst := some 16, op := Op.nilCheck (Operand.tmp 4), type := 0, pos := "extended.go:16", after := #[{ on := 0, ground := Ground.data }, { on := 0, ground := Ground.phase }, { on := 1, ground := Ground.textOnly Departure.lateStores }, { on := 2, ground := Ground.textOnly Departure.lateStores }, { on := 3, ground := Ground.phase }, { on := 4, ground := Ground.phase }, { on := 5, ground := Ground.phase }, { on := 6, ground := Ground.phase }, { on := 7, ground := Ground.textOnly Departure.lateStores }, { on := 8, ground := Ground.textOnly Departure.lateStoresUnsure }, { on := 9, ground := Ground.textOnly Departure.lateStoresUnsure }, { on := 10, ground := Ground.phase }, { on := 11, ground := Ground.phase }], guard := none }
def oEB57 : Oper := { dst := some 17, op := Op.fieldAddr 76 (Operand.tmp 16) 0, type := 0, pos := "extended.go:16", after := #[{ on := 12, ground := Ground.data }, { on := 0, ground := Ground.phase }, { on := 1, ground := Ground.textOnly Departure.lateStores }, { on := 2, ground := Ground.textOnly Departure.lateStores }, { on := 3, ground := Ground.phase }, { on := 4, ground := Ground.phase }, { on := 5, ground := Ground.phase }, { on := 6, ground := Ground.phase }, { on := 7, ground := Ground.textOnly Departure.lateStores }, { on := 8, ground := Ground.textOnly Departure.lateStoresUnsure }, { on := 9, ground := Ground.textOnly Departure.lateStoresUnsure }, { on := 10, ground := Ground.phase }, { on := 11, ground := Ground.phase }], guard := none }
def oEB58 : Oper := { dst := none, op := Op.store 23 (Operand.tmp 17) (Operand.tmp 10), type := 0, pos := "extended.go:16", after := #[{ on := 13, ground := Ground.data }, { on := 6, ground := Ground.data }, { on := 11, ground := Ground.chain }, { on := 0, ground := Ground.phase }, { on := 1, ground := Ground.textOnly Departure.lateStores }, { on := 2, ground := Ground.textOnly Departure.lateStores }, { on := 3, ground := Ground.phase }, { on := 4, ground := Ground.phase }, { on := 5, ground := Ground.phase }, { on := 6, ground := Ground.phase }, { on := 7, ground := Ground.textOnly Departure.lateStores }, { on := 8, ground := Ground.textOnly Departure.lateStoresUnsure }, { on := 9, ground := Ground.textOnly Departure.lateStoresUnsure }, { on := 10, ground := Ground.phase }, { on := 11, ground := Ground.phase }], guard := none }
def oEB59 : Oper := { dst := some 18, op := Op.nilCheck (Operand.tmp 5), type := 0, pos := "extended.go:16", after := #[{ on := 1, ground := Ground.data }, { on := 0, ground := Ground.phase }, { on := 1, ground := Ground.phase }, { on := 2, ground := Ground.textOnly Departure.lateStores }, { on := 3, ground := Ground.phase }, { on := 4, ground := Ground.phase }, { on := 5, ground := Ground.phase }, { on := 6, ground := Ground.phase }, { on := 7, ground := Ground.phase }, { on := 8, ground := Ground.phase }, { on := 9, ground := Ground.phase }, { on := 10, ground := Ground.phase }, { on := 11, ground := Ground.phase }, { on := 12, ground := Ground.phase }, { on := 13, ground := Ground.phase }, { on := 14, ground := Ground.phase }], guard := none }
def oEB60 : Oper := { dst := some 19, op := Op.fieldAddr 76 (Operand.tmp 18) 1, type := 0, pos := "extended.go:16", after := #[{ on := 15, ground := Ground.data }, { on := 0, ground := Ground.phase }, { on := 1, ground := Ground.phase }, { on := 2, ground := Ground.textOnly Departure.lateStores }, { on := 3, ground := Ground.phase }, { on := 4, ground := Ground.phase }, { on := 5, ground := Ground.phase }, { on := 6, ground := Ground.phase }, { on := 7, ground := Ground.phase }, { on := 8, ground := Ground.phase }, { on := 9, ground := Ground.phase }, { on := 10, ground := Ground.phase }, { on := 11, ground := Ground.phase }, { on := 12, ground := Ground.phase }, { on := 13, ground := Ground.phase }, { on := 14, ground := Ground.phase }], guard := none }
def oEB61 : Oper := { dst := none, op := Op.store 23 (Operand.tmp 19) (Operand.tmp 14), type := 0, pos := "extended.go:16", after := #[{ on := 16, ground := Ground.data }, { on := 10, ground := Ground.data }, { on := 14, ground := Ground.chain }, { on := 0, ground := Ground.phase }, { on := 1, ground := Ground.phase }, { on := 2, ground := Ground.textOnly Departure.lateStores }, { on := 3, ground := Ground.phase }, { on := 4, ground := Ground.phase }, { on := 5, ground := Ground.phase }, { on := 6, ground := Ground.phase }, { on := 7, ground := Ground.phase }, { on := 8, ground := Ground.phase }, { on := 9, ground := Ground.phase }, { on := 10, ground := Ground.phase }, { on := 11, ground := Ground.phase }, { on := 12, ground := Ground.phase }, { on := 13, ground := Ground.phase }, { on := 14, ground := Ground.phase }], guard := none }
def oEB62 : Oper := { dst := some 20, op := Op.nilCheck (Operand.tmp 6), type := 0, pos := "extended.go:16", after := #[{ on := 2, ground := Ground.data }, { on := 0, ground := Ground.phase }, { on := 1, ground := Ground.phase }, { on := 2, ground := Ground.phase }, { on := 3, ground := Ground.phase }, { on := 4, ground := Ground.phase }, { on := 5, ground := Ground.phase }, { on := 6, ground := Ground.phase }, { on := 7, ground := Ground.phase }, { on := 8, ground := Ground.phase }, { on := 9, ground := Ground.phase }, { on := 10, ground := Ground.phase }, { on := 11, ground := Ground.phase }, { on := 12, ground := Ground.phase }, { on := 13, ground := Ground.phase }, { on := 14, ground := Ground.phase }, { on := 15, ground := Ground.phase }, { on := 16, ground := Ground.phase }, { on := 17, ground := Ground.phase }], guard := none }
def oEB63 : Oper := { dst := some 21, op := Op.fieldAddr 76 (Operand.tmp 20) 2, type := 0, pos := "extended.go:16", after := #[{ on := 18, ground := Ground.data }, { on := 0, ground := Ground.phase }, { on := 1, ground := Ground.phase }, { on := 2, ground := Ground.phase }, { on := 3, ground := Ground.phase }, { on := 4, ground := Ground.phase }, { on := 5, ground := Ground.phase }, { on := 6, ground := Ground.phase }, { on := 7, ground := Ground.phase }, { on := 8, ground := Ground.phase }, { on := 9, ground := Ground.phase }, { on := 10, ground := Ground.phase }, { on := 11, ground := Ground.phase }, { on := 12, ground := Ground.phase }, { on := 13, ground := Ground.phase }, { on := 14, ground := Ground.phase }, { on := 15, ground := Ground.phase }, { on := 16, ground := Ground.phase }, { on := 17, ground := Ground.phase }], guard := none }
def oEB64 : Oper := { dst := none, op := Op.store 23 (Operand.tmp 21) (Operand.tmp 15), type := 0, pos := "extended.go:16", after := #[{ on := 19, ground := Ground.data }, { on := 11, ground := Ground.data }, { on := 17, ground := Ground.chain }, { on := 0, ground := Ground.phase }, { on := 1, ground := Ground.phase }, { on := 2, ground := Ground.phase }, { on := 3, ground := Ground.phase }, { on := 4, ground := Ground.phase }, { on := 5, ground := Ground.phase }, { on := 6, ground := Ground.phase }, { on := 7, ground := Ground.phase }, { on := 8, ground := Ground.phase }, { on := 9, ground := Ground.phase }, { on := 10, ground := Ground.phase }, { on := 11, ground := Ground.phase }, { on := 12, ground := Ground.phase }, { on := 13, ground := Ground.phase }, { on := 14, ground := Ground.phase }, { on := 15, ground := Ground.phase }, { on := 16, ground := Ground.phase }, { on := 17, ground := Ground.phase }], guard := none }
def oEB65 : Oper := { dst := some 22, op := Op.move (Operand.tmp 0), type := 80, pos := "extended.go:17", after := #[], guard := none }
def oEB66 : Oper := { dst := some 23, op := Op.move (Operand.tmp 1), type := 78, pos := "extended.go:17", after := #[], guard := none }
def oEB67 : Oper := { dst := some 24, op := Op.nilCheck (Operand.tmp 23), type := 0, pos := "extended.go:17", after := #[{ on := 1, ground := Ground.data }], guard := none }
def oEB68 : Oper := { dst := some 25, op := Op.fieldAddr 35 (Operand.tmp 24) 0, type := 0, pos := "extended.go:17", after := #[{ on := 2, ground := Ground.data }], guard := none }
def oEB69 : Oper := { dst := some 26, op := Op.load 23 (Operand.tmp 25), type := 23, pos := "extended.go:17", after := #[{ on := 3, ground := Ground.data }], guard := none }
def oEB70 : Oper := { dst := some 27, op := Op.move (Operand.tmp 1), type := 78, pos := "extended.go:17", after := #[], guard := none }
def oEB71 : Oper := { dst := some 28, op := Op.nilCheck (Operand.tmp 27), type := 0, pos := "extended.go:17", after := #[{ on := 5, ground := Ground.data }], guard := none }
def oEB72 : Oper := { dst := some 29, op := Op.fieldAddr 35 (Operand.tmp 28) 1, type := 0, pos := "extended.go:17", after := #[{ on := 6, ground := Ground.data }], guard := none }
def oEB73 : Oper := { dst := some 30, op := Op.load 23 (Operand.tmp 29), type := 23, pos := "extended.go:17", after := #[{ on := 7, ground := Ground.data }], guard := none }
def oEB74 : Oper := { dst := some 31, op := Op.call { callee := Callee.value (Operand.func 25), args := #[Operand.tmp 26, Operand.tmp 30], argTypes := #[23, 23] }, type := 23, pos := "extended.go:17", after := #[{ on := 4, ground := Ground.data }, { on := 8, ground := Ground.data }], guard := none }
def oEB75 : Oper := { dst := some 32, op := Op.nilCheck (Operand.tmp 22), type := 0, pos := "extended.go:17", after := #[{ on := 0, ground := Ground.data }, { on := 0, ground := Ground.phase }, { on := 1, ground := Ground.phase }, { on := 2, ground := Ground.phase }, { on := 3, ground := Ground.phase }, { on := 4, ground := Ground.phase }, { on := 5, ground := Ground.phase }, { on := 6, ground := Ground.phase }, { on := 7, ground := Ground.phase }, { on := 8, ground := Ground.phase }, { on := 9, ground := Ground.phase }], guard := none }
def oEB76 : Oper := { dst := some 33, op := Op.fieldAddr 76 (Operand.tmp 32) 3, type := 0, pos := "extended.go:17", after := #[{ on := 10, ground := Ground.data }, { on := 0, ground := Ground.phase }, { on := 1, ground := Ground.phase }, { on := 2, ground := Ground.phase }, { on := 3, ground := Ground.phase }, { on := 4, ground := Ground.phase }, { on := 5, ground := Ground.phase }, { on := 6, ground := Ground.phase }, { on := 7, ground := Ground.phase }, { on := 8, ground := Ground.phase }, { on := 9, ground := Ground.phase }], guard := none }
def oEB77 : Oper := { dst := none, op := Op.store 23 (Operand.tmp 33) (Operand.tmp 31), type := 0, pos := "extended.go:17", after := #[{ on := 11, ground := Ground.data }, { on := 9, ground := Ground.data }, { on := 9, ground := Ground.chain }, { on := 0, ground := Ground.phase }, { on := 1, ground := Ground.phase }, { on := 2, ground := Ground.phase }, { on := 3, ground := Ground.phase }, { on := 4, ground := Ground.phase }, { on := 5, ground := Ground.phase }, { on := 6, ground := Ground.phase }, { on := 7, ground := Ground.phase }, { on := 8, ground := Ground.phase }, { on := 9, ground := Ground.phase }], guard := none }

set_option maxHeartbeats 4000000 in
theorem divide_core (g g1 g2 g3 g4 r0 r1 r2 r3 x ox y oy X Y Z T : Nat) (w : World)
    (H1 : Hid (∀ w, Calls Try.prog 25 #[vN x, vN oy] w (Gives (vN X) w))) (H2 : Hid (∀ w, Calls Try.prog 25 #[vN y, vN ox] w (Gives (vN Y) w)))
    (H3 : Hid (∀ w, Calls Try.prog 25 #[vN ox, vN oy] w (Gives (vN Z) w))) (H4 : Hid (∀ w, Calls Try.prog 25 #[vN x, vN y] w (Gives (vN T) w)))
    (RG_0 : Hid (RAt w g [r0, r1, r2, r3])) (RX_0 : Hid (RAt w g1 [x])) (RO_0 : Hid (RAt w g2 [ox])) (RY_0 : Hid (RAt w g3 [y])) (RP_0 : Hid (RAt w g4 [oy]))
    (HN1 : Hid (g ≠ g1)) (HN2 : Hid (g ≠ g2)) (HN3 : Hid (g ≠ g3)) (HN4 : Hid (g ≠ g4)) :
    Calls Try.prog 100 #[.pointer (some ⟨g, 0, none⟩), .pointer (some ⟨g1, 0, none⟩), .pointer (some ⟨g2, 0, none⟩), .pointer (some ⟨g3, 0, none⟩), .pointer (some ⟨g4, 0, none⟩)] w (SetsR g [X, Y, Z, T] w) := by
  have HF_0 : Hid (Keeps (· = g) w w) := Lib.hid (Keeps.refl _ _)
  go_enter Try.func100, Try.ntmps100
  go_wp2_with fail
  have HLT1_0 := lR RG_0
  have HLT1_1 := lR RX_0
  have HLT1_2 := lR RO_0
  have HLT1_3 := lR RY_0
  have HLT1_4 := lR RP_0
  have HLO1 : Hid (w.heap.size ≤ w.heap.size) := Lib.hid HF_0.out.size
  refine region_split (fun a' W => RAt W g [X, r1, r2, r3] ∧ RAt W g1 [x] ∧ RAt W g2 [ox] ∧ RAt W g3 [y] ∧ RAt W g4 [oy] ∧ Keeps (· = g) w W ∧ a' = ⟨#[.pointer (some ⟨g, 0, none⟩), .pointer (some ⟨g1, 0, none⟩), .pointer (some ⟨g2, 0, none⟩), .pointer (some ⟨g3, 0, none⟩), .pointer (some ⟨g4, 0, none⟩), undef, undef, undef, undef, undef, .pointer (some ⟨g, 0, none⟩), .pointer (some ⟨g1, 0, none⟩), .pointer (some ⟨g1, 0, none⟩), vN x, .pointer (some ⟨g4, 0, none⟩), .pointer (some ⟨g4, 0, none⟩), vN oy, vN X, .pointer (some ⟨g, 0, none⟩), .pointer (some ⟨g, 0, none⟩), undef, undef, undef, undef, undef, undef, undef, undef, undef, undef, undef, undef, undef, undef, undef, undef, undef, undef, undef, undef, undef, undef, undef, undef, undef, undef, undef, undef, undef, undef], []⟩) ?_ ?_
  · refine startW (fun j => j == 10) (w.heap.size) (by kernel_rfl) ?_
    obtain ⟨D1, hD1⟩ : ∃ D, D = w.drew := ⟨_, rfl⟩
    rw [← hD1]
    have HL_1 := dLq hD1
    have RG_1 := dRq hD1 RG_0
    have RX_1 := dRq hD1 RX_0
    have RO_1 := dRq hD1 RO_0
    have RY_1 := dRq hD1 RY_0
    have RP_1 := dRq hD1 RP_0
    have HF_1 := dFq hD1 HF_0
    clear hD1 RG_0 RX_0 RO_0 RY_0 RP_0 HF_0
    refine tA (i := 0) (oi := oEB0) ?_
    refine ⟨.pointer (some ⟨g, 0, none⟩), fun w' => exec_move (.tmp 0) rfl _ rfl, ?_⟩
    simp only [oEB0, Act.put, zA, zB, zC]
    refine tA (i := 1) (oi := oEB1) ?_
    refine ⟨.pointer (some ⟨g1, 0, none⟩), fun w' => exec_move (.tmp 1) rfl _ rfl, ?_⟩
    simp only [oEB1, Act.put, zA, zB, zC]
    refine tA (i := 2) (oi := oEB2) ?_
    refine ⟨.pointer (some ⟨g1, 0, none⟩), fun w' => exec_nil (.tmp 11) rfl _ rfl, ?_⟩
    simp only [oEB2, Act.put, zA, zB, zC]
    refine takeT (i := 3) (oi := oEB3) (vN x) rfl (by kernel_rfl) (by kernel_rfl) (by kernel_rfl) (by kernel_rfl) (by kernel_rfl) (fun _ _ _ h => nomatch h.1) (by rfl) (fun w' hk => exec_loadF (.tmp 12) rfl (g1) 0 0 rfl [x] x rfl (RX_1.out.below hk HLT1_1.out) rfl) ?_
    simp only [oEB3, Act.put, zA, zB, zC]
    refine tA (i := 4) (oi := oEB4) ?_
    refine ⟨.pointer (some ⟨g4, 0, none⟩), fun w' => exec_move (.tmp 4) rfl _ rfl, ?_⟩
    simp only [oEB4, Act.put, zA, zB, zC]
    refine tA (i := 5) (oi := oEB5) ?_
    refine ⟨.pointer (some ⟨g4, 0, none⟩), fun w' => exec_nil (.tmp 14) rfl _ rfl, ?_⟩
    simp only [oEB5, Act.put, zA, zB, zC]
    refine takeT (i := 6) (oi := oEB6) (vN oy) rfl (by kernel_rfl) (by kernel_rfl) (by kernel_rfl) (by kernel_rfl) (by kernel_rfl) (fun _ _ _ h => nomatch h.1) (by rfl) (fun w' hk => exec_loadF (.tmp 15) rfl (g4) 0 0 rfl [oy] oy rfl (RP_1.out.below hk HLT1_4.out) rfl) ?_
    simp only [oEB6, Act.put, zA, zB, zC]
    refine callW (i := 7) (oi := oEB7) rfl (by kernel_rfl) (by rfl) (exec_callL 25 [.tmp 13, .tmp 16] #[23, 23] rfl [vN x, vN oy] rfl (CG25 _)) ((H1.out D1).mono ?_)
    rintro e2 W2 ⟨rfl, hb2⟩
    refine ⟨_, rfl, fun _ => hb2.mono HL_1.out, ?_⟩
    have RG_2 := hKq RG_1 hb2
    have RX_2 := hKq RX_1 hb2
    have RO_2 := hKq RO_1 hb2
    have RY_2 := hKq RY_1 hb2
    have RP_2 := hKq RP_1 hb2
    have HF_2 := fCq HF_1 hb2
    have HL_2 := lT HL_1 hb2
    clear hb2 HL_1 RG_1 RX_1 RO_1 RY_1 RP_1 HF_1
    simp only [oEB7, Act.put, zA, zB, zC]
    refine tA (i := 8) (oi := oEB8) ?_
    refine ⟨.pointer (some ⟨g, 0, none⟩), fun w' => exec_nil (.tmp 10) rfl _ rfl, ?_⟩
    simp only [oEB8, Act.put, zA, zB, zC]
    refine tA (i := 9) (oi := oEB9) ?_
    refine ⟨.pointer (some ⟨g, 0, none⟩), fun w' => exec_field 76 (.tmp 18) 0 rfl _ 0 rfl (fld76_0 _), ?_⟩
    simp only [oEB9, Act.put, zA, zB, zC]
    refine storeW_F (i := 10) (oi := oEB10) rfl (by kernel_rfl) (by rfl) (.tmp 19) (.tmp 17) rfl (g) 0 0 rfl [r0, r1, r2, r3] X rfl rfl RG_2.out (show 0 < 4 by omega) rfl ?_
    intro W3 hr3 hg3 hz3
    simp only [oEB10, Act.put, zA, zB, zC]
    have RG_3 : Hid (RAt W3 g [X, r1, r2, r3]) := Lib.hid hr3
    have RX_3 := hGq RX_2 hg3 HN1
    have RO_3 := hGq RO_2 hg3 HN2
    have RY_3 := hGq RY_2 hg3 HN3
    have RP_3 := hGq RP_2 hg3 HN4
    have HF_3 : Hid (Keeps (· = g) w W3) := Lib.hid (HF_2.out.ownrow hg3)
    have HL_3 := lG HL_2 hg3
    clear hr3 hg3 hz3 HL_2 RG_2 RX_2 RO_2 RY_2 RP_2 HF_2
    refine doneW (by kernel_rfl) ⟨rfl, ?_⟩ _
    exact ⟨RG_3.out, RX_3.out, RO_3.out, RY_3.out, RP_3.out, HF_3.out, rfl⟩
  rintro a' v4 ⟨h0, h1, h2, h3, h4, hF, rfl⟩
  have RG_4 := Lib.hid h0
  have RX_4 := Lib.hid h1
  have RO_4 := Lib.hid h2
  have RY_4 := Lib.hid h3
  have RP_4 := Lib.hid h4
  have HF_4 := Lib.hid hF
  clear h0 h1 h2 h3 h4 hF HLT1_0 HLT1_1 HLT1_2 HLT1_3 HLT1_4 HLO1 RG_0 RX_0 RO_0 RY_0 RP_0 HF_0
  go_wp2_with fail
  have HLT5_0 := lR RG_4
  have HLT5_1 := lR RX_4
  have HLT5_2 := lR RO_4
  have HLT5_3 := lR RY_4
  have HLT5_4 := lR RP_4
  have HLO5 : Hid (w.heap.size ≤ v4.heap.size) := Lib.hid HF_4.out.size
  refine region_split (fun a' W => RAt W g [X, Y, r2, r3] ∧ RAt W g1 [x] ∧ RAt W g2 [ox] ∧ RAt W g3 [y] ∧ RAt W g4 [oy] ∧ Keeps (· = g) w W ∧ a' = ⟨#[.pointer (some ⟨g, 0, none⟩), .pointer (some ⟨g1, 0, none⟩), .pointer (some ⟨g2, 0, none⟩), .pointer (some ⟨g3, 0, none⟩), .pointer (some ⟨g4, 0, none⟩), undef, undef, undef, undef, undef, .pointer (some ⟨g, 0, none⟩), .pointer (some ⟨g1, 0, none⟩), .pointer (some ⟨g1, 0, none⟩), vN x, .pointer (some ⟨g4, 0, none⟩), .pointer (some ⟨g4, 0, none⟩), vN oy, vN X, .pointer (some ⟨g, 0, none⟩), .pointer (some ⟨g, 0, none⟩), .pointer (some ⟨g, 0, none⟩), .pointer (some ⟨g3, 0, none⟩), .pointer (some ⟨g3, 0, none⟩), vN y, .pointer (some ⟨g2, 0, none⟩), .pointer (some ⟨g2, 0, none⟩), vN ox, vN Y, .pointer (some ⟨g, 0, none⟩), .pointer (some ⟨g, 32, none⟩), undef, undef, undef, undef, undef, undef, undef, undef, undef, undef, undef, undef, undef, undef, undef, undef, undef, undef, undef, undef], []⟩) ?_ ?_
  · refine startW (fun j => j == 10) (v4.heap.size) (by kernel_rfl) ?_
    obtain ⟨D5, hD5⟩ : ∃ D, D = v4.drew := ⟨_, rfl⟩
    rw [← hD5]
    have HL_5 := dLq hD5
    have RG_5 := dRq hD5 RG_4
    have RX_5 := dRq hD5 RX_4
    have RO_5 := dRq hD5 RO_4
    have RY_5 := dRq hD5 RY_4
    have RP_5 := dRq hD5 RP_4
    have HF_5 := dFq hD5 HF_4
    clear hD5 RG_4 RX_4 RO_4 RY_4 RP_4 HF_4
    refine tA (i := 0) (oi := oEB11) ?_
    refine ⟨.pointer (some ⟨g, 0, none⟩), fun w' => exec_move (.tmp 0) rfl _ rfl, ?_⟩
    simp only [oEB11, Act.put, zA, zB, zC]
    refine tA (i := 1) (oi := oEB12) ?_
    refine ⟨.pointer (some ⟨g3, 0, none⟩), fun w' => exec_move (.tmp 3) rfl _ rfl, ?_⟩
    simp only [oEB12, Act.put, zA, zB, zC]
    refine tA (i := 2) (oi := oEB13) ?_
    refine ⟨.pointer (some ⟨g3, 0, none⟩), fun w' => exec_nil (.tmp 21) rfl _ rfl, ?_⟩
    simp only [oEB13, Act.put, zA, zB, zC]
    refine takeT (i := 3) (oi := oEB14) (vN y) rfl (by kernel_rfl) (by kernel_rfl) (by kernel_rfl) (by kernel_rfl) (by kernel_rfl) (fun _ _ _ h => nomatch h.1) (by rfl) (fun w' hk => exec_loadF (.tmp 22) rfl (g3) 0 0 rfl [y] y rfl (RY_5.out.below hk HLT5_3.out) rfl) ?_
    simp only [oEB14, Act.put, zA, zB, zC]
    refine tA (i := 4) (oi := oEB15) ?_
    refine ⟨.pointer (some ⟨g2, 0, none⟩), fun w' => exec_move (.tmp 2) rfl _ rfl, ?_⟩
    simp only [oEB15, Act.put, zA, zB, zC]
    refine tA (i := 5) (oi := oEB16) ?_
    refine ⟨.pointer (some ⟨g2, 0, none⟩), fun w' => exec_nil (.tmp 24) rfl _ rfl, ?_⟩
    simp only [oEB16, Act.put, zA, zB, zC]
    refine takeT (i := 6) (oi := oEB17) (vN ox) rfl (by kernel_rfl) (by kernel_rfl) (by kernel_rfl) (by kernel_rfl) (by kernel_rfl) (fun _ _ _ h => nomatch h.1) (by rfl) (fun w' hk => exec_loadF (.tmp 25) rfl (g2) 0 0 rfl [ox] ox rfl (RO_5.out.below hk HLT5_2.out) rfl) ?_
    simp only [oEB17, Act.put, zA, zB, zC]
    refine callW (i := 7) (oi := oEB18) rfl (by kernel_rfl) (by rfl) (exec_callL 25 [.tmp 23, .tmp 26] #[23, 23] rfl [vN y, vN ox] rfl (CG25 _)) ((H2.out D5).mono ?_)
    rintro e6 W6 ⟨rfl, hb6⟩
    refine ⟨_, rfl, fun _ => hb6.mono HL_5.out, ?_⟩
    have RG_6 := hKq RG_5 hb6
    have RX_6 := hKq RX_5 hb6
    have RO_6 := hKq RO_5 hb6
    have RY_6 := hKq RY_5 hb6
    have RP_6 := hKq RP_5 hb6
    have HF_6 := fCq HF_5 hb6
    have HL_6 := lT HL_5 hb6
    clear hb6 HL_5 RG_5 RX_5 RO_5 RY_5 RP_5 HF_5
    simp only [oEB18, Act.put, zA, zB, zC]
    refine tA (i := 8) (oi := oEB19) ?_
    refine ⟨.pointer (some ⟨g, 0, none⟩), fun w' => exec_nil (.tmp 20) rfl _ rfl, ?_⟩
    simp only [oEB19, Act.put, zA, zB, zC]
    refine tA (i := 9) (oi := oEB20) ?_
    refine ⟨.pointer (some ⟨g, 32, none⟩), fun w' => exec_field 76 (.tmp 28) 1 rfl _ 32 rfl (fld76_1 _), ?_⟩
    simp only [oEB20, Act.put, zA, zB, zC]
    refine storeW_F (i := 10) (oi := oEB21) rfl (by kernel_rfl) (by rfl) (.tmp 29) (.tmp 27) rfl (g) 1 32 rfl [X, r1, r2, r3] Y rfl rfl RG_6.out (show 1 < 4 by omega) rfl ?_
    intro W7 hr7 hg7 hz7
    simp only [oEB21, Act.put, zA, zB, zC]
    have RG_7 : Hid (RAt W7 g [X, Y, r2, r3]) := Lib.hid hr7
    have RX_7 := hGq RX_6 hg7 HN1
    have RO_7 := hGq RO_6 hg7 HN2
    have RY_7 := hGq RY_6 hg7 HN3
    have RP_7 := hGq RP_6 hg7 HN4
    have HF_7 : Hid (Keeps (· = g) w W7) := Lib.hid (HF_6.out.ownrow hg7)
    have HL_7 := lG HL_6 hg7
    clear hr7 hg7 hz7 HL_6 RG_6 RX_6 RO_6 RY_6 RP_6 HF_6
    refine doneW (by kernel_rfl) ⟨rfl, ?_⟩ _
    exact ⟨RG_7.out, RX_7.out, RO_7.out, RY_7.out, RP_7.out, HF_7.out, rfl⟩
  rintro a' v8 ⟨h0, h1, h2, h3, h4, hF, rfl⟩
  have RG_8 := Lib.hid h0
  have RX_8 := Lib.hid h1
  have RO_8 := Lib.hid h2
  have RY_8 := Lib.hid h3
  have RP_8 := Lib.hid h4
  have HF_8 := Lib.hid hF
  clear h0 h1 h2 h3 h4 hF HLT5_0 HLT5_1 HLT5_2 HLT5_3 HLT5_4 HLO5 RG_4 RX_4 RO_4 RY_4 RP_4 HF_4
  go_wp2_with fail
  have HLT9_0 := lR RG_8
  have HLT9_1 := lR RX_8
  have HLT9_2 := lR RO_8
  have HLT9_3 := lR RY_8
  have HLT9_4 := lR RP_8
  have HLO9 : Hid (w.heap.size ≤ v8.heap.size) := Lib.hid HF_8.out.size
  refine region_split (fun a' W => RAt W g [X, Y, Z, r3] ∧ RAt W g1 [x] ∧ RAt W g2 [ox] ∧ RAt W g3 [y] ∧ RAt W g4 [oy] ∧ Keeps (· = g) w W ∧ a' = ⟨#[.pointer (some ⟨g, 0, none⟩), .pointer (some ⟨g1, 0, none⟩), .pointer (some ⟨g2, 0, none⟩), .pointer (some ⟨g3, 0, none⟩), .pointer (some ⟨g4, 0, none⟩), undef, undef, undef, undef, undef, .pointer (some ⟨g, 0, none⟩), .pointer (some ⟨g1, 0, none⟩), .pointer (some ⟨g1, 0, none⟩), vN x, .pointer (some ⟨g4, 0, none⟩), .pointer (some ⟨g4, 0, none⟩), vN oy, vN X, .pointer (some ⟨g, 0, none⟩), .pointer (some ⟨g, 0, none⟩), .pointer (some ⟨g, 0, none⟩), .pointer (some ⟨g3, 0, none⟩), .pointer (some ⟨g3, 0, none⟩), vN y, .pointer (some ⟨g2, 0, none⟩), .pointer (some ⟨g2, 0, none⟩), vN ox, vN Y, .pointer (some ⟨g, 0, none⟩), .pointer (some ⟨g, 32, none⟩), .pointer (some ⟨g, 0, none⟩), .pointer (some ⟨g2, 0, none⟩), .pointer (some ⟨g2, 0, none⟩), vN ox, .pointer (some ⟨g4, 0, none⟩), .pointer (some ⟨g4, 0, none⟩), vN oy, vN Z, .pointer (some ⟨g, 0, none⟩), .pointer (some ⟨g, 64, none⟩), undef, undef, undef, undef, undef, undef, undef, undef, undef, undef], []⟩) ?_ ?_
  · refine startW (fun j => j == 10) (v8.heap.size) (by kernel_rfl) ?_
    obtain ⟨D9, hD9⟩ : ∃ D, D = v8.drew := ⟨_, rfl⟩
    rw [← hD9]
    have HL_9 := dLq hD9
    have RG_9 := dRq hD9 RG_8
    have RX_9 := dRq hD9 RX_8
    have RO_9 := dRq hD9 RO_8
    have RY_9 := dRq hD9 RY_8
    have RP_9 := dRq hD9 RP_8
    have HF_9 := dFq hD9 HF_8
    clear hD9 RG_8 RX_8 RO_8 RY_8 RP_8 HF_8
    refine tA (i := 0) (oi := oEB22) ?_
    refine ⟨.pointer (some ⟨g, 0, none⟩), fun w' => exec_move (.tmp 0) rfl _ rfl, ?_⟩
    simp only [oEB22, Act.put, zA, zB, zC]
    refine tA (i := 1) (oi := oEB23) ?_
    refine ⟨.pointer (some ⟨g2, 0, none⟩), fun w' => exec_move (.tmp 2) rfl _ rfl, ?_⟩
    simp only [oEB23, Act.put, zA, zB, zC]
    refine tA (i := 2) (oi := oEB24) ?_
    refine ⟨.pointer (some ⟨g2, 0, none⟩), fun w' => exec_nil (.tmp 31) rfl _ rfl, ?_⟩
    simp only [oEB24, Act.put, zA, zB, zC]
    refine takeT (i := 3) (oi := oEB25) (vN ox) rfl (by kernel_rfl) (by kernel_rfl) (by kernel_rfl) (by kernel_rfl) (by kernel_rfl) (fun _ _ _ h => nomatch h.1) (by rfl) (fun w' hk => exec_loadF (.tmp 32) rfl (g2) 0 0 rfl [ox] ox rfl (RO_9.out.below hk HLT9_2.out) rfl) ?_
    simp only [oEB25, Act.put, zA, zB, zC]
    refine tA (i := 4) (oi := oEB26) ?_
    refine ⟨.pointer (some ⟨g4, 0, none⟩), fun w' => exec_move (.tmp 4) rfl _ rfl, ?_⟩
    simp only [oEB26, Act.put, zA, zB, zC]
    refine tA (i := 5) (oi := oEB27) ?_
    refine ⟨.pointer (some ⟨g4, 0, none⟩), fun w' => exec_nil (.tmp 34) rfl _ rfl, ?_⟩
    simp only [oEB27, Act.put, zA, zB, zC]
    refine takeT (i := 6) (oi := oEB28) (vN oy) rfl (by kernel_rfl) (by kernel_rfl) (by kernel_rfl) (by kernel_rfl) (by kernel_rfl) (fun _ _ _ h => nomatch h.1) (by rfl) (fun w' hk => exec_loadF (.tmp 35) rfl (g4) 0 0 rfl [oy] oy rfl (RP_9.out.below hk HLT9_4.out) rfl) ?_
    simp only [oEB28, Act.put, zA, zB, zC]
    refine callW (i := 7) (oi := oEB29) rfl (by kernel_rfl) (by rfl) (exec_callL 25 [.tmp 33, .tmp 36] #[23, 23] rfl [vN ox, vN oy] rfl (CG25 _)) ((H3.out D9).mono ?_)
    rintro e10 W10 ⟨rfl, hb10⟩
    refine ⟨_, rfl, fun _ => hb10.mono HL_9.out, ?_⟩
    have RG_10 := hKq RG_9 hb10
    have RX_10 := hKq RX_9 hb10
    have RO_10 := hKq RO_9 hb10
    have RY_10 := hKq RY_9 hb10
    have RP_10 := hKq RP_9 hb10
    have HF_10 := fCq HF_9 hb10
    have HL_10 := lT HL_9 hb10
    clear hb10 HL_9 RG_9 RX_9 RO_9 RY_9 RP_9 HF_9
    simp only [oEB29, Act.put, zA, zB, zC]
    refine tA (i := 8) (oi := oEB30) ?_
    refine ⟨.pointer (some ⟨g, 0, none⟩), fun w' => exec_nil (.tmp 30) rfl _ rfl, ?_⟩
    simp only [oEB30, Act.put, zA, zB, zC]
    refine tA (i := 9) (oi := oEB31) ?_
    refine ⟨.pointer (some ⟨g, 64, none⟩), fun w' => exec_field 76 (.tmp 38) 2 rfl _ 64 rfl (fld76_2 _), ?_⟩
    simp only [oEB31, Act.put, zA, zB, zC]
    refine storeW_F (i := 10) (oi := oEB32) rfl (by kernel_rfl) (by rfl) (.tmp 39) (.tmp 37) rfl (g) 2 64 rfl [X, Y, r2, r3] Z rfl rfl RG_10.out (show 2 < 4 by omega) rfl ?_
    intro W11 hr11 hg11 hz11
    simp only [oEB32, Act.put, zA, zB, zC]
    have RG_11 : Hid (RAt W11 g [X, Y, Z, r3]) := Lib.hid hr11
    have RX_11 := hGq RX_10 hg11 HN1
    have RO_11 := hGq RO_10 hg11 HN2
    have RY_11 := hGq RY_10 hg11 HN3
    have RP_11 := hGq RP_10 hg11 HN4
    have HF_11 : Hid (Keeps (· = g) w W11) := Lib.hid (HF_10.out.ownrow hg11)
    have HL_11 := lG HL_10 hg11
    clear hr11 hg11 hz11 HL_10 RG_10 RX_10 RO_10 RY_10 RP_10 HF_10
    refine doneW (by kernel_rfl) ⟨rfl, ?_⟩ _
    exact ⟨RG_11.out, RX_11.out, RO_11.out, RY_11.out, RP_11.out, HF_11.out, rfl⟩
  rintro a' v12 ⟨h0, h1, h2, h3, h4, hF, rfl⟩
  have RG_12 := Lib.hid h0
  have RX_12 := Lib.hid h1
  have RO_12 := Lib.hid h2
  have RY_12 := Lib.hid h3
  have RP_12 := Lib.hid h4
  have HF_12 := Lib.hid hF
  clear h0 h1 h2 h3 h4 hF HLT9_0 HLT9_1 HLT9_2 HLT9_3 HLT9_4 HLO9 RG_8 RX_8 RO_8 RY_8 RP_8 HF_8
  go_wp2_with fail
  have HLT13_0 := lR RG_12
  have HLT13_1 := lR RX_12
  have HLT13_2 := lR RO_12
  have HLT13_3 := lR RY_12
  have HLT13_4 := lR RP_12
  have HLO13 : Hid (w.heap.size ≤ v12.heap.size) := Lib.hid HF_12.out.size
  refine region_split (fun a' W => RAt W g [X, Y, Z, T] ∧ RAt W g1 [x] ∧ RAt W g2 [ox] ∧ RAt W g3 [y] ∧ RAt W g4 [oy] ∧ Keeps (· = g) w W ∧ a' = ⟨#[.pointer (some ⟨g, 0, none⟩), .pointer (some ⟨g1, 0, none⟩), .pointer (some ⟨g2, 0, none⟩), .pointer (some ⟨g3, 0, none⟩), .pointer (some ⟨g4, 0, none⟩), undef, undef, undef, undef, undef, .pointer (some ⟨g, 0, none⟩), .pointer (some ⟨g1, 0, none⟩), .pointer (some ⟨g1, 0, none⟩), vN x, .pointer (some ⟨g4, 0, none⟩), .pointer (some ⟨g4, 0, none⟩), vN oy, vN X, .pointer (some ⟨g, 0, none⟩), .pointer (some ⟨g, 0, none⟩), .pointer (some ⟨g, 0, none⟩), .pointer (some ⟨g3, 0, none⟩), .pointer (some ⟨g3, 0, none⟩), vN y, .pointer (some ⟨g2, 0, none⟩), .pointer (some ⟨g2, 0, none⟩), vN ox, vN Y, .pointer (some ⟨g, 0, none⟩), .pointer (some ⟨g, 32, none⟩), .pointer (some ⟨g, 0, none⟩), .pointer (some ⟨g2, 0, none⟩), .pointer (some ⟨g2, 0, none⟩), vN ox, .pointer (some ⟨g4, 0, none⟩), .pointer (some ⟨g4, 0, none⟩), vN oy, vN Z, .pointer (some ⟨g, 0, none⟩), .pointer (some ⟨g, 64, none⟩), .pointer (some ⟨g, 0, none⟩), .pointer (some ⟨g1, 0, none⟩), .pointer (some ⟨g1, 0, none⟩), vN x, .pointer (some ⟨g3, 0, none⟩), .pointer (some ⟨g3, 0, none⟩), vN y, vN T, .pointer (some ⟨g, 0, none⟩), .pointer (some ⟨g, 96, none⟩)], []⟩) ?_ ?_
  · refine startW (fun j => j == 10) (v12.heap.size) (by kernel_rfl) ?_
    obtain ⟨D13, hD13⟩ : ∃ D, D = v12.drew := ⟨_, rfl⟩
    rw [← hD13]
    have HL_13 := dLq hD13
    have RG_13 := dRq hD13 RG_12
    have RX_13 := dRq hD13 RX_12
    have RO_13 := dRq hD13 RO_12
    have RY_13 := dRq hD13 RY_12
    have RP_13 := dRq hD13 RP_12
    have HF_13 := dFq hD13 HF_12
    clear hD13 RG_12 RX_12 RO_12 RY_12 RP_12 HF_12
    refine tA (i := 0) (oi := oEB33) ?_
    refine ⟨.pointer (some ⟨g, 0, none⟩), fun w' => exec_move (.tmp 0) rfl _ rfl, ?_⟩
    simp only [oEB33, Act.put, zA, zB, zC]
    refine tA (i := 1) (oi := oEB34) ?_
    refine ⟨.pointer (some ⟨g1, 0, none⟩), fun w' => exec_move (.tmp 1) rfl _ rfl, ?_⟩
    simp only [oEB34, Act.put, zA, zB, zC]
    refine tA (i := 2) (oi := oEB35) ?_
    refine ⟨.pointer (some ⟨g1, 0, none⟩), fun w' => exec_nil (.tmp 41) rfl _ rfl, ?_⟩
    simp only [oEB35, Act.put, zA, zB, zC]
    refine takeT (i := 3) (oi := oEB36) (vN x) rfl (by kernel_rfl) (by kernel_rfl) (by kernel_rfl) (by kernel_rfl) (by kernel_rfl) (fun _ _ _ h => nomatch h.1) (by rfl) (fun w' hk => exec_loadF (.tmp 42) rfl (g1) 0 0 rfl [x] x rfl (RX_13.out.below hk HLT13_1.out) rfl) ?_
    simp only [oEB36, Act.put, zA, zB, zC]
    refine tA (i := 4) (oi := oEB37) ?_
    refine ⟨.pointer (some ⟨g3, 0, none⟩), fun w' => exec_move (.tmp 3) rfl _ rfl, ?_⟩
    simp only [oEB37, Act.put, zA, zB, zC]
    refine tA (i := 5) (oi := oEB38) ?_
    refine ⟨.pointer (some ⟨g3, 0, none⟩), fun w' => exec_nil (.tmp 44) rfl _ rfl, ?_⟩
    simp only [oEB38, Act.put, zA, zB, zC]
    refine takeT (i := 6) (oi := oEB39) (vN y) rfl (by kernel_rfl) (by kernel_rfl) (by kernel_rfl) (by kernel_rfl) (by kernel_rfl) (fun _ _ _ h => nomatch h.1) (by rfl) (fun w' hk => exec_loadF (.tmp 45) rfl (g3) 0 0 rfl [y] y rfl (RY_13.out.below hk HLT13_3.out) rfl) ?_
    simp only [oEB39, Act.put, zA, zB, zC]
    refine callW (i := 7) (oi := oEB40) rfl (by kernel_rfl) (by rfl) (exec_callL 25 [.tmp 43, .tmp 46] #[23, 23] rfl [vN x, vN y] rfl (CG25 _)) ((H4.out D13).mono ?_)
    rintro e14 W14 ⟨rfl, hb14⟩
    refine ⟨_, rfl, fun _ => hb14.mono HL_13.out, ?_⟩
    have RG_14 := hKq RG_13 hb14
    have RX_14 := hKq RX_13 hb14
    have RO_14 := hKq RO_13 hb14
    have RY_14 := hKq RY_13 hb14
    have RP_14 := hKq RP_13 hb14
    have HF_14 := fCq HF_13 hb14
    have HL_14 := lT HL_13 hb14
    clear hb14 HL_13 RG_13 RX_13 RO_13 RY_13 RP_13 HF_13
    simp only [oEB40, Act.put, zA, zB, zC]
    refine tA (i := 8) (oi := oEB41) ?_
    refine ⟨.pointer (some ⟨g, 0, none⟩), fun w' => exec_nil (.tmp 40) rfl _ rfl, ?_⟩
    simp only [oEB41, Act.put, zA, zB, zC]
    refine tA (i := 9) (oi := oEB42) ?_
    refine ⟨.pointer (some ⟨g, 96, none⟩), fun w' => exec_field 76 (.tmp 48) 3 rfl _ 96 rfl (fld76_3 _), ?_⟩
    simp only [oEB42, Act.put, zA, zB, zC]
    refine storeW_F (i := 10) (oi := oEB43) rfl (by kernel_rfl) (by rfl) (.tmp 49) (.tmp 47) rfl (g) 3 96 rfl [X, Y, Z, r3] T rfl rfl RG_14.out (show 3 < 4 by omega) rfl ?_
    intro W15 hr15 hg15 hz15
    simp only [oEB43, Act.put, zA, zB, zC]
    have RG_15 : Hid (RAt W15 g [X, Y, Z, T]) := Lib.hid hr15
    have RX_15 := hGq RX_14 hg15 HN1
    have RO_15 := hGq RO_14 hg15 HN2
    have RY_15 := hGq RY_14 hg15 HN3
    have RP_15 := hGq RP_14 hg15 HN4
    have HF_15 : Hid (Keeps (· = g) w W15) := Lib.hid (HF_14.out.ownrow hg15)
    have HL_15 := lG HL_14 hg15
    clear hr15 hg15 hz15 HL_14 RG_14 RX_14 RO_14 RY_14 RP_14 HF_14
    refine doneW (by kernel_rfl) ⟨rfl, ?_⟩ _
    exact ⟨RG_15.out, RX_15.out, RO_15.out, RY_15.out, RP_15.out, HF_15.out, rfl⟩
  rintro a' v16 ⟨h0, h1, h2, h3, h4, hF, rfl⟩
  have RG_16 := Lib.hid h0
  have RX_16 := Lib.hid h1
  have RO_16 := Lib.hid h2
  have RY_16 := Lib.hid h3
  have RP_16 := Lib.hid h4
  have HF_16 := Lib.hid hF
  clear h0 h1 h2 h3 h4 hF HLT13_0 HLT13_1 HLT13_2 HLT13_3 HLT13_4 HLO13 RG_12 RX_12 RO_12 RY_12 RP_12 HF_12
  go_wp2_with fail
  refine bodyPost_end (results_none rfl _ _ _) rfl ?_
  exact ⟨rfl, RG_16.out, HF_16.out⟩

set_option maxHeartbeats 4000000 in
theorem eread_core (g g1 r0 r1 r2 r3 x y t : Nat) (w : World)
    (H1 : Hid (∀ w, Calls Try.prog 17 #[.int .u64 1] w (Gives (vN 1) w))) (H2 : Hid (∀ w, Calls Try.prog 25 #[vN x, vN y] w (Gives (vN t) w)))
    (RG_0 : Hid (RAt w g [r0, r1, r2, r3])) (RX_0 : Hid (RAt w g1 [x, y])) (HN1 : Hid (g ≠ g1)) :
    Calls Try.prog 80 #[.pointer (some ⟨g, 0, none⟩), .pointer (some ⟨g1, 0, none⟩)] w (SetsR g [x, y, 1, t] w) := by
  have HF_0 : Hid (Keeps (· = g) w w) := Lib.hid (Keeps.refl _ _)
  go_enter Try.func80, Try.ntmps80
  go_wp2_with fail
  have HLT17_0 := lR RG_0
  have HLT17_1 := lR RX_0
  have HLO17 : Hid (w.heap.size ≤ w.heap.size) := Lib.hid HF_0.out.size
  refine region_split (fun a' W => RAt W g [x, y, 1, r3] ∧ RAt W g1 [x, y] ∧ Keeps (· = g) w W ∧ a' = ⟨#[.pointer (some ⟨g, 0, none⟩), .pointer (some ⟨g1, 0, none⟩), undef, undef, .pointer (some ⟨g, 0, none⟩), .pointer (some ⟨g, 0, none⟩), .pointer (some ⟨g, 0, none⟩), .pointer (some ⟨g1, 0, none⟩), .pointer (some ⟨g1, 0, none⟩), .pointer (some ⟨g1, 0, none⟩), vN x, .pointer (some ⟨g1, 0, none⟩), .pointer (some ⟨g1, 0, none⟩), .pointer (some ⟨g1, 32, none⟩), vN y, vN 1, .pointer (some ⟨g, 0, none⟩), .pointer (some ⟨g, 0, none⟩), .pointer (some ⟨g, 0, none⟩), .pointer (some ⟨g, 32, none⟩), .pointer (some ⟨g, 0, none⟩), .pointer (some ⟨g, 64, none⟩), undef, undef, undef, undef, undef, undef, undef, undef, undef, undef, undef, undef], []⟩) ?_ ?_
  · refine startW (fun j => j == 14 || j == 17 || j == 20) (w.heap.size) (by kernel_rfl) ?_
    obtain ⟨D17, hD17⟩ : ∃ D, D = w.drew := ⟨_, rfl⟩
    rw [← hD17]
    have HL_17 := dLq hD17
    have RG_17 := dRq hD17 RG_0
    have RX_17 := dRq hD17 RX_0
    have HF_17 := dFq hD17 HF_0
    clear hD17 RG_0 RX_0 HF_0
    refine tA (i := 0) (oi := oEB44) ?_
    refine ⟨.pointer (some ⟨g, 0, none⟩), fun w' => exec_move (.tmp 0) rfl _ rfl, ?_⟩
    simp only [oEB44, Act.put, zA, zB, zC]
    refine tA (i := 1) (oi := oEB45) ?_
    refine ⟨.pointer (some ⟨g, 0, none⟩), fun w' => exec_move (.tmp 0) rfl _ rfl, ?_⟩
    simp only [oEB45, Act.put, zA, zB, zC]
    refine tA (i := 2) (oi := oEB46) ?_
    refine ⟨.pointer (some ⟨g, 0, none⟩), fun w' => exec_move (.tmp 0) rfl _ rfl, ?_⟩
    simp only [oEB46, Act.put, zA, zB, zC]
    refine tA (i := 3) (oi := oEB47) ?_
    refine ⟨.pointer (some ⟨g1, 0, none⟩), fun w' => exec_move (.tmp 1) rfl _ rfl, ?_⟩
    simp only [oEB47, Act.put, zA, zB, zC]
    refine tA (i := 4) (oi := oEB48) ?_
    refine ⟨.pointer (some ⟨g1, 0, none⟩), fun w' => exec_nil (.tmp 7) rfl _ rfl, ?_⟩
    simp only [oEB48, Act.put, zA, zB, zC]
    refine tA (i := 5) (oi := oEB49) ?_
    refine ⟨.pointer (some ⟨g1, 0, none⟩), fun w' => exec_field 35 (.tmp 8) 0 rfl _ 0 rfl (fld35_0 _), ?_⟩
    simp only [oEB49, Act.put, zA, zB, zC]
    refine takeT (i := 6) (oi := oEB50) (vN x) rfl (by kernel_rfl) (by kernel_rfl) (by kernel_rfl) (by kernel_rfl) (by kernel_rfl) (fun _ _ _ h => nomatch h.1) (by rfl) (fun w' hk => exec_loadF (.tmp 9) rfl (g1) 0 0 rfl [x, y] x rfl (RX_17.out.below hk HLT17_1.out) rfl) ?_
    simp only [oEB50, Act.put, zA, zB, zC]
    refine tA (i := 7) (oi := oEB51) ?_
    refine ⟨.pointer (some ⟨g1, 0, none⟩), fun w' => exec_move (.tmp 1) rfl _ rfl, ?_⟩
    simp only [oEB51, Act.put, zA, zB, zC]
    refine tA (i := 8) (oi := oEB52) ?_
    refine ⟨.pointer (some ⟨g1, 0, none⟩), fun w' => exec_nil (.tmp 11) rfl _ rfl, ?_⟩
    simp only [oEB52, Act.put, zA, zB, zC]
    refine tA (i := 9) (oi := oEB53) ?_
    refine ⟨.pointer (some ⟨g1, 32, none⟩), fun w' => exec_field 35 (.tmp 12) 1 rfl _ 32 rfl (fld35_1 _), ?_⟩
    simp only [oEB53, Act.put, zA, zB, zC]
    refine takeT (i := 10) (oi := oEB54) (vN y) rfl (by kernel_rfl) (by kernel_rfl) (by kernel_rfl) (by kernel_rfl) (by kernel_rfl) (fun _ _ _ h => nomatch h.1) (by rfl) (fun w' hk => exec_loadF (.tmp 13) rfl (g1) 1 32 rfl [x, y] y rfl (RX_17.out.below hk HLT17_1.out) rfl) ?_
    simp only [oEB54, Act.put, zA, zB, zC]
    refine callW (i := 11) (oi := oEB55) rfl (by kernel_rfl) (by rfl) (exec_callL 17 [.const (.int .u64 1)] #[24] rfl [.int .u64 1] rfl (CG17 _)) ((H1.out D17).mono ?_)
    rintro e18 W18 ⟨rfl, hb18⟩
    refine ⟨_, rfl, fun _ => hb18.mono HL_17.out, ?_⟩
    have RG_18 := hKq RG_17 hb18
    have RX_18 := hKq RX_17 hb18
    have HF_18 := fCq HF_17 hb18
    have HL_18 := lT HL_17 hb18
    clear hb18 HL_17 RG_17 RX_17 HF_17
    simp only [oEB55, Act.put, zA, zB, zC]
    refine tA (i := 12) (oi := oEB56) ?_
    refine ⟨.pointer (some ⟨g, 0, none⟩), fun w' => exec_nil (.tmp 4) rfl _ rfl, ?_⟩
    simp only [oEB56, Act.put, zA, zB, zC]
    refine tA (i := 13) (oi := oEB57) ?_
    refine ⟨.pointer (some ⟨g, 0, none⟩), fun w' => exec_field 76 (.tmp 16) 0 rfl _ 0 rfl (fld76_0 _), ?_⟩
    simp only [oEB57, Act.put, zA, zB, zC]
    refine storeW_F (i := 14) (oi := oEB58) rfl (by kernel_rfl) (by rfl) (.tmp 17) (.tmp 10) rfl (g) 0 0 rfl [r0, r1, r2, r3] x rfl rfl RG_18.out (show 0 < 4 by omega) rfl ?_
    intro W19 hr19 hg19 hz19
    simp only [oEB58, Act.put, zA, zB, zC]
    have RG_19 : Hid (RAt W19 g [x, r1, r2, r3]) := Lib.hid hr19
    have RX_19 := hGq RX_18 hg19 HN1
    have HF_19 : Hid (Keeps (· = g) w W19) := Lib.hid (HF_18.out.ownrow hg19)
    have HL_19 := lG HL_18 hg19
    clear hr19 hg19 hz19 HL_18 RG_18 RX_18 HF_18
    refine tA (i := 15) (oi := oEB59) ?_
    refine ⟨.pointer (some ⟨g, 0, none⟩), fun w' => exec_nil (.tmp 5) rfl _ rfl, ?_⟩
    simp only [oEB59, Act.put, zA, zB, zC]
    refine tA (i := 16) (oi := oEB60) ?_
    refine ⟨.pointer (some ⟨g, 32, none⟩), fun w' => exec_field 76 (.tmp 18) 1 rfl _ 32 rfl (fld76_1 _), ?_⟩
    simp only [oEB60, Act.put, zA, zB, zC]
    refine storeW_F (i := 17) (oi := oEB61) rfl (by kernel_rfl) (by rfl) (.tmp 19) (.tmp 14) rfl (g) 1 32 rfl [x, r1, r2, r3] y rfl rfl RG_19.out (show 1 < 4 by omega) rfl ?_
    intro W20 hr20 hg20 hz20
    simp only [oEB61, Act.put, zA, zB, zC]
    have RG_20 : Hid (RAt W20 g [x, y, r2, r3]) := Lib.hid hr20
    have RX_20 := hGq RX_19 hg20 HN1
    have HF_20 : Hid (Keeps (· = g) w W20) := Lib.hid (HF_19.out.ownrow hg20)
    have HL_20 := lG HL_19 hg20
    clear hr20 hg20 hz20 HL_19 RG_19 RX_19 HF_19
    refine tA (i := 18) (oi := oEB62) ?_
    refine ⟨.pointer (some ⟨g, 0, none⟩), fun w' => exec_nil (.tmp 6) rfl _ rfl, ?_⟩
    simp only [oEB62, Act.put, zA, zB, zC]
    refine tA (i := 19) (oi := oEB63) ?_
    refine ⟨.pointer (some ⟨g, 64, none⟩), fun w' => exec_field 76 (.tmp 20) 2 rfl _ 64 rfl (fld76_2 _), ?_⟩
    simp only [oEB63, Act.put, zA, zB, zC]
    refine storeW_F (i := 20) (oi := oEB64) rfl (by kernel_rfl) (by rfl) (.tmp 21) (.tmp 15) rfl (g) 2 64 rfl [x, y, r2, r3] 1 rfl rfl RG_20.out (show 2 < 4 by omega) rfl ?_
    intro W21 hr21 hg21 hz21
    simp only [oEB64, Act.put, zA, zB, zC]
    have RG_21 : Hid (RAt W21 g [x, y, 1, r3]) := Lib.hid hr21
    have RX_21 := hGq RX_20 hg21 HN1
    have HF_21 : Hid (Keeps (· = g) w W21) := Lib.hid (HF_20.out.ownrow hg21)
    have HL_21 := lG HL_20 hg21
    clear hr21 hg21 hz21 HL_20 RG_20 RX_20 HF_20
    refine doneW (by kernel_rfl) ⟨rfl, ?_⟩ _
    exact ⟨RG_21.out, RX_21.out, HF_21.out, rfl⟩
  rintro a' v22 ⟨h0, h1, hF, rfl⟩
  have RG_22 := Lib.hid h0
  have RX_22 := Lib.hid h1
  have HF_22 := Lib.hid hF
  clear h0 h1 hF HLT17_0 HLT17_1 HLO17 RG_0 RX_0 HF_0
  go_wp2_with fail
  have HLT23_0 := lR RG_22
  have HLT23_1 := lR RX_22
  have HLO23 : Hid (w.heap.size ≤ v22.heap.size) := Lib.hid HF_22.out.size
  refine region_split (fun a' W => RAt W g [x, y, 1, t] ∧ RAt W g1 [x, y] ∧ Keeps (· = g) w W ∧ a' = ⟨#[.pointer (some ⟨g, 0, none⟩), .pointer (some ⟨g1, 0, none⟩), undef, undef, .pointer (some ⟨g, 0, none⟩), .pointer (some ⟨g, 0, none⟩), .pointer (some ⟨g, 0, none⟩), .pointer (some ⟨g1, 0, none⟩), .pointer (some ⟨g1, 0, none⟩), .pointer (some ⟨g1, 0, none⟩), vN x, .pointer (some ⟨g1, 0, none⟩), .pointer (some ⟨g1, 0, none⟩), .pointer (some ⟨g1, 32, none⟩), vN y, vN 1, .pointer (some ⟨g, 0, none⟩), .pointer (some ⟨g, 0, none⟩), .pointer (some ⟨g, 0, none⟩), .pointer (some ⟨g, 32, none⟩), .pointer (some ⟨g, 0, none⟩), .pointer (some ⟨g, 64, none⟩), .pointer (some ⟨g, 0, none⟩), .pointer (some ⟨g1, 0, none⟩), .pointer (some ⟨g1, 0, none⟩), .pointer (some ⟨g1, 0, none⟩), vN x, .pointer (some ⟨g1, 0, none⟩), .pointer (some ⟨g1, 0, none⟩), .pointer (some ⟨g1, 32, none⟩), vN y, vN t, .pointer (some ⟨g, 0, none⟩), .pointer (some ⟨g, 96, none⟩)], []⟩) ?_ ?_
  · refine startW (fun j => j == 12) (v22.heap.size) (by kernel_rfl) ?_
    obtain ⟨D23, hD23⟩ : ∃ D, D = v22.drew := ⟨_, rfl⟩
    rw [← hD23]
    have HL_23 := dLq hD23
    have RG_23 := dRq hD23 RG_22
    have RX_23 := dRq hD23 RX_22
    have HF_23 := dFq hD23 HF_22
    clear hD23 RG_22 RX_22 HF_22
    refine tA (i := 0) (oi := oEB65) ?_
    refine ⟨.pointer (some ⟨g, 0, none⟩), fun w' => exec_move (.tmp 0) rfl _ rfl, ?_⟩
    simp only [oEB65, Act.put, zA, zB, zC]
    refine tA (i := 1) (oi := oEB66) ?_
    refine ⟨.pointer (some ⟨g1, 0, none⟩), fun w' => exec_move (.tmp 1) rfl _ rfl, ?_⟩
    simp only [oEB66, Act.put, zA, zB, zC]
    refine tA (i := 2) (oi := oEB67) ?_
    refine ⟨.pointer (some ⟨g1, 0, none⟩), fun w' => exec_nil (.tmp 23) rfl _ rfl, ?_⟩
    simp only [oEB67, Act.put, zA, zB, zC]
    refine tA (i := 3) (oi := oEB68) ?_
    refine ⟨.pointer (some ⟨g1, 0, none⟩), fun w' => exec_field 35 (.tmp 24) 0 rfl _ 0 rfl (fld35_0 _), ?_⟩
    simp only [oEB68, Act.put, zA, zB, zC]
    refine takeT (i := 4) (oi := oEB69) (vN x) rfl (by kernel_rfl) (by kernel_rfl) (by kernel_rfl) (by kernel_rfl) (by kernel_rfl) (fun _ _ _ h => nomatch h.1) (by rfl) (fun w' hk => exec_loadF (.tmp 25) rfl (g1) 0 0 rfl [x, y] x rfl (RX_23.out.below hk HLT23_1.out) rfl) ?_
    simp only [oEB69, Act.put, zA, zB, zC]
    refine tA (i := 5) (oi := oEB70) ?_
    refine ⟨.pointer (some ⟨g1, 0, none⟩), fun w' => exec_move (.tmp 1) rfl _ rfl, ?_⟩
    simp only [oEB70, Act.put, zA, zB, zC]
    refine tA (i := 6) (oi := oEB71) ?_
    refine ⟨.pointer (some ⟨g1, 0, none⟩), fun w' => exec_nil (.tmp 27) rfl _ rfl, ?_⟩
    simp only [oEB71, Act.put, zA, zB, zC]
    refine tA (i := 7) (oi := oEB72) ?_
    refine ⟨.pointer (some ⟨g1, 32, none⟩), fun w' => exec_field 35 (.tmp 28) 1 rfl _ 32 rfl (fld35_1 _), ?_⟩
    simp only [oEB72, Act.put, zA, zB, zC]
    refine takeT (i := 8) (oi := oEB73) (vN y) rfl (by kernel_rfl) (by kernel_rfl) (by kernel_rfl) (by kernel_rfl) (by kernel_rfl) (fun _ _ _ h => nomatch h.1) (by rfl) (fun w' hk => exec_loadF (.tmp 29) rfl (g1) 1 32 rfl [x, y] y rfl (RX_23.out.below hk HLT23_1.out) rfl) ?_
    simp only [oEB73, Act.put, zA, zB, zC]
    refine callW (i := 9) (oi := oEB74) rfl (by kernel_rfl) (by rfl) (exec_callL 25 [.tmp 26, .tmp 30] #[23, 23] rfl [vN x, vN y] rfl (CG25 _)) ((H2.out D23).mono ?_)
    rintro e24 W24 ⟨rfl, hb24⟩
    refine ⟨_, rfl, fun _ => hb24.mono HL_23.out, ?_⟩
    have RG_24 := hKq RG_23 hb24
    have RX_24 := hKq RX_23 hb24
    have HF_24 := fCq HF_23 hb24
    have HL_24 := lT HL_23 hb24
    clear hb24 HL_23 RG_23 RX_23 HF_23
    simp only [oEB74, Act.put, zA, zB, zC]
    refine tA (i := 10) (oi := oEB75) ?_
    refine ⟨.pointer (some ⟨g, 0, none⟩), fun w' => exec_nil (.tmp 22) rfl _ rfl, ?_⟩
    simp only [oEB75, Act.put, zA, zB, zC]
    refine tA (i := 11) (oi := oEB76) ?_
    refine ⟨.pointer (some ⟨g, 96, none⟩), fun w' => exec_field 76 (.tmp 32) 3 rfl _ 96 rfl (fld76_3 _), ?_⟩
    simp only [oEB76, Act.put, zA, zB, zC]
    refine storeW_F (i := 12) (oi := oEB77) rfl (by kernel_rfl) (by rfl) (.tmp 33) (.tmp 31) rfl (g) 3 96 rfl [x, y, 1, r3] t rfl rfl RG_24.out (show 3 < 4 by omega) rfl ?_
    intro W25 hr25 hg25 hz25
    simp only [oEB77, Act.put, zA, zB, zC]
    have RG_25 : Hid (RAt W25 g [x, y, 1, t]) := Lib.hid hr25
    have RX_25 := hGq RX_24 hg25 HN1
    have HF_25 : Hid (Keeps (· = g) w W25) := Lib.hid (HF_24.out.ownrow hg25)
    have HL_25 := lG HL_24 hg25
    clear hr25 hg25 hz25 HL_24 RG_24 RX_24 HF_24
    refine doneW (by kernel_rfl) ⟨rfl, ?_⟩ _
    exact ⟨RG_25.out, RX_25.out, HF_25.out, rfl⟩
  rintro a' v26 ⟨h0, h1, hF, rfl⟩
  have RG_26 := Lib.hid h0
  have RX_26 := Lib.hid h1
  have HF_26 := Lib.hid hF
  clear h0 h1 hF HLT23_0 HLT23_1 HLO23 RG_22 RX_22 HF_22
  go_wp2_with fail
  refine bodyPost_end (results_none rfl _ _ _) rfl ?_
  exact ⟨rfl, RG_26.out, HF_26.out⟩
end Go.Proofs.Ytgdimnbdnepbgaa
/- Points: out of extended coordinates. No statement is proved here. -/
namespace Go.Proofs.Ytgdimnbdnepbgaa
open Go.RowKit
set_option linter.unusedVariables false
set_option maxRecDepth 40000
set_option linter.unusedSimpArgs false
def oEE0 : Oper := { dst := some 9, op := Op.move (Operand.tmp 0), type := 80, pos := "extended.go:23", after := #[], guard := none }
def oEE1 : Oper := { dst := some 10, op := Op.nilCheck (Operand.tmp 9), type := 0, pos := "extended.go:23", after := #[{ on := 0, ground := Ground.data }], guard := none }
def oEE2 : Oper := { dst := some 11, op := Op.fieldAddr 76 (Operand.tmp 10) 0, type := 0, pos := "extended.go:23", after := #[{ on := 1, ground := Ground.data }], guard := none }
def oEE3 : Oper := { dst := some 12, op := Op.load 23 (Operand.tmp 11), type := 23, pos := "extended.go:23", after := #[{ on := 2, ground := Ground.data }], guard := none }
def oEE4 : Oper := { dst := some 13, op := Op.load 23 (Operand.tmp 3), type := 23, pos := "extended.go:23", after := #[], guard := none }
def oEE5 : Oper := { dst := some 15, op := Op.move (Operand.tmp 0), type := 80, pos := "extended.go:23", after := #[], guard := none }
def oEE6 : Oper := { dst := some 16, op := Op.nilCheck (Operand.tmp 15), type := 0, pos := "extended.go:23", after := #[{ on := 6, ground := Ground.data }], guard := none }
def oEE7 : Oper := { dst := some 17, op := Op.fieldAddr 76 (Operand.tmp 16) 1, type := 0, pos := "extended.go:23", after := #[{ on := 7, ground := Ground.data }], guard := none }
def oEE8 : Oper := { dst := some 18, op := Op.load 23 (Operand.tmp 17), type := 23, pos := "extended.go:23", after := #[{ on := 8, ground := Ground.data }], guard := none }
def oEE9 : Oper := { dst := some 19, op := Op.load 23 (Operand.tmp 3), type := 23, pos := "extended.go:23", after := #[], guard := none }
def oEE10 : Oper := { dst := some 14, op := Op.call { callee := Callee.value (Operand.func 25), args := #[Operand.tmp 12, Operand.tmp 13], argTypes := #[23, 23] }, type := 23, pos := "extended.go:23", after := #[{ on := 3, ground := Ground.data }, { on := 4, ground := Ground.data }], guard := none }
def oEE11 : Oper := { dst := some 20, op := Op.call { callee := Callee.value (Operand.func 25), args := #[Operand.tmp 18, Operand.tmp 19], argTypes := #[23, 23] }, type := 23, pos := "extended.go:23", after := #[{ on := 9, ground := Ground.data }, { on := 10, ground := Ground.data }, { on := 5, ground := Ground.chain }], guard := none }
def oEE12 : Oper := { dst := some 21, op := Op.build 35 #[(0, Operand.tmp 14), (1, Operand.tmp 20)], type := 35, pos := "extended.go:23", after := #[{ on := 5, ground := Ground.data }, { on := 11, ground := Ground.data }], guard := none }
def oEE13 : Oper := { dst := none, op := Op.store 35 (Operand.tmp 2) (Operand.tmp 21), type := 0, pos := "extended.go:23", after := #[{ on := 12, ground := Ground.data }, { on := 11, ground := Ground.chain }, { on := 0, ground := Ground.phase }, { on := 1, ground := Ground.phase }, { on := 2, ground := Ground.phase }, { on := 3, ground := Ground.phase }, { on := 4, ground := Ground.phase }, { on := 5, ground := Ground.phase }, { on := 6, ground := Ground.phase }, { on := 7, ground := Ground.phase }, { on := 8, ground := Ground.phase }, { on := 9, ground := Ground.phase }, { on := 10, ground := Ground.phase }, { on := 11, ground := Ground.phase }, { on := 12, ground := Ground.phase }], guard := none }

set_option maxHeartbeats 8000000 in
theorem epoint_core (g x y z t i X Y : Nat) (w : World)
    (C0 : Hid (∀ w, Calls Try.prog 29 #[vN z] w (Gives (vN i) w)))
    (C1 : Hid (∀ w, Calls Try.prog 25 #[vN x, vN i] w (Gives (vN X) w)))
    (C2 : Hid (∀ w, Calls Try.prog 25 #[vN y, vN i] w (Gives (vN Y) w)))
    (RG_0 : Hid (RAt w g [x, y, z, t])) :
    Calls Try.prog 82 #[.pointer (some ⟨g, 0, none⟩)] w (Gives (vR [X, Y]) w) := by
  have HF_0 : Hid (Below w.heap.size w w) := Lib.hid (Below.refl _ _)
  go_enter Try.func82, Try.ntmps82
  go_wp2_with (first | ((with_reducible show wpList _ _ _ (⟨some 2, .alloc 35, _, _, _, _⟩ :: _) _ _); go_must (refine wpList_alloc_row rfl 35 rfl (.agg (zbs 64)) zero35 ?_; intro u1 ha1 hza1 hga1; have RG_1 := Lib.hid (RG_0.out.grown hga1 (by simp)); have Ngr_1 : Hid (RAt u1 w.heap.size [0, 0]) := Lib.hid (zrow (k := 2) ha1); have HF_1 : Hid (Below w.heap.size w u1) := Lib.hid (HF_0.out.grown hga1 HF_0.out.size (by simp)); have HNE1_0 : Hid (g ≠ w.heap.size) := Lib.hid (by have := RG_0.out.lt; omega); have HGE1 : Hid (w.heap.size ≤ w.heap.size) := Lib.hid HF_0.out.size; clear ha1 hza1 hga1 RG_0 HF_0)) | ((with_reducible show wpList _ _ _ (⟨_, .load 23 (.tmp 6), _, _, _, _⟩ :: _) _ _); go_must (refine wpList_exec rfl (vN z) (exec_loadF (.tmp 6) rfl (g) 2 64 rfl [x, y, z, t] z rfl RG_1.out rfl) ?_)) | fail)
  refine (C0.out _).mono ?_
  rintro e2 x2 ⟨rfl, hb2⟩
  have RG_2 := hKq RG_1 hb2
  have Ngr_2 := hKq Ngr_1 hb2
  have HF_2 := fTq HF_1 hb2
  clear hb2 RG_1 Ngr_1 HF_1
  go_wp2_with (first | ((with_reducible show wpList _ _ _ (⟨some 3, .alloc 23, _, _, _, _⟩ :: _) _ _); go_must (refine wpList_alloc_row rfl 23 rfl (.agg (zbs 32)) zero23 ?_; intro u3 ha3 hza3 hga3; have HA3 := Lib.hid ha3; have HZA3 := Lib.hid hza3; have HGA3 := Lib.hid hga3; clear ha3 hza3 hga3)) | ((with_reducible show wpList _ _ _ (⟨none, .store 23 (.tmp 3) (.tmp 8), _, _, _, _⟩ :: _) _ _); go_must (refine wpList_storeF rfl (.tmp 3) (.tmp 8) rfl (x2.heap.size) 0 0 rfl [0] i rfl rfl (zrow (k := 1) HA3.out) (show 0 < 1 by omega) ?_; intro y3 hr3 hg3 hz3; have RG_3 := Lib.hid ((RG_2.out.grown HGA3.out (by simp)).grown hg3 (by have := RG_2.out.lt; simp; omega)); have Ngr_3 := Lib.hid ((Ngr_2.out.grown HGA3.out (by simp)).grown hg3 (by have := Ngr_2.out.lt; simp; omega)); have Ng3_3 : Hid (RAt y3 x2.heap.size [i]) := Lib.hid hr3; have HF_3 : Hid (Below w.heap.size w y3) := Lib.hid ((HF_2.out.grown HGA3.out HF_2.out.size (by simp)).grown hg3 (by have := HF_2.out.size; have := HZA3.out; omega) (fun r hr => by injection hr with hr; have := HF_2.out.size; omega)); have HNE3_1 : Hid (g ≠ x2.heap.size) := Lib.hid (by have := RG_2.out.lt; omega); have HNE3_2 : Hid (w.heap.size ≠ x2.heap.size) := Lib.hid (by have := Ngr_2.out.lt; omega); have HGE3 : Hid (w.heap.size ≤ x2.heap.size) := Lib.hid HF_2.out.size; clear hr3 hg3 hz3 HA3 HZA3 HGA3 RG_2 Ngr_2 HF_2)) | fail)
  generalize x2.heap.size = g3 at *
  have HLT4_0 := lR RG_3
  have HLT4_1 := lR Ngr_3
  have HLT4_2 := lR Ng3_3
  have HLO4 : Hid (w.heap.size ≤ y3.heap.size) := Lib.hid HF_3.out.size
  refine region_split (fun a' W => RAt W g [x, y, z, t] ∧ RAt W w.heap.size [X, Y] ∧ RAt W g3 [i] ∧ Below w.heap.size w W ∧ a' = ⟨#[.pointer (some ⟨g, 0, none⟩), undef, .pointer (some ⟨w.heap.size, 0, none⟩), .pointer (some ⟨g3, 0, none⟩), .pointer (some ⟨g, 0, none⟩), .pointer (some ⟨g, 0, none⟩), .pointer (some ⟨g, 64, none⟩), vN z, vN i, .pointer (some ⟨g, 0, none⟩), .pointer (some ⟨g, 0, none⟩), .pointer (some ⟨g, 0, none⟩), vN x, vN i, vN X, .pointer (some ⟨g, 0, none⟩), .pointer (some ⟨g, 0, none⟩), .pointer (some ⟨g, 32, none⟩), vN y, vN i, vN Y, vR [X, Y]], []⟩) ?_ ?_
  · refine startW (fun j => j == 13) (y3.heap.size) (by kernel_rfl) ?_
    obtain ⟨D4, hD4⟩ : ∃ D, D = y3.drew := ⟨_, rfl⟩
    rw [← hD4]
    have HL_4 := dLq hD4
    have RG_4 := dRq hD4 RG_3
    have Ngr_4 := dRq hD4 Ngr_3
    have Ng3_4 := dRq hD4 Ng3_3
    have HF_4 : Hid (Below w.heap.size w D4) := Lib.hid (by rw [hD4]; exact below_drewN' HF_3.out 1)
    clear hD4 RG_3 Ngr_3 Ng3_3 HF_3
    refine tA (i := 0) (oi := oEE0) ?_
    refine ⟨.pointer (some ⟨g, 0, none⟩), fun w' => exec_move (.tmp 0) rfl _ rfl, ?_⟩
    simp only [oEE0, Act.put, zA, zB, zC]
    refine tA (i := 1) (oi := oEE1) ?_
    refine ⟨.pointer (some ⟨g, 0, none⟩), fun w' => exec_nil (.tmp 9) rfl _ rfl, ?_⟩
    simp only [oEE1, Act.put, zA, zB, zC]
    refine tA (i := 2) (oi := oEE2) ?_
    refine ⟨.pointer (some ⟨g, 0, none⟩), fun w' => exec_field 76 (.tmp 10) 0 rfl _ 0 rfl (fld76_0 _), ?_⟩
    simp only [oEE2, Act.put, zA, zB, zC]
    refine takeT (i := 3) (oi := oEE3) (vN x) rfl (by kernel_rfl) (by kernel_rfl) (by kernel_rfl) (by kernel_rfl) (by kernel_rfl) (fun _ _ _ h => nomatch h.1) (by rfl) (fun w' hk => exec_loadF (.tmp 11) rfl (g) 0 0 rfl [x, y, z, t] x rfl (RG_4.out.below hk HLT4_0.out) rfl) ?_
    simp only [oEE3, Act.put, zA, zB, zC]
    refine takeT (i := 4) (oi := oEE4) (vN i) rfl (by kernel_rfl) (by kernel_rfl) (by kernel_rfl) (by kernel_rfl) (by kernel_rfl) (fun _ _ _ h => nomatch h.1) (by rfl) (fun w' hk => exec_loadF (.tmp 3) rfl (g3) 0 0 rfl [i] i rfl (Ng3_4.out.below hk HLT4_2.out) rfl) ?_
    simp only [oEE4, Act.put, zA, zB, zC]
    refine tA (i := 6) (oi := oEE5) ?_
    refine ⟨.pointer (some ⟨g, 0, none⟩), fun w' => exec_move (.tmp 0) rfl _ rfl, ?_⟩
    simp only [oEE5, Act.put, zA, zB, zC]
    refine tA (i := 7) (oi := oEE6) ?_
    refine ⟨.pointer (some ⟨g, 0, none⟩), fun w' => exec_nil (.tmp 15) rfl _ rfl, ?_⟩
    simp only [oEE6, Act.put, zA, zB, zC]
    refine tA (i := 8) (oi := oEE7) ?_
    refine ⟨.pointer (some ⟨g, 32, none⟩), fun w' => exec_field 76 (.tmp 16) 1 rfl _ 32 rfl (fld76_1 _), ?_⟩
    simp only [oEE7, Act.put, zA, zB, zC]
    refine takeT (i := 9) (oi := oEE8) (vN y) rfl (by kernel_rfl) (by kernel_rfl) (by kernel_rfl) (by kernel_rfl) (by kernel_rfl) (fun _ _ _ h => nomatch h.1) (by rfl) (fun w' hk => exec_loadF (.tmp 17) rfl (g) 1 32 rfl [x, y, z, t] y rfl (RG_4.out.below hk HLT4_0.out) rfl) ?_
    simp only [oEE8, Act.put, zA, zB, zC]
    refine takeT (i := 10) (oi := oEE9) (vN i) rfl (by kernel_rfl) (by kernel_rfl) (by kernel_rfl) (by kernel_rfl) (by kernel_rfl) (fun _ _ _ h => nomatch h.1) (by rfl) (fun w' hk => exec_loadF (.tmp 3) rfl (g3) 0 0 rfl [i] i rfl (Ng3_4.out.below hk HLT4_2.out) rfl) ?_
    simp only [oEE9, Act.put, zA, zB, zC]
    refine callW (i := 5) (oi := oEE10) rfl (by kernel_rfl) (by rfl) (exec_callL 25 [.tmp 12, .tmp 13] #[23, 23] rfl [vN x, vN i] rfl (CG25 _)) ((C1.out D4).mono ?_)
    rintro e5 W5 ⟨rfl, hb5⟩
    refine ⟨_, rfl, fun _ => hb5.mono HL_4.out, ?_⟩
    have RG_5 := hKq RG_4 hb5
    have Ngr_5 := hKq Ngr_4 hb5
    have Ng3_5 := hKq Ng3_4 hb5
    have HF_5 := fTq HF_4 hb5
    have HL_5 := lT HL_4 hb5
    clear hb5 HL_4 RG_4 Ngr_4 Ng3_4 HF_4
    simp only [oEE10, Act.put, zA, zB, zC]
    refine callW (i := 11) (oi := oEE11) rfl (by kernel_rfl) (by rfl) (exec_callL 25 [.tmp 18, .tmp 19] #[23, 23] rfl [vN y, vN i] rfl (CG25 _)) ((C2.out W5).mono ?_)
    rintro e6 W6 ⟨rfl, hb6⟩
    refine ⟨_, rfl, fun _ => hb6.mono HL_5.out, ?_⟩
    have RG_6 := hKq RG_5 hb6
    have Ngr_6 := hKq Ngr_5 hb6
    have Ng3_6 := hKq Ng3_5 hb6
    have HF_6 := fTq HF_5 hb6
    have HL_6 := lT HL_5 hb6
    clear hb6 HL_5 RG_5 Ngr_5 Ng3_5 HF_5
    simp only [oEE11, Act.put, zA, zB, zC]
    refine tA (i := 12) (oi := oEE12) ?_
    refine ⟨vR [X, Y], fun w' => exec_build35 (.tmp 14) (.tmp 20) X Y rfl rfl rfl, ?_⟩
    simp only [oEE12, Act.put, zA, zB, zC]
    refine storeW_P (i := 13) (oi := oEE13) rfl (by kernel_rfl) (by rfl) (.tmp 2) (.tmp 21) rfl (w.heap.size) [0, 0] X Y rfl rfl Ngr_6.out rfl rfl ?_
    intro W7 hr7 hg7 hz7
    simp only [oEE13, Act.put, zA, zB, zC]
    have RG_7 := hGq RG_6 hg7 HNE1_0
    have Ngr_7 : Hid (RAt W7 w.heap.size [X, Y]) := Lib.hid hr7
    have Ng3_7 := hGq Ng3_6 hg7 HNE3_2
    have HF_7 : Hid (Below w.heap.size w W7) := Lib.hid (HF_6.out.grown hg7 HF_6.out.size (fun r hr => by injection hr with hr; have := HGE1.out; omega))
    have HL_7 := lG HL_6 hg7
    clear hr7 hg7 hz7 HL_6 RG_6 Ngr_6 Ng3_6 HF_6
    refine doneW (by kernel_rfl) ⟨rfl, ?_⟩ _
    exact ⟨RG_7.out, Ngr_7.out, Ng3_7.out, HF_7.out, rfl⟩
  rintro a' v8 ⟨h0, h1, h2, hF, rfl⟩
  have RG_8 := Lib.hid h0
  have Ngr_8 := Lib.hid h1
  have Ng3_8 := Lib.hid h2
  have HF_8 := Lib.hid hF
  clear h0 h1 h2 hF HLT4_0 HLT4_1 HLT4_2 HLO4 RG_3 Ngr_3 Ng3_3 HF_3
  go_wp2_with fail
  obtain ⟨tr, htr⟩ := Ngr_8.out
  refine bodyPost_ret (results_cell_row rfl _ _ w.heap.size tr (bcs (encs [X, Y])).toArray _ _ rfl htr Try.underlying35 rfl (by rw [List.size_toArray, bcs_len, encs_len]; exact size35)) rfl ?_
  exact ⟨rfl, HF_8.out⟩
end Go.Proofs.Ytgdimnbdnepbgaa
/- The curve: D, Zero, Base, onCurve, Check, Add, Neg. No statement is proved here. -/
namespace Go.Proofs.Ytgdimnbdnepbgaa
open Go.RowKit
set_option linter.unusedVariables false
set_option maxRecDepth 40000
set_option linter.unusedSimpArgs false

def dN : Nat := 37095705934669439343138083508754565189542113879843219016388785533085940283555
def bxN : Nat := 15112221349535400772501151409588531511454012693041857206046113283949847762202
def byN : Nat := 46316835694926478169428394003475163141307993866256225615783033603165251855960
theorem Keeps.method {G : Nat → Prop} {w x y : World} {r : Nat} (h : Keeps G w x) (hk : Keeps (· = r) x y) (hr : w.heap.size ≤ r) : Keeps G w y :=
  ⟨hk.os.trans h.os, hk.tape.trans h.tape, hk.output.trans h.output, Nat.le_trans h.size hk.size, fun k hlt hn => (hk.block k (Nat.lt_of_lt_of_le hlt h.size) (by show ¬ _ = _; omega)).trans (h.block k hlt hn)⟩
theorem exec_buildc {o : Oper} {a : Act} {w : World} {t : TypeId} {parts : Array (Nat × Operand)} {v : Value} (ho : o.op = .build t parts) (h : (Instr.build t (parts.map fun (i, x) => (i, a.eval x))).run Try.prog w = .ok v w) : (execOp a.eval o).run Try.prog w = .ok (.value v) w := by
  unfold execOp
  simp only [ho, Sem.run_bind, Sem.run_pure]
  rw [h]
  rfl
theorem run_build35_1 (n : Nat) (w : World) : (Instr.build 35 #[(1, vN n)]).run Try.prog w = .ok (vR [0, n]) w := by kernel_rfl
theorem exec_build35_1 {o : Oper} {a : Act} {w : World} (x : Operand) (n : Nat) (ho : o.op = .build 35 #[(1, x)]) (hx : a.eval x = vN n) : (execOp a.eval o).run Try.prog w = .ok (.value (vR [0, n])) w := by
  unfold execOp
  simp only [ho, List.map_toArray, List.map_cons, List.map_nil, Sem.run_bind, Sem.run_pure, hx]
  rw [run_build35_1 n w]
  rfl

set_option maxHeartbeats 1000000 in
theorem D_any (w : World) : Calls Try.prog 45 #[] w (Gives (vN dN) w) := by
  have HF_0 : Hid (Below w.heap.size w w) := Lib.hid (Below.refl _ _)
  go_enter Try.func45, Try.ntmps45
  go_wp2_with (first | ((with_reducible show wpList _ _ _ (⟨some 0, .alloc 23, _, _, _, _⟩ :: _) _ _); go_must (refine wpList_alloc_row rfl 23 rfl (.agg (zbs 32)) zero23 ?_; intro u1 ha1 hza1 hga1; have Ngr_1 : Hid (RAt u1 w.heap.size [0]) := Lib.hid (zrow (k := 1) ha1); have HF_1 : Hid (Below w.heap.size w u1) := Lib.hid (HF_0.out.grown hga1 HF_0.out.size (by simp)); have HGE1 : Hid (w.heap.size ≤ w.heap.size) := Lib.hid HF_0.out.size; clear ha1 hza1 hga1 HF_0)) | ((with_reducible show wpList _ _ _ (⟨some 1, .build 23 _, _, _, _, _⟩ :: _) _ _); go_must (refine wpList_exec rfl (vN dN) (exec_buildc rfl (by kernel_rfl)) ?_)) | ((with_reducible show wpList _ _ _ (⟨none, .store 23 (.tmp 0) (.tmp 1), _, _, _, _⟩ :: _) _ _); go_must (refine wpList_storeF rfl (.tmp 0) (.tmp 1) rfl (w.heap.size) 0 0 rfl [0] dN rfl rfl Ngr_1.out (show 0 < 1 by omega) ?_; intro y2 hr2 hg2 hz2; have Ngr_2 : Hid (RAt y2 w.heap.size [dN]) := Lib.hid hr2; have HF_2 : Hid (Below w.heap.size w y2) := Lib.hid (HF_1.out.grown hg2 HF_1.out.size (fun r hr => by injection hr with hr; have := HGE1.out; omega)); clear hr2 hg2 hz2 Ngr_1 HF_1)) | fail)
  obtain ⟨tr, htr⟩ := Ngr_2.out
  refine bodyPost_ret (results_cell_row rfl _ _ w.heap.size tr (bcs (encs [dN])).toArray _ _ rfl htr under23 rfl (by rw [List.size_toArray, bcs_len, encs_len]; exact size23)) rfl ?_
  exact ⟨by rw [← vR_one]; rfl, HF_2.out⟩

set_option maxHeartbeats 1000000 in
theorem Zero_any (w : World) : Calls Try.prog 39 #[] w (Gives (vR [0, 1]) w) := by
  have HF_0 : Hid (Below w.heap.size w w) := Lib.hid (Below.refl _ _)
  go_enter Try.func39, Try.ntmps39
  go_wp2_with (first | ((with_reducible show wpList _ _ _ (⟨some 0, .alloc 35, _, _, _, _⟩ :: _) _ _); go_must (refine wpList_alloc_row rfl 35 rfl (.agg (zbs 64)) zero35 ?_; intro u3 ha3 hza3 hga3; have Ngr_3 : Hid (RAt u3 w.heap.size [0, 0]) := Lib.hid (zrow (k := 2) ha3); have HF_3 : Hid (Below w.heap.size w u3) := Lib.hid (HF_0.out.grown hga3 HF_0.out.size (by simp)); have HGE3 : Hid (w.heap.size ≤ w.heap.size) := Lib.hid HF_0.out.size; clear ha3 hza3 hga3 HF_0)) | ((with_reducible show wpList _ _ _ (⟨some 1, .build 23 _, _, _, _, _⟩ :: _) _ _); go_must (refine wpList_exec rfl (vN 1) (exec_buildc rfl (by kernel_rfl)) ?_)) | ((with_reducible show wpList _ _ _ (⟨some 2, .build 35 _, _, _, _, _⟩ :: _) _ _); go_must (refine wpList_exec rfl (vR [0, 1]) (exec_build35_1 (.tmp 1) 1 rfl rfl) ?_)) | ((with_reducible show wpList _ _ _ (⟨none, .store 35 (.tmp 0) (.tmp 2), _, _, _, _⟩ :: _) _ _); go_must (refine wpList_storeP rfl (.tmp 0) (.tmp 2) rfl (w.heap.size) [0, 0] 0 1 rfl rfl Ngr_3.out rfl ?_; intro y4 hr4 hg4 hz4; have Ngr_4 : Hid (RAt y4 w.heap.size [0, 1]) := Lib.hid hr4; have HF_4 : Hid (Below w.heap.size w y4) := Lib.hid (HF_3.out.grown hg4 HF_3.out.size (fun r hr => by injection hr with hr; have := HGE3.out; omega)); clear hr4 hg4 hz4 Ngr_3 HF_3)) | fail)
  go_wp2_with fail
  obtain ⟨tr, htr⟩ := Ngr_4.out
  refine bodyPost_ret (results_cell_row rfl _ _ w.heap.size tr (bcs (encs [0, 1])).toArray _ _ rfl htr Try.underlying35 rfl (by rw [List.size_toArray, bcs_len, encs_len]; exact size35)) rfl ?_
  exact ⟨rfl, HF_4.out⟩

set_option maxHeartbeats 1000000 in
theorem Base_any (w : World) : Calls Try.prog 42 #[] w (Gives (vR [bxN, byN]) w) := by
  have HF_0 : Hid (Below w.heap.size w w) := Lib.hid (Below.refl _ _)
  go_enter Try.func42, Try.ntmps42
  go_wp2_with (first | ((with_reducible show wpList _ _ _ (⟨some 0, .alloc 35, _, _, _, _⟩ :: _) _ _); go_must (refine wpList_alloc_row rfl 35 rfl (.agg (zbs 64)) zero35 ?_; intro u5 ha5 hza5 hga5; have Ngr_5 : Hid (RAt u5 w.heap.size [0, 0]) := Lib.hid (zrow (k := 2) ha5); have HF_5 : Hid (Below w.heap.size w u5) := Lib.hid (HF_0.out.grown hga5 HF_0.out.size (by simp)); have HGE5 : Hid (w.heap.size ≤ w.heap.size) := Lib.hid HF_0.out.size; clear ha5 hza5 hga5 HF_0)) | ((with_reducible show wpList _ _ _ (⟨some 1, .build 23 _, _, _, _, _⟩ :: _) _ _); go_must (refine wpList_exec rfl (vN bxN) (exec_buildc rfl (by kernel_rfl)) ?_)) | ((with_reducible show wpList _ _ _ (⟨some 2, .build 23 _, _, _, _, _⟩ :: _) _ _); go_must (refine wpList_exec rfl (vN byN) (exec_buildc rfl (by kernel_rfl)) ?_)) | ((with_reducible show wpList _ _ _ (⟨some 3, .build 35 _, _, _, _, _⟩ :: _) _ _); go_must (refine wpList_exec rfl (vR [bxN, byN]) (exec_build35 (.tmp 1) (.tmp 2) bxN byN rfl rfl rfl) ?_)) | ((with_reducible show wpList _ _ _ (⟨none, .store 35 (.tmp 0) (.tmp 3), _, _, _, _⟩ :: _) _ _); go_must (refine wpList_storeP rfl (.tmp 0) (.tmp 3) rfl (w.heap.size) [0, 0] bxN byN rfl rfl Ngr_5.out rfl ?_; intro y6 hr6 hg6 hz6; have Ngr_6 : Hid (RAt y6 w.heap.size [bxN, byN]) := Lib.hid hr6; have HF_6 : Hid (Below w.heap.size w y6) := Lib.hid (HF_5.out.grown hg6 HF_5.out.size (fun r hr => by injection hr with hr; have := HGE5.out; omega)); clear hr6 hg6 hz6 Ngr_5 HF_5)) | fail)
  go_wp2_with fail
  obtain ⟨tr, htr⟩ := Ngr_6.out
  refine bodyPost_ret (results_cell_row rfl _ _ w.heap.size tr (bcs (encs [bxN, byN])).toArray _ _ rfl htr Try.underlying35 rfl (by rw [List.size_toArray, bcs_len, encs_len]; exact size35)) rfl ?_
  exact ⟨rfl, HF_6.out⟩

set_option maxHeartbeats 4000000 in
theorem onCurve_core (x y xx yy l dd m dm r : Nat) (b : Bool) (w : World)
    (C0 : Hid (∀ w, Calls Try.prog 25 #[vN x, vN x] w (Gives (vN xx) w)))
    (C1 : Hid (∀ w, Calls Try.prog 25 #[vN y, vN y] w (Gives (vN yy) w)))
    (C2 : Hid (∀ w, Calls Try.prog 21 #[vN yy, vN xx] w (Gives (vN l) w)))
    (C3 : Hid (∀ w, Calls Try.prog 17 #[.int .u64 1] w (Gives (vN 1) w)))
    (C4 : Hid (∀ w, Calls Try.prog 45 #[] w (Gives (vN dd) w)))
    (C5 : Hid (∀ w, Calls Try.prog 25 #[vN xx, vN yy] w (Gives (vN m) w)))
    (C6 : Hid (∀ w, Calls Try.prog 25 #[vN dd, vN m] w (Gives (vN dm) w)))
    (C7 : Hid (∀ w, Calls Try.prog 19 #[vN 1, vN dm] w (Gives (vN r) w)))
    (HE : Hid (∀ w, (Op.equalIn 10000 23 (vN l) (vN r)).run Try.prog w = .ok b w)) :
    Calls Try.prog 79 #[vR [x, y]] w (Gives (.bool b) w) := by
  have HM0 : Hid (Rws w []) := rw0 w
  have HF0 : Hid (Below w.heap.size w w) := Lib.hid (Below.refl _ _)
  go_enter Try.func79, Try.ntmps79
  go_wp2_with (first | ((with_reducible show wpList _ _ _ (⟨some 1, .box 35 (.tmp 0), _, _, _, _⟩ :: _) _ _); go_must (refine wpList_box_row rfl 35 (.tmp 0) rfl (bcs (encs [x, y])).toArray rfl ?_; intro u1 a1 b1 c1; have HG2 : Hid (w.heap.size ≤ w.heap.size) := Lib.hid HF0.out.size; have HM2 := rwN HM0 (below_of_grownBy c1) (cbS (cs := bcs (encs [x, y])) a1); have HF2 := bT HF0 (below_of_grownBy c1); clear a1 b1 c1 HM0 HF0)) | fail)
  refine RO.region_once (P := Try.prog) [.val (.pointer (some ⟨w.heap.size, 0, none⟩)), .val (vN x), .val (.pointer (some ⟨w.heap.size, 0, none⟩)), .val (vN x), .val (vN xx), .val (.pointer (some ⟨w.heap.size, 32, none⟩)), .val (vN y), .val (.pointer (some ⟨w.heap.size, 32, none⟩)), .val (vN y), .val (vN yy), .new (zbs 32) 23 (bcs (enc xx)).toArray, .new (zbs 32) 23 (bcs (enc yy)).toArray, .put 10, .put 11] 26 (by kernel_rfl) (by kernel_rfl) (by kernel_rfl) (by kernel_rfl) rfl rfl ⟨
    fun γ a_ w_ hb D => .inl (exec_field 35 (.tmp 1) 0 rfl (w.heap.size) 0 (D.2 1 rfl) (fld35_0 _)),
    fun γ a_ w_ hb D => .inl (loadX (.tmp 5) rfl (w.heap.size) x y (D.1 0 5 rfl rfl) ((rwG HM2 0 rfl).keep hb)),
    fun γ a_ w_ hb D => .inl (exec_field 35 (.tmp 1) 0 rfl (w.heap.size) 0 (D.2 1 rfl) (fld35_0 _)),
    fun γ a_ w_ hb D => .inl (loadX (.tmp 7) rfl (w.heap.size) x y (D.1 2 7 rfl rfl) ((rwG HM2 0 rfl).keep hb)),
    fun γ a_ w_ hb D => vcall 25 [.tmp 6, .tmp 8] #[23, 23] rfl [vN x, vN x] (hx2 (D.1 1 6 rfl rfl) (D.1 3 8 rfl rfl)) (CG25 _) C0.out,
    fun γ a_ w_ hb D => .inl (exec_field 35 (.tmp 1) 1 rfl (w.heap.size) 32 (D.2 1 rfl) (fld35_1 _)),
    fun γ a_ w_ hb D => .inl (loadY (.tmp 10) rfl (w.heap.size) x y (D.1 5 10 rfl rfl) ((rwG HM2 0 rfl).keep hb)),
    fun γ a_ w_ hb D => .inl (exec_field 35 (.tmp 1) 1 rfl (w.heap.size) 32 (D.2 1 rfl) (fld35_1 _)),
    fun γ a_ w_ hb D => .inl (loadY (.tmp 12) rfl (w.heap.size) x y (D.1 7 12 rfl rfl) ((rwG HM2 0 rfl).keep hb)),
    fun γ a_ w_ hb D => vcall 25 [.tmp 11, .tmp 13] #[23, 23] rfl [vN y, vN y] (hx2 (D.1 6 11 rfl rfl) (D.1 8 13 rfl rfl)) (CG25 _) C1.out,
    fun a_ w_ => exec_alloc 23 rfl (.agg (zbs 32)) zero23 w_,
    fun a_ w_ => exec_alloc 23 rfl (.agg (zbs 32)) zero23 w_,
    RO.put_ok rfl (fun γ a_ w_ D hz => fill 23 (.tmp 3) (.tmp 9) rfl (γ 10) (bcs (enc xx)) (bcs (List.replicate 32 0)) (by rw [ce]; exact size23) (by rw [ce]; rfl) (bcs_one' _) (D.1 10 3 rfl rfl) (D.1 4 9 rfl rfl) hz),
    RO.put_ok rfl (fun γ a_ w_ D hz => fill 23 (.tmp 4) (.tmp 14) rfl (γ 11) (bcs (enc yy)) (bcs (List.replicate 32 0)) (by rw [ce]; exact size23) (by rw [ce]; rfl) (bcs_one' _) (D.1 11 4 rfl rfl) (D.1 9 14 rfl rfl) hz),
    trivial⟩ ?_
  intro γ W3 F3
  simp only [RO.lexi, RO.vof, Act.put, List.setIfInBounds_toArray, List.set_cons_zero, List.set_cons_succ, List.getElem?_cons_zero, List.getElem?_cons_succ, List.take_succ_cons, List.take_zero]
  have HG3_10 : Hid (w.heap.size ≤ γ 10) := Lib.hid (Nat.le_trans HF2.out.size (F3.row 10 _ _ _ rfl).1)
  have HG3_11 : Hid (w.heap.size ≤ γ 11) := Lib.hid (Nat.le_trans HF2.out.size (F3.row 11 _ _ _ rfl).1)
  have HM3 := rwD (rwD (rwC HM2 F3.bel) (cbS (cs := bcs (enc xx)) (F3.row 10 _ _ _ rfl).2)) (cbS (cs := bcs (enc yy)) (F3.row 11 _ _ _ rfl).2)
  have HF3 := bT HF2 F3.bel
  clear F3 HM2 HF2
  generalize γ 10 = g3 at *
  generalize γ 11 = g4 at *
  clear γ
  go_wp2_with fail
  refine RO.region_once (P := Try.prog) [.val (vN yy), .val (vN xx), .val (vN l), .val (vN 1), .val (vN dd), .val (vN xx), .val (vN yy), .val (vN m), .val (vN dm), .val (vN r), .val (.bool b), .val (.bool b)] 26 (by kernel_rfl) (by kernel_rfl) (by kernel_rfl) (by kernel_rfl) rfl rfl ⟨
    fun γ a_ w_ hb D => .inl (loadN (.tmp 4) rfl (g4) yy (D.2 4 rfl) ((rwG HM3 0 rfl).keep hb)),
    fun γ a_ w_ hb D => .inl (loadN (.tmp 3) rfl (g3) xx (D.2 3 rfl) ((rwG HM3 1 rfl).keep hb)),
    fun γ a_ w_ hb D => vcall 21 [.tmp 15, .tmp 16] #[23, 23] rfl [vN yy, vN xx] (hx2 (D.1 0 15 rfl rfl) (D.1 1 16 rfl rfl)) (CG21 _) C2.out,
    fun γ a_ w_ hb D => vcall 17 [.const (.int .u64 1)] #[24] rfl [.int .u64 1] (hx1 rfl) (CG17 _) C3.out,
    fun γ a_ w_ hb D => vcall 45 [] #[] rfl [] rfl (CG45 _) C4.out,
    fun γ a_ w_ hb D => .inl (loadN (.tmp 3) rfl (g3) xx (D.2 3 rfl) ((rwG HM3 1 rfl).keep hb)),
    fun γ a_ w_ hb D => .inl (loadN (.tmp 4) rfl (g4) yy (D.2 4 rfl) ((rwG HM3 0 rfl).keep hb)),
    fun γ a_ w_ hb D => vcall 25 [.tmp 20, .tmp 21] #[23, 23] rfl [vN xx, vN yy] (hx2 (D.1 5 20 rfl rfl) (D.1 6 21 rfl rfl)) (CG25 _) C5.out,
    fun γ a_ w_ hb D => vcall 25 [.tmp 19, .tmp 22] #[23, 23] rfl [vN dd, vN m] (hx2 (D.1 4 19 rfl rfl) (D.1 7 22 rfl rfl)) (CG25 _) C6.out,
    fun γ a_ w_ hb D => vcall 19 [.tmp 18, .tmp 23] #[23, 23] rfl [vN 1, vN dm] (hx2 (D.1 3 18 rfl rfl) (D.1 8 23 rfl rfl)) (CG19 _) C7.out,
    fun γ a_ w_ hb D => .inl (exec_eq23 (m := l) (n := r) (.tmp 17) (.tmp 24) rfl (D.1 2 17 rfl rfl) (D.1 9 24 rfl rfl) (HE.out _)),
    fun γ a_ w_ hb D => .inl (exec_moveA (.tmp 25) rfl _ (D.1 10 25 rfl rfl)),
    trivial⟩ ?_
  intro γ W4 F4
  simp only [RO.lexi, RO.vof, Act.put, List.setIfInBounds_toArray, List.set_cons_zero, List.set_cons_succ, List.getElem?_cons_zero, List.getElem?_cons_succ, List.take_succ_cons, List.take_zero]
  have HM4 := rwC HM3 F4.bel
  have HF4 := bT HF3 F4.bel
  clear F4 HM3 HF3
  go_wp2
  go_ret
  exact ⟨rfl, HF4.out⟩
end Go.Proofs.Ytgdimnbdnepbgaa
/- A drawn region with a store and a value behind it. No statement is proved here. -/
namespace Go.Proofs.Ytgdimnbdnepbgaa.RO
open Go.RowKit
set_option linter.unusedVariables false
set_option linter.unusedSimpArgs false
section
variable {P : Program} {l : List Oper} {sp : List Spc} {a0 : Act} {W : World} {nt : Nat} {Q : Exit → Act → World → Prop}
def chkO2 (l : List Oper) (m : Nat) : Bool := (List.range m).all fun j => dep l (m + 1) j
/-- The same, with a value behind that store. -/
theorem region_out2 {id : Nat} (sp : List Spc) (nt m : Nat) (hsm : sp.length = m) (hm : P.follows .mixedOrders = true) (hc : chk l nt = true) (hp : chkP l sp = true) (hf : chkF sp = true) (hlen : l.length = sp.length + 2) (hnt : a0.tmps.size = nt) (ok : AllOk P l sp a0 W 0 l sp)
    (ho : chkO l sp.length = true) (hoo : chkO2 l sp.length = true) (o : Oper) (hlo : l[sp.length]? = some o) (hod : o.dst = none) (o2 : Oper) (hlo2 : l[sp.length + 1]? = some o2) (ho2 : dep l (sp.length + 1) sp.length = true)
    (h : ∀ γ w, Fin sp W γ w → ∃ w', (execOp (lexi sp γ 0 (l.take m) a0).eval o).run P w = .ok .skip w' ∧ ∃ v, (execOp (lexi sp γ 0 (l.take m) a0).eval o2).run P w' = .ok (.value v) w' ∧ Q .normal ((lexi sp γ 0 (l.take m) a0).put o2.dst v) w') : (Code.region id l.toArray true).wp P Q a0 W := by
  subst hsm
  have hout : ∀ i o, sp.length ≤ i → l[i]? = some o → ∀ j, j < sp.length → dep l i j = true := fun i o' hi ho' j hj => by
    have hil := (List.getElem?_eq_some_iff.1 ho').1
    by_cases e : i = sp.length
    · subst e; exact List.all_eq_true.1 ho j (List.mem_range.2 hj)
    · obtain rfl : i = sp.length + 1 := by omega
      exact List.all_eq_true.1 hoo j (List.mem_range.2 hj)
  refine wp_region_any hm (run_once hc hp hnt ok (by omega) hout ?_ _ _ (fun _ => 0) a0 W.drew (by simp) (fun i _ => start_no i) start_count (start (below_drewN' (Below.refl _ W) 1)))
  intro listed γ a w fuel hs hall hno hcnt hst
  have hun : Lof listed sp.length = false := hno _ (Nat.le_refl _)
  have hpos := count_unlisted (listed := listed) (i := sp.length) (by omega) hun
  obtain ⟨fuel, rfl⟩ : ∃ f, fuel = f + 1 := ⟨fuel - 1, by omega⟩
  have h2 : ∀ j, dof (l.take sp.length) j = if j < sp.length then dof l j else none := fun j => by
    unfold dof
    rw [List.getElem?_take]
    split <;> rfl
  have hl1 : Lof listed (sp.length + 1) = false := hno _ (by omega)
  have hc2 := count_set (listed := listed) (i := sp.length) (by omega) hun
  have hL2 : Lof (listed.setIfInBounds sp.length true) = up (Lof listed) sp.length := Lof_set (by omega)
  have hs2 : (listed.setIfInBounds sp.length true).size = l.length := by rw [Array.size_setIfInBounds]; exact hs
  have hun2 : Lof (listed.setIfInBounds sp.length true) (sp.length + 1) = false := by rw [hL2]; unfold up; rw [hl1]; simp
  have hpos2 := count_unlisted (listed := listed.setIfInBounds sp.length true) (i := sp.length + 1) (by omega) hun2
  obtain ⟨fuel, rfl⟩ : ∃ f, fuel = f + 1 := ⟨fuel - 1, by omega⟩
  have one : ∀ {q : Array Bool} {n : Nat} {on : Oper}, q.size = l.length → l[n]? = some on → Lof q n = false → (∀ j, j < n → Lof q j = true) → n ∈ Region.ready .any l.toArray q := fun {q n on} hq hon hn hlt => by
    rw [mem_ready]
    refine ⟨?_, on, (by rw [List.getElem?_toArray]; exact hon), fun e he hb => hlt _ ((chk_at hc hon).2.1 e he hb)⟩
    have hil := (List.getElem?_eq_some_iff.1 hon).1
    unfold Lof at hn
    have hb : n < q.size := by omega
    simp [hb] at hn ⊢
    exact hn
  have only : ∀ {q : Array Bool} {n : Nat}, q.size = l.length → (∀ j, j < n → Lof q j = true) → ∀ i ∈ Region.ready .any l.toArray q, n ≤ i ∧ i < l.length ∧ ∃ o', l[i]? = some o' ∧ ∀ e ∈ o'.after, Region.binds .any e = true → Lof q e.on = true := fun {q n} hq hlt i hi => by
    obtain ⟨hu, o', ho', hr⟩ := mem_ready.1 hi
    have hol : l[i]? = some o' := by simpa using ho'
    have hil := (List.getElem?_eq_some_iff.1 hol).1
    refine ⟨?_, hil, o', hol, hr⟩
    by_cases e : n ≤ i
    · exact e
    · have h3 := hlt i (by omega)
      unfold Lof at h3
      simp [show i < q.size by omega] at hu h3
      rw [hu] at h3
      cases h3
  refine ⟨fun h0 => (by have := one hs hlo hun hall; rw [h0] at this; cases this), fun i hi => ?_⟩
  obtain ⟨hge, hil, o', hol, hr⟩ := only hs hall i hi
  have him : i = sp.length := by
    by_cases e : i = sp.length
    · exact e
    · obtain rfl : i = sp.length + 1 := by omega
      obtain ⟨e, he, hb, heq⟩ := dep_of hol ho2
      have := hr e he hb
      rw [heq, hun] at this
      cases this
  subst him
  rw [hlo] at hol
  obtain rfl : o = o' := by injection hol
  obtain ⟨w', he, v, he2, hq⟩ := h γ w (hst.fin hf hall)
  rw [← hst.is hc hnt (l.take sp.length) h2 (all_iff hall hno)] at he he2 hq
  unfold wpOp
  rw [show l.toArray[sp.length]? = some o from by rw [List.getElem?_toArray]; exact hlo]
  have hw : Region.wanted o (yielded l.toArray a.tmps) = true := by unfold Region.wanted; rw [(chk_at hc hlo).1]
  simp only [hw, if_true]
  refine .inl ?_
  unfold Oper.wp
  rw [he]
  show wpAny P .any l.toArray Q (fuel + 1) (listed.setIfInBounds sp.length true) (a.put o.dst undef) w'
  rw [hod]
  have hall2 : ∀ j, j < sp.length + 1 → Lof (listed.setIfInBounds sp.length true) j = true := fun j hj => by
    rw [hL2]
    by_cases e : j = sp.length
    · rw [e]; exact up_self _ _
    · exact up_of (hall j (by omega))
  refine ⟨fun h0 => (by have := one hs2 hlo2 hun2 hall2; rw [h0] at this; cases this), fun i hi => ?_⟩
  obtain ⟨hge, hil, o', hol, _⟩ := only hs2 hall2 i hi
  obtain rfl : i = sp.length + 1 := by omega
  rw [hlo2] at hol
  obtain rfl : o2 = o' := by injection hol
  refine wpOp_value (by rw [List.getElem?_toArray]; exact hlo2) (by unfold Region.wanted; rw [(chk_at hc hlo2).1]) he2 (done_any ?_ hq fuel)
  apply List.eq_nil_iff_forall_not_mem.2
  intro i hi
  have hall3 : ∀ j, j < sp.length + 2 → Lof ((listed.setIfInBounds sp.length true).setIfInBounds (sp.length + 1) true) j = true := fun j hj => by
    rw [Lof_set (by omega)]
    by_cases e : j = sp.length + 1
    · rw [e]; exact up_self _ _
    · exact up_of (hall2 j (by omega))
  have := only (by rw [Array.size_setIfInBounds]; exact hs2) hall3 i hi
  omega
end
end Go.Proofs.Ytgdimnbdnepbgaa.RO
/- The curve: Check, Add, Neg. No statement is proved here. -/
namespace Go.Proofs.Ytgdimnbdnepbgaa
open Go.RowKit
set_option linter.unusedVariables false
set_option maxRecDepth 40000
set_option linter.unusedSimpArgs false
def oEG0 : Oper := { dst := some 7, op := Op.fieldAddr 35 (Operand.tmp 1) 0, type := 0, pos := "curve.go:68", after := #[], guard := none }
def oEG1 : Oper := { dst := some 8, op := Op.load 23 (Operand.tmp 7), type := 23, pos := "curve.go:68", after := #[{ on := 0, ground := Ground.data }], guard := none }
def oEG2 : Oper := { dst := some 10, op := Op.fieldAddr 35 (Operand.tmp 1) 1, type := 0, pos := "curve.go:68", after := #[], guard := none }
def oEG3 : Oper := { dst := some 11, op := Op.load 23 (Operand.tmp 10), type := 23, pos := "curve.go:68", after := #[{ on := 3, ground := Ground.data }], guard := none }
def oEG4 : Oper := { dst := some 9, op := Op.call { callee := Callee.value (Operand.func 23), args := #[Operand.tmp 8], argTypes := #[23] }, type := 23, pos := "curve.go:68", after := #[{ on := 1, ground := Ground.data }], guard := none }
def oEG5 : Oper := { dst := some 12, op := Op.build 35 #[(0, Operand.tmp 9), (1, Operand.tmp 11)], type := 35, pos := "curve.go:68", after := #[{ on := 2, ground := Ground.data }, { on := 4, ground := Ground.data }], guard := none }
def oEG6 : Oper := { dst := none, op := Op.store 35 (Operand.tmp 2) (Operand.tmp 12), type := 0, pos := "curve.go:68", after := #[{ on := 5, ground := Ground.data }, { on := 2, ground := Ground.chain }, { on := 0, ground := Ground.phase }, { on := 1, ground := Ground.phase }, { on := 2, ground := Ground.phase }, { on := 3, ground := Ground.phase }, { on := 4, ground := Ground.phase }, { on := 5, ground := Ground.phase }], guard := none }

set_option maxHeartbeats 4000000 in
theorem Check_core (x y : Nat) (cx cy oc : Bool) (rr : Int) (w : World) (HR : Hid ((if cx && (cy && oc) then (0 : Int) else 2) = rr))
    (H1 : Hid (∀ w, Calls Try.prog 15 #[vN x] w (Gives (.bool cx) w))) (H2 : Hid (∀ w, Calls Try.prog 15 #[vN y] w (Gives (.bool cy) w))) (H3 : Hid (∀ w, Calls Try.prog 79 #[vR [x, y]] w (Gives (.bool oc) w))) :
    Calls Try.prog 40 #[vR [x, y]] w (Gives (.int .i64 rr) w) := by
  have HF_0 : Hid (Below w.heap.size w w) := Lib.hid (Below.refl _ _)
  go_enter Try.func40, Try.ntmps40
  go_wp2_with (first | ((with_reducible show wpList _ _ _ (⟨some 1, .box 35 (.tmp 0), _, _, _, _⟩ :: _) _ _); go_must (refine wpList_box_row rfl 35 (.tmp 0) rfl (bcs (encs [x, y])).toArray rfl ?_; intro u1 ha1 hza1 hga1; have Ngp_1 : Hid (RAt u1 w.heap.size [x, y]) := Lib.hid (⟨_, ha1⟩); have HF_1 : Hid (Below w.heap.size w u1) := Lib.hid (HF_0.out.grown hga1 HF_0.out.size (by simp)); have HGE1 : Hid (w.heap.size ≤ w.heap.size) := Lib.hid HF_0.out.size; clear ha1 hza1 hga1 HF_0)) | ((with_reducible show wpList _ _ _ (⟨_, .load 23 (.tmp 3), _, _, _, _⟩ :: _) _ _); go_must (refine wpList_exec rfl (vN x) (exec_loadF (.tmp 3) rfl (w.heap.size) 0 0 rfl [x, y] x rfl Ngp_1.out rfl) ?_)) | fail)
  refine (H1.out _).mono ?_
  rintro e2 x2 ⟨rfl, hb2⟩
  have Ngp_2 := hKq Ngp_1 hb2
  have HF_2 := fTq HF_1 hb2
  clear hb2 Ngp_1 HF_1
  cases cx
  · go_wp2_with fail
    go_ret
    obtain rfl : (2 : Int) = rr := HR.out
    exact ⟨rfl, HF_2.out⟩
  · go_wp2_with (first | ((with_reducible show wpList _ _ _ (⟨_, .load 23 (.tmp 8), _, _, _, _⟩ :: _) _ _); go_must (refine wpList_exec rfl (vN y) (exec_loadF (.tmp 8) rfl (w.heap.size) 1 32 rfl [x, y] y rfl Ngp_2.out rfl) ?_)) | fail)
    refine (H2.out _).mono ?_
    rintro e3 x3 ⟨rfl, hb3⟩
    have Ngp_3 := hKq Ngp_2 hb3
    have HF_3 := fTq HF_2 hb3
    clear hb3 Ngp_2 HF_2
    cases cy
    · go_wp2_with fail
      go_ret
      obtain rfl : (2 : Int) = rr := HR.out
      exact ⟨rfl, HF_3.out⟩
    · go_wp2_with (first | ((with_reducible show wpList _ _ _ (⟨_, .load 35 (.tmp 1), _, _, _, _⟩ :: _) _ _); go_must (refine wpList_exec rfl (vR [x, y]) (exec_loadP (.tmp 1) rfl (w.heap.size) x y rfl Ngp_3.out) ?_)) | fail)
      refine (H3.out _).mono ?_
      rintro e4 x4 ⟨rfl, hb4⟩
      have Ngp_4 := hKq Ngp_3 hb4
      have HF_4 := fTq HF_3 hb4
      clear hb4 Ngp_3 HF_3
      cases oc
      · go_wp2_with fail
        go_ret
        obtain rfl : (2 : Int) = rr := HR.out
        exact ⟨rfl, HF_4.out⟩
      · go_wp2_with fail
        go_ret
        obtain rfl : (0 : Int) = rr := HR.out
        exact ⟨rfl, HF_4.out⟩

set_option maxHeartbeats 4000000 in
theorem PAdd_core (x1 y1 x2 y2 t1 t2 X Y Z T PX PY : Nat) (w : World)
    (C1 : Hid (∀ w, Calls Try.prog 40 #[vR [x1, y1]] w (Gives (.int .i64 0) w))) (C2 : Hid (∀ w, Calls Try.prog 40 #[vR [x2, y2]] w (Gives (.int .i64 0) w)))
    (HR1 : Hid (∀ (w : World) (g g1 : Nat), RAt w g [0, 0, 0, 0] → RAt w g1 [x1, y1] → g ≠ g1 → Calls Try.prog 80 #[.pointer (some ⟨g, 0, none⟩), .pointer (some ⟨g1, 0, none⟩)] w (SetsR g [x1, y1, 1, t1] w)))
    (HR2 : Hid (∀ (w : World) (g g1 : Nat), RAt w g [0, 0, 0, 0] → RAt w g1 [x2, y2] → g ≠ g1 → Calls Try.prog 80 #[.pointer (some ⟨g, 0, none⟩), .pointer (some ⟨g1, 0, none⟩)] w (SetsR g [x2, y2, 1, t2] w)))
    (HA : Hid (∀ (w : World) (g g1 : Nat), RAt w g [x1, y1, 1, t1] → RAt w g1 [x2, y2, 1, t2] → Calls Try.prog 81 #[.pointer (some ⟨g, 0, none⟩), .pointer (some ⟨g, 0, none⟩), .pointer (some ⟨g1, 0, none⟩)] w (SetsR g [X, Y, Z, T] w)))
    (HP : Hid (∀ (w : World) (g : Nat), RAt w g [X, Y, Z, T] → Calls Try.prog 82 #[.pointer (some ⟨g, 0, none⟩)] w (Gives (vR [PX, PY]) w))) :
    Calls Try.prog 44 #[vR [x1, y1], vR [x2, y2]] w (Gives (vR [PX, PY]) w) := by
  have HF_0 : Hid (Below w.heap.size w w) := Lib.hid (Below.refl _ _)
  go_enter Try.func44, Try.ntmps44
  go_wp2_with (first | ((with_reducible show wpList _ _ _ (⟨some 2, .box 35 (.tmp 0), _, _, _, _⟩ :: _) _ _); go_must (refine wpList_box_row rfl 35 (.tmp 0) rfl (bcs (encs [x1, y1])).toArray rfl ?_; intro u5 ha5 hza5 hga5; have Ngp_5 : Hid (RAt u5 w.heap.size [x1, y1]) := Lib.hid (⟨_, ha5⟩); have HF_5 : Hid (Below w.heap.size w u5) := Lib.hid (HF_0.out.grown hga5 HF_0.out.size (by simp)); have HGE5 : Hid (w.heap.size ≤ w.heap.size) := Lib.hid HF_0.out.size; clear ha5 hza5 hga5 HF_0)) | ((with_reducible show wpList _ _ _ (⟨some 3, .box 35 (.tmp 1), _, _, _, _⟩ :: _) _ _); go_must (refine wpList_box_row rfl 35 (.tmp 1) rfl (bcs (encs [x2, y2])).toArray rfl ?_; intro u6 ha6 hza6 hga6; have Ngp_6 := Lib.hid (Ngp_5.out.grown hga6 (by simp)); have Ngq_6 : Hid (RAt u6 u5.heap.size [x2, y2]) := Lib.hid (⟨_, ha6⟩); have HF_6 : Hid (Below w.heap.size w u6) := Lib.hid (HF_5.out.grown hga6 HF_5.out.size (by simp)); have HNE6_0 : Hid (w.heap.size ≠ u5.heap.size) := Lib.hid (by have := Ngp_5.out.lt; omega); have HGE6 : Hid (w.heap.size ≤ u5.heap.size) := Lib.hid HF_5.out.size; clear ha6 hza6 hga6 Ngp_5 HF_5)) | ((with_reducible show wpList _ _ _ (⟨some 4, .alloc 35, _, _, _, _⟩ :: _) _ _); go_must (refine wpList_alloc_row rfl 35 rfl (.agg (zbs 64)) zero35 ?_; intro u7 ha7 hza7 hga7; have Ngp_7 := Lib.hid (Ngp_6.out.grown hga7 (by simp)); have Ngq_7 := Lib.hid (Ngq_6.out.grown hga7 (by simp)); have Ngr_7 : Hid (RAt u7 u6.heap.size [0, 0]) := Lib.hid (zrow (k := 2) ha7); have HF_7 : Hid (Below w.heap.size w u7) := Lib.hid (HF_6.out.grown hga7 HF_6.out.size (by simp)); have HNE7_1 : Hid (w.heap.size ≠ u6.heap.size) := Lib.hid (by have := Ngp_6.out.lt; omega); have HNE7_2 : Hid (u5.heap.size ≠ u6.heap.size) := Lib.hid (by have := Ngq_6.out.lt; omega); have HGE7 : Hid (w.heap.size ≤ u6.heap.size) := Lib.hid HF_6.out.size; clear ha7 hza7 hga7 Ngp_6 Ngq_6 HF_6)) | ((with_reducible show wpList _ _ _ (⟨_, .load 35 (.tmp 2), _, _, _, _⟩ :: _) _ _); go_must (refine wpList_exec rfl (vR [x1, y1]) (exec_loadP (.tmp 2) rfl (w.heap.size) x1 y1 rfl Ngp_7.out) ?_)) | fail)
  generalize u5.heap.size = gq at *
  generalize u6.heap.size = gr at *
  refine (C1.out _).mono ?_
  rintro e8 x8 ⟨rfl, hb8⟩
  have Ngp_8 := hKq Ngp_7 hb8
  have Ngq_8 := hKq Ngq_7 hb8
  have Ngr_8 := hKq Ngr_7 hb8
  have HF_8 := fTq HF_7 hb8
  clear hb8 Ngp_7 Ngq_7 Ngr_7 HF_7
  go_wp2_with (first | ((with_reducible show wpList _ _ _ (⟨_, .load 35 (.tmp 3), _, _, _, _⟩ :: _) _ _); go_must (refine wpList_exec rfl (vR [x2, y2]) (exec_loadP (.tmp 3) rfl (gq) x2 y2 rfl Ngq_8.out) ?_)) | fail)
  refine (C2.out _).mono ?_
  rintro e9 x9 ⟨rfl, hb9⟩
  have Ngp_9 := hKq Ngp_8 hb9
  have Ngq_9 := hKq Ngq_8 hb9
  have Ngr_9 := hKq Ngr_8 hb9
  have HF_9 := fTq HF_8 hb9
  clear hb9 Ngp_8 Ngq_8 Ngr_8 HF_8
  go_wp2_with (first | ((with_reducible show wpList _ _ _ (⟨some 5, .alloc 76, _, _, _, _⟩ :: _) _ _); go_must (refine wpList_alloc_row rfl 76 rfl (.agg (zbs 128)) zero76 ?_; intro u10 ha10 hza10 hga10; have Ngp_10 := Lib.hid (Ngp_9.out.grown hga10 (by simp)); have Ngq_10 := Lib.hid (Ngq_9.out.grown hga10 (by simp)); have Ngr_10 := Lib.hid (Ngr_9.out.grown hga10 (by simp)); have Ngu_10 : Hid (RAt u10 x9.heap.size [0, 0, 0, 0]) := Lib.hid (zrow (k := 4) ha10); have HF_10 : Hid (Below w.heap.size w u10) := Lib.hid (HF_9.out.grown hga10 HF_9.out.size (by simp)); have HNE10_3 : Hid (w.heap.size ≠ x9.heap.size) := Lib.hid (by have := Ngp_9.out.lt; omega); have HNE10_4 : Hid (gq ≠ x9.heap.size) := Lib.hid (by have := Ngq_9.out.lt; omega); have HNE10_5 : Hid (gr ≠ x9.heap.size) := Lib.hid (by have := Ngr_9.out.lt; omega); have HGE10 : Hid (w.heap.size ≤ x9.heap.size) := Lib.hid HF_9.out.size; clear ha10 hza10 hga10 Ngp_9 Ngq_9 Ngr_9 HF_9)) | ((with_reducible show wpList _ _ _ (⟨some 6, .alloc 76, _, _, _, _⟩ :: _) _ _); go_must (refine wpList_alloc_row rfl 76 rfl (.agg (zbs 128)) zero76 ?_; intro u11 ha11 hza11 hga11; have Ngp_11 := Lib.hid (Ngp_10.out.grown hga11 (by simp)); have Ngq_11 := Lib.hid (Ngq_10.out.grown hga11 (by simp)); have Ngr_11 := Lib.hid (Ngr_10.out.grown hga11 (by simp)); have Ngu_11 := Lib.hid (Ngu_10.out.grown hga11 (by simp)); have Ngv_11 : Hid (RAt u11 u10.heap.size [0, 0, 0, 0]) := Lib.hid (zrow (k := 4) ha11); have HF_11 : Hid (Below w.heap.size w u11) := Lib.hid (HF_10.out.grown hga11 HF_10.out.size (by simp)); have HNE11_6 : Hid (w.heap.size ≠ u10.heap.size) := Lib.hid (by have := Ngp_10.out.lt; omega); have HNE11_7 : Hid (gq ≠ u10.heap.size) := Lib.hid (by have := Ngq_10.out.lt; omega); have HNE11_8 : Hid (gr ≠ u10.heap.size) := Lib.hid (by have := Ngr_10.out.lt; omega); have HNE11_9 : Hid (x9.heap.size ≠ u10.heap.size) := Lib.hid (by have := Ngu_10.out.lt; omega); have HGE11 : Hid (w.heap.size ≤ u10.heap.size) := Lib.hid HF_10.out.size; clear ha11 hza11 hga11 Ngp_10 Ngq_10 Ngr_10 Ngu_10 HF_10)) | fail)
  generalize x9.heap.size = gu at *
  generalize u10.heap.size = gv at *
  refine (HR1.out _ _ _ Ngu_11.out Ngp_11.out HNE10_3.out.symm).mono ?_
  rintro e12 x12 ⟨rfl, hr12, hk12⟩
  have Ngp_12 := Lib.hid (Ngp_11.out.keeps hk12 (by have := HNE10_3.out; show ¬ _ = _; omega))
  have Ngq_12 := Lib.hid (Ngq_11.out.keeps hk12 (by have := HNE10_4.out; show ¬ _ = _; omega))
  have Ngr_12 := Lib.hid (Ngr_11.out.keeps hk12 (by have := HNE10_5.out; show ¬ _ = _; omega))
  have Ngu_12 : Hid (RAt x12 gu [x1, y1, 1, t1]) := Lib.hid hr12
  have Ngv_12 := Lib.hid (Ngv_11.out.keeps hk12 (by have := HNE11_9.out; show ¬ _ = _; omega))
  have HF_12 : Hid (Below w.heap.size w x12) := Lib.hid (HF_11.out.trans (hk12.below HF_11.out.size (fun k hlt => by have := HGE10.out; show ¬ _ = _; omega)))
  clear hr12 hk12 Ngp_11 Ngq_11 Ngr_11 Ngu_11 Ngv_11 HF_11
  go_wp2_with fail
  refine (HR2.out _ _ _ Ngv_12.out Ngq_12.out HNE11_7.out.symm).mono ?_
  rintro e13 x13 ⟨rfl, hr13, hk13⟩
  have Ngp_13 := Lib.hid (Ngp_12.out.keeps hk13 (by have := HNE11_6.out; show ¬ _ = _; omega))
  have Ngq_13 := Lib.hid (Ngq_12.out.keeps hk13 (by have := HNE11_7.out; show ¬ _ = _; omega))
  have Ngr_13 := Lib.hid (Ngr_12.out.keeps hk13 (by have := HNE11_8.out; show ¬ _ = _; omega))
  have Ngu_13 := Lib.hid (Ngu_12.out.keeps hk13 (by have := HNE11_9.out; show ¬ _ = _; omega))
  have Ngv_13 : Hid (RAt x13 gv [x2, y2, 1, t2]) := Lib.hid hr13
  have HF_13 : Hid (Below w.heap.size w x13) := Lib.hid (HF_12.out.trans (hk13.below HF_12.out.size (fun k hlt => by have := HGE11.out; show ¬ _ = _; omega)))
  clear hr13 hk13 Ngp_12 Ngq_12 Ngr_12 Ngu_12 Ngv_12 HF_12
  go_wp2_with fail
  refine (HA.out _ _ _ Ngu_13.out Ngv_13.out).mono ?_
  rintro e14 x14 ⟨rfl, hr14, hk14⟩
  have Ngp_14 := Lib.hid (Ngp_13.out.keeps hk14 (by have := HNE10_3.out; show ¬ _ = _; omega))
  have Ngq_14 := Lib.hid (Ngq_13.out.keeps hk14 (by have := HNE10_4.out; show ¬ _ = _; omega))
  have Ngr_14 := Lib.hid (Ngr_13.out.keeps hk14 (by have := HNE10_5.out; show ¬ _ = _; omega))
  have Ngu_14 : Hid (RAt x14 gu [X, Y, Z, T]) := Lib.hid hr14
  have Ngv_14 := Lib.hid (Ngv_13.out.keeps hk14 (by have := HNE11_9.out; show ¬ _ = _; omega))
  have HF_14 : Hid (Below w.heap.size w x14) := Lib.hid (HF_13.out.trans (hk14.below HF_13.out.size (fun k hlt => by have := HGE10.out; show ¬ _ = _; omega)))
  clear hr14 hk14 Ngp_13 Ngq_13 Ngr_13 Ngu_13 Ngv_13 HF_13
  go_wp2_with fail
  refine (HP.out _ _ Ngu_14.out).mono ?_
  rintro e15 x15 ⟨rfl, hb15⟩
  have Ngp_15 := hKq Ngp_14 hb15
  have Ngq_15 := hKq Ngq_14 hb15
  have Ngr_15 := hKq Ngr_14 hb15
  have Ngu_15 := hKq Ngu_14 hb15
  have Ngv_15 := hKq Ngv_14 hb15
  have HF_15 := fTq HF_14 hb15
  clear hb15 Ngp_14 Ngq_14 Ngr_14 Ngu_14 Ngv_14 HF_14
  go_wp2_with (first | ((with_reducible show wpList _ _ _ (⟨none, .store 35 (.tmp 4) (.tmp 19), _, _, _, _⟩ :: _) _ _); go_must (refine wpList_storeP rfl (.tmp 4) (.tmp 19) rfl (gr) [0, 0] PX PY rfl rfl Ngr_15.out rfl ?_; intro y16 hr16 hg16 hz16; have Ngp_16 := hGq Ngp_15 hg16 HNE7_1; have Ngq_16 := hGq Ngq_15 hg16 HNE7_2; have Ngr_16 : Hid (RAt y16 gr [PX, PY]) := Lib.hid hr16; have Ngu_16 := hGq Ngu_15 hg16 HNE10_5; have Ngv_16 := hGq Ngv_15 hg16 HNE11_8; have HF_16 : Hid (Below w.heap.size w y16) := Lib.hid (HF_15.out.grown hg16 HF_15.out.size (fun r hr => by injection hr with hr; have := HGE7.out; omega)); clear hr16 hg16 hz16 Ngp_15 Ngq_15 Ngr_15 Ngu_15 Ngv_15 HF_15)) | fail)
  go_wp2_with fail
  obtain ⟨tr, htr⟩ := Ngr_16.out
  refine bodyPost_ret (results_cell_row rfl _ _ gr tr (bcs (encs [PX, PY])).toArray _ _ rfl htr Try.underlying35 rfl (by rw [List.size_toArray, bcs_len, encs_len]; exact size35)) rfl ?_
  exact ⟨rfl, HF_16.out⟩

set_option maxHeartbeats 4000000 in
theorem PAdd_bad1 (x1 y1 x2 y2 : Nat) (w : World) (C1 : Hid (∀ w, Calls Try.prog 40 #[vR [x1, y1]] w (Gives (.int .i64 2) w)))
    (CZ : Hid (∀ w, Calls Try.prog 39 #[] w (Gives (vR [0, 1]) w))) :
    Calls Try.prog 44 #[vR [x1, y1], vR [x2, y2]] w (Gives (vR [0, 1]) w) := by
  have HF_0 : Hid (Below w.heap.size w w) := Lib.hid (Below.refl _ _)
  go_enter Try.func44, Try.ntmps44
  go_wp2_with (first | ((with_reducible show wpList _ _ _ (⟨some 2, .box 35 (.tmp 0), _, _, _, _⟩ :: _) _ _); go_must (refine wpList_box_row rfl 35 (.tmp 0) rfl (bcs (encs [x1, y1])).toArray rfl ?_; intro u17 ha17 hza17 hga17; have Ngp_17 : Hid (RAt u17 w.heap.size [x1, y1]) := Lib.hid (⟨_, ha17⟩); have HF_17 : Hid (Below w.heap.size w u17) := Lib.hid (HF_0.out.grown hga17 HF_0.out.size (by simp)); have HGE17 : Hid (w.heap.size ≤ w.heap.size) := Lib.hid HF_0.out.size; clear ha17 hza17 hga17 HF_0)) | ((with_reducible show wpList _ _ _ (⟨some 3, .box 35 (.tmp 1), _, _, _, _⟩ :: _) _ _); go_must (refine wpList_box_row rfl 35 (.tmp 1) rfl (bcs (encs [x2, y2])).toArray rfl ?_; intro u18 ha18 hza18 hga18; have Ngp_18 := Lib.hid (Ngp_17.out.grown hga18 (by simp)); have Ngq_18 : Hid (RAt u18 u17.heap.size [x2, y2]) := Lib.hid (⟨_, ha18⟩); have HF_18 : Hid (Below w.heap.size w u18) := Lib.hid (HF_17.out.grown hga18 HF_17.out.size (by simp)); have HNE18_0 : Hid (w.heap.size ≠ u17.heap.size) := Lib.hid (by have := Ngp_17.out.lt; omega); have HGE18 : Hid (w.heap.size ≤ u17.heap.size) := Lib.hid HF_17.out.size; clear ha18 hza18 hga18 Ngp_17 HF_17)) | ((with_reducible show wpList _ _ _ (⟨some 4, .alloc 35, _, _, _, _⟩ :: _) _ _); go_must (refine wpList_alloc_row rfl 35 rfl (.agg (zbs 64)) zero35 ?_; intro u19 ha19 hza19 hga19; have Ngp_19 := Lib.hid (Ngp_18.out.grown hga19 (by simp)); have Ngq_19 := Lib.hid (Ngq_18.out.grown hga19 (by simp)); have Ngr_19 : Hid (RAt u19 u18.heap.size [0, 0]) := Lib.hid (zrow (k := 2) ha19); have HF_19 : Hid (Below w.heap.size w u19) := Lib.hid (HF_18.out.grown hga19 HF_18.out.size (by simp)); have HNE19_1 : Hid (w.heap.size ≠ u18.heap.size) := Lib.hid (by have := Ngp_18.out.lt; omega); have HNE19_2 : Hid (u17.heap.size ≠ u18.heap.size) := Lib.hid (by have := Ngq_18.out.lt; omega); have HGE19 : Hid (w.heap.size ≤ u18.heap.size) := Lib.hid HF_18.out.size; clear ha19 hza19 hga19 Ngp_18 Ngq_18 HF_18)) | ((with_reducible show wpList _ _ _ (⟨_, .load 35 (.tmp 2), _, _, _, _⟩ :: _) _ _); go_must (refine wpList_exec rfl (vR [x1, y1]) (exec_loadP (.tmp 2) rfl (w.heap.size) x1 y1 rfl Ngp_19.out) ?_)) | fail)
  generalize u17.heap.size = gq at *
  generalize u18.heap.size = gr at *
  refine (C1.out _).mono ?_
  rintro e20 x20 ⟨rfl, hb20⟩
  have Ngp_20 := hKq Ngp_19 hb20
  have Ngq_20 := hKq Ngq_19 hb20
  have Ngr_20 := hKq Ngr_19 hb20
  have HF_20 := fTq HF_19 hb20
  clear hb20 Ngp_19 Ngq_19 Ngr_19 HF_19
  go_wp2_with fail
  refine (CZ.out _).mono ?_
  rintro e21 x21 ⟨rfl, hb21⟩
  have Ngp_21 := hKq Ngp_20 hb21
  have Ngq_21 := hKq Ngq_20 hb21
  have Ngr_21 := hKq Ngr_20 hb21
  have HF_21 := fTq HF_20 hb21
  clear hb21 Ngp_20 Ngq_20 Ngr_20 HF_20
  go_wp2_with (first | ((with_reducible show wpList _ _ _ (⟨none, .store 35 (.tmp 4) (.tmp 15), _, _, _, _⟩ :: _) _ _); go_must (refine wpList_storeP rfl (.tmp 4) (.tmp 15) rfl (gr) [0, 0] 0 1 rfl rfl Ngr_21.out rfl ?_; intro y22 hr22 hg22 hz22; have Ngp_22 := hGq Ngp_21 hg22 HNE19_1; have Ngq_22 := hGq Ngq_21 hg22 HNE19_2; have Ngr_22 : Hid (RAt y22 gr [0, 1]) := Lib.hid hr22; have HF_22 : Hid (Below w.heap.size w y22) := Lib.hid (HF_21.out.grown hg22 HF_21.out.size (fun r hr => by injection hr with hr; have := HGE19.out; omega)); clear hr22 hg22 hz22 Ngp_21 Ngq_21 Ngr_21 HF_21)) | fail)
  go_wp2_with fail
  obtain ⟨tr, htr⟩ := Ngr_22.out
  refine bodyPost_ret (results_cell_row rfl _ _ gr tr (bcs (encs [0, 1])).toArray _ _ rfl htr Try.underlying35 rfl (by rw [List.size_toArray, bcs_len, encs_len]; exact size35)) rfl ?_
  exact ⟨rfl, HF_22.out⟩

set_option maxHeartbeats 4000000 in
theorem PAdd_bad2 (x1 y1 x2 y2 : Nat) (w : World) (C1 : Hid (∀ w, Calls Try.prog 40 #[vR [x1, y1]] w (Gives (.int .i64 0) w))) (C2 : Hid (∀ w, Calls Try.prog 40 #[vR [x2, y2]] w (Gives (.int .i64 2) w)))
    (CZ : Hid (∀ w, Calls Try.prog 39 #[] w (Gives (vR [0, 1]) w))) :
    Calls Try.prog 44 #[vR [x1, y1], vR [x2, y2]] w (Gives (vR [0, 1]) w) := by
  have HF_0 : Hid (Below w.heap.size w w) := Lib.hid (Below.refl _ _)
  go_enter Try.func44, Try.ntmps44
  go_wp2_with (first | ((with_reducible show wpList _ _ _ (⟨some 2, .box 35 (.tmp 0), _, _, _, _⟩ :: _) _ _); go_must (refine wpList_box_row rfl 35 (.tmp 0) rfl (bcs (encs [x1, y1])).toArray rfl ?_; intro u23 ha23 hza23 hga23; have Ngp_23 : Hid (RAt u23 w.heap.size [x1, y1]) := Lib.hid (⟨_, ha23⟩); have HF_23 : Hid (Below w.heap.size w u23) := Lib.hid (HF_0.out.grown hga23 HF_0.out.size (by simp)); have HGE23 : Hid (w.heap.size ≤ w.heap.size) := Lib.hid HF_0.out.size; clear ha23 hza23 hga23 HF_0)) | ((with_reducible show wpList _ _ _ (⟨some 3, .box 35 (.tmp 1), _, _, _, _⟩ :: _) _ _); go_must (refine wpList_box_row rfl 35 (.tmp 1) rfl (bcs (encs [x2, y2])).toArray rfl ?_; intro u24 ha24 hza24 hga24; have Ngp_24 := Lib.hid (Ngp_23.out.grown hga24 (by simp)); have Ngq_24 : Hid (RAt u24 u23.heap.size [x2, y2]) := Lib.hid (⟨_, ha24⟩); have HF_24 : Hid (Below w.heap.size w u24) := Lib.hid (HF_23.out.grown hga24 HF_23.out.size (by simp)); have HNE24_0 : Hid (w.heap.size ≠ u23.heap.size) := Lib.hid (by have := Ngp_23.out.lt; omega); have HGE24 : Hid (w.heap.size ≤ u23.heap.size) := Lib.hid HF_23.out.size; clear ha24 hza24 hga24 Ngp_23 HF_23)) | ((with_reducible show wpList _ _ _ (⟨some 4, .alloc 35, _, _, _, _⟩ :: _) _ _); go_must (refine wpList_alloc_row rfl 35 rfl (.agg (zbs 64)) zero35 ?_; intro u25 ha25 hza25 hga25; have Ngp_25 := Lib.hid (Ngp_24.out.grown hga25 (by simp)); have Ngq_25 := Lib.hid (Ngq_24.out.grown hga25 (by simp)); have Ngr_25 : Hid (RAt u25 u24.heap.size [0, 0]) := Lib.hid (zrow (k := 2) ha25); have HF_25 : Hid (Below w.heap.size w u25) := Lib.hid (HF_24.out.grown hga25 HF_24.out.size (by simp)); have HNE25_1 : Hid (w.heap.size ≠ u24.heap.size) := Lib.hid (by have := Ngp_24.out.lt; omega); have HNE25_2 : Hid (u23.heap.size ≠ u24.heap.size) := Lib.hid (by have := Ngq_24.out.lt; omega); have HGE25 : Hid (w.heap.size ≤ u24.heap.size) := Lib.hid HF_24.out.size; clear ha25 hza25 hga25 Ngp_24 Ngq_24 HF_24)) | ((with_reducible show wpList _ _ _ (⟨_, .load 35 (.tmp 2), _, _, _, _⟩ :: _) _ _); go_must (refine wpList_exec rfl (vR [x1, y1]) (exec_loadP (.tmp 2) rfl (w.heap.size) x1 y1 rfl Ngp_25.out) ?_)) | fail)
  generalize u23.heap.size = gq at *
  generalize u24.heap.size = gr at *
  refine (C1.out _).mono ?_
  rintro e26 x26 ⟨rfl, hb26⟩
  have Ngp_26 := hKq Ngp_25 hb26
  have Ngq_26 := hKq Ngq_25 hb26
  have Ngr_26 := hKq Ngr_25 hb26
  have HF_26 := fTq HF_25 hb26
  clear hb26 Ngp_25 Ngq_25 Ngr_25 HF_25
  go_wp2_with (first | ((with_reducible show wpList _ _ _ (⟨_, .load 35 (.tmp 3), _, _, _, _⟩ :: _) _ _); go_must (refine wpList_exec rfl (vR [x2, y2]) (exec_loadP (.tmp 3) rfl (gq) x2 y2 rfl Ngq_26.out) ?_)) | fail)
  refine (C2.out _).mono ?_
  rintro e27 x27 ⟨rfl, hb27⟩
  have Ngp_27 := hKq Ngp_26 hb27
  have Ngq_27 := hKq Ngq_26 hb27
  have Ngr_27 := hKq Ngr_26 hb27
  have HF_27 := fTq HF_26 hb27
  clear hb27 Ngp_26 Ngq_26 Ngr_26 HF_26
  go_wp2_with fail
  refine (CZ.out _).mono ?_
  rintro e28 x28 ⟨rfl, hb28⟩
  have Ngp_28 := hKq Ngp_27 hb28
  have Ngq_28 := hKq Ngq_27 hb28
  have Ngr_28 := hKq Ngr_27 hb28
  have HF_28 := fTq HF_27 hb28
  clear hb28 Ngp_27 Ngq_27 Ngr_27 HF_27
  go_wp2_with (first | ((with_reducible show wpList _ _ _ (⟨none, .store 35 (.tmp 4) (.tmp 15), _, _, _, _⟩ :: _) _ _); go_must (refine wpList_storeP rfl (.tmp 4) (.tmp 15) rfl (gr) [0, 0] 0 1 rfl rfl Ngr_28.out rfl ?_; intro y29 hr29 hg29 hz29; have Ngp_29 := hGq Ngp_28 hg29 HNE25_1; have Ngq_29 := hGq Ngq_28 hg29 HNE25_2; have Ngr_29 : Hid (RAt y29 gr [0, 1]) := Lib.hid hr29; have HF_29 : Hid (Below w.heap.size w y29) := Lib.hid (HF_28.out.grown hg29 HF_28.out.size (fun r hr => by injection hr with hr; have := HGE25.out; omega)); clear hr29 hg29 hz29 Ngp_28 Ngq_28 Ngr_28 HF_28)) | fail)
  go_wp2_with fail
  obtain ⟨tr, htr⟩ := Ngr_29.out
  refine bodyPost_ret (results_cell_row rfl _ _ gr tr (bcs (encs [0, 1])).toArray _ _ rfl htr Try.underlying35 rfl (by rw [List.size_toArray, bcs_len, encs_len]; exact size35)) rfl ?_
  exact ⟨rfl, HF_29.out⟩

set_option maxHeartbeats 4000000 in
theorem PNeg_core (x1 y1 m : Nat) (w : World)
    (C1 : Hid (∀ w, Calls Try.prog 40 #[vR [x1, y1]] w (Gives (.int .i64 0) w))) (C0 : Hid (∀ w, Calls Try.prog 23 #[vN x1] w (Gives (vN m) w))) :
    Calls Try.prog 51 #[vR [x1, y1]] w (Gives (vR [m, y1]) w) := by
  have HF_0 : Hid (Below w.heap.size w w) := Lib.hid (Below.refl _ _)
  go_enter Try.func51, Try.ntmps51
  go_wp2_with (first | ((with_reducible show wpList _ _ _ (⟨some 1, .box 35 (.tmp 0), _, _, _, _⟩ :: _) _ _); go_must (refine wpList_box_row rfl 35 (.tmp 0) rfl (bcs (encs [x1, y1])).toArray rfl ?_; intro u30 ha30 hza30 hga30; have Ngp_30 : Hid (RAt u30 w.heap.size [x1, y1]) := Lib.hid (⟨_, ha30⟩); have HF_30 : Hid (Below w.heap.size w u30) := Lib.hid (HF_0.out.grown hga30 HF_0.out.size (by simp)); have HGE30 : Hid (w.heap.size ≤ w.heap.size) := Lib.hid HF_0.out.size; clear ha30 hza30 hga30 HF_0)) | ((with_reducible show wpList _ _ _ (⟨some 2, .alloc 35, _, _, _, _⟩ :: _) _ _); go_must (refine wpList_alloc_row rfl 35 rfl (.agg (zbs 64)) zero35 ?_; intro u31 ha31 hza31 hga31; have Ngp_31 := Lib.hid (Ngp_30.out.grown hga31 (by simp)); have Ngr_31 : Hid (RAt u31 u30.heap.size [0, 0]) := Lib.hid (zrow (k := 2) ha31); have HF_31 : Hid (Below w.heap.size w u31) := Lib.hid (HF_30.out.grown hga31 HF_30.out.size (by simp)); have HNE31_0 : Hid (w.heap.size ≠ u30.heap.size) := Lib.hid (by have := Ngp_30.out.lt; omega); have HGE31 : Hid (w.heap.size ≤ u30.heap.size) := Lib.hid HF_30.out.size; clear ha31 hza31 hga31 Ngp_30 HF_30)) | ((with_reducible show wpList _ _ _ (⟨_, .load 35 (.tmp 1), _, _, _, _⟩ :: _) _ _); go_must (refine wpList_exec rfl (vR [x1, y1]) (exec_loadP (.tmp 1) rfl (w.heap.size) x1 y1 rfl Ngp_31.out) ?_)) | fail)
  generalize u30.heap.size = gr at *
  refine (C1.out _).mono ?_
  rintro e32 x32 ⟨rfl, hb32⟩
  have Ngp_32 := hKq Ngp_31 hb32
  have Ngr_32 := hKq Ngr_31 hb32
  have HF_32 := fTq HF_31 hb32
  clear hb32 Ngp_31 Ngr_31 HF_31
  go_wp2_with fail
  have HLT33_0 := lR Ngp_32
  have HLT33_1 := lR Ngr_32
  have HLO33 : Hid (w.heap.size ≤ x32.heap.size) := Lib.hid HF_32.out.size
  refine region_split (fun a' W => RAt W w.heap.size [x1, y1] ∧ RAt W gr [m, y1] ∧ Below w.heap.size w W ∧ a' = ⟨#[vR [x1, y1], .pointer (some ⟨w.heap.size, 0, none⟩), .pointer (some ⟨gr, 0, none⟩), vR [x1, y1], .int .i64 0, .bool false, undef, .pointer (some ⟨w.heap.size, 0, none⟩), vN x1, vN m, .pointer (some ⟨w.heap.size, 32, none⟩), vN y1, vR [m, y1]], []⟩) ?_ ?_
  · refine startW (fun j => j == 6) (x32.heap.size) (by kernel_rfl) ?_
    obtain ⟨D33, hD33⟩ : ∃ D, D = x32.drew := ⟨_, rfl⟩
    rw [← hD33]
    have HL_33 := dLq hD33
    have Ngp_33 := dRq hD33 Ngp_32
    have Ngr_33 := dRq hD33 Ngr_32
    have HF_33 : Hid (Below w.heap.size w D33) := Lib.hid (by rw [hD33]; exact below_drewN' HF_32.out 1)
    clear hD33 Ngp_32 Ngr_32 HF_32
    refine tA (i := 0) (oi := oEG0) ?_
    refine ⟨.pointer (some ⟨w.heap.size, 0, none⟩), fun w' => exec_field 35 (.tmp 1) 0 rfl _ 0 rfl (fld35_0 _), ?_⟩
    simp only [oEG0, Act.put, zA, zB, zC]
    refine takeT (i := 1) (oi := oEG1) (vN x1) rfl (by kernel_rfl) (by kernel_rfl) (by kernel_rfl) (by kernel_rfl) (by kernel_rfl) (fun _ _ _ h => nomatch h.1) (by rfl) (fun w' hk => exec_loadF (.tmp 7) rfl (w.heap.size) 0 0 rfl [x1, y1] x1 rfl (Ngp_33.out.below hk HLT33_0.out) rfl) ?_
    simp only [oEG1, Act.put, zA, zB, zC]
    refine tA (i := 3) (oi := oEG2) ?_
    refine ⟨.pointer (some ⟨w.heap.size, 32, none⟩), fun w' => exec_field 35 (.tmp 1) 1 rfl _ 32 rfl (fld35_1 _), ?_⟩
    simp only [oEG2, Act.put, zA, zB, zC]
    refine takeT (i := 4) (oi := oEG3) (vN y1) rfl (by kernel_rfl) (by kernel_rfl) (by kernel_rfl) (by kernel_rfl) (by kernel_rfl) (fun _ _ _ h => nomatch h.1) (by rfl) (fun w' hk => exec_loadF (.tmp 10) rfl (w.heap.size) 1 32 rfl [x1, y1] y1 rfl (Ngp_33.out.below hk HLT33_0.out) rfl) ?_
    simp only [oEG3, Act.put, zA, zB, zC]
    refine callW (i := 2) (oi := oEG4) rfl (by kernel_rfl) (by rfl) (exec_callL 23 [.tmp 8] #[23] rfl [vN x1] rfl (CG23 _)) ((C0.out D33).mono ?_)
    rintro e34 W34 ⟨rfl, hb34⟩
    refine ⟨_, rfl, fun _ => hb34.mono HL_33.out, ?_⟩
    have Ngp_34 := hKq Ngp_33 hb34
    have Ngr_34 := hKq Ngr_33 hb34
    have HF_34 := fTq HF_33 hb34
    have HL_34 := lT HL_33 hb34
    clear hb34 HL_33 Ngp_33 Ngr_33 HF_33
    simp only [oEG4, Act.put, zA, zB, zC]
    refine tA (i := 5) (oi := oEG5) ?_
    refine ⟨vR [m, y1], fun w' => exec_build35 (.tmp 9) (.tmp 11) m y1 rfl rfl rfl, ?_⟩
    simp only [oEG5, Act.put, zA, zB, zC]
    refine storeW_P (i := 6) (oi := oEG6) rfl (by kernel_rfl) (by rfl) (.tmp 2) (.tmp 12) rfl (gr) [0, 0] m y1 rfl rfl Ngr_34.out rfl rfl ?_
    intro W35 hr35 hg35 hz35
    simp only [oEG6, Act.put, zA, zB, zC]
    have Ngp_35 := hGq Ngp_34 hg35 HNE31_0
    have Ngr_35 : Hid (RAt W35 gr [m, y1]) := Lib.hid hr35
    have HF_35 : Hid (Below w.heap.size w W35) := Lib.hid (HF_34.out.grown hg35 HF_34.out.size (fun r hr => by injection hr with hr; have := HGE31.out; omega))
    have HL_35 := lG HL_34 hg35
    clear hr35 hg35 hz35 HL_34 Ngp_34 Ngr_34 HF_34
    refine doneW (by kernel_rfl) ⟨rfl, ?_⟩ _
    exact ⟨Ngp_35.out, Ngr_35.out, HF_35.out, rfl⟩
  rintro a' v36 ⟨h0, h1, hF, rfl⟩
  have Ngp_36 := Lib.hid h0
  have Ngr_36 := Lib.hid h1
  have HF_36 := Lib.hid hF
  clear h0 h1 hF HLT33_0 HLT33_1 HLO33 Ngp_32 Ngr_32 HF_32
  go_wp2_with fail
  obtain ⟨tr, htr⟩ := Ngr_36.out
  refine bodyPost_ret (results_cell_row rfl _ _ gr tr (bcs (encs [m, y1])).toArray _ _ rfl htr Try.underlying35 rfl (by rw [List.size_toArray, bcs_len, encs_len]; exact size35)) rfl ?_
  exact ⟨rfl, HF_36.out⟩

set_option maxHeartbeats 4000000 in
theorem PNeg_bad (x1 y1 : Nat) (w : World)
    (C1 : Hid (∀ w, Calls Try.prog 40 #[vR [x1, y1]] w (Gives (.int .i64 2) w))) (CZ : Hid (∀ w, Calls Try.prog 39 #[] w (Gives (vR [0, 1]) w))) :
    Calls Try.prog 51 #[vR [x1, y1]] w (Gives (vR [0, 1]) w) := by
  have HF_0 : Hid (Below w.heap.size w w) := Lib.hid (Below.refl _ _)
  go_enter Try.func51, Try.ntmps51
  go_wp2_with (first | ((with_reducible show wpList _ _ _ (⟨some 1, .box 35 (.tmp 0), _, _, _, _⟩ :: _) _ _); go_must (refine wpList_box_row rfl 35 (.tmp 0) rfl (bcs (encs [x1, y1])).toArray rfl ?_; intro u37 ha37 hza37 hga37; have Ngp_37 : Hid (RAt u37 w.heap.size [x1, y1]) := Lib.hid (⟨_, ha37⟩); have HF_37 : Hid (Below w.heap.size w u37) := Lib.hid (HF_0.out.grown hga37 HF_0.out.size (by simp)); have HGE37 : Hid (w.heap.size ≤ w.heap.size) := Lib.hid HF_0.out.size; clear ha37 hza37 hga37 HF_0)) | ((with_reducible show wpList _ _ _ (⟨some 2, .alloc 35, _, _, _, _⟩ :: _) _ _); go_must (refine wpList_alloc_row rfl 35 rfl (.agg (zbs 64)) zero35 ?_; intro u38 ha38 hza38 hga38; have Ngp_38 := Lib.hid (Ngp_37.out.grown hga38 (by simp)); have Ngr_38 : Hid (RAt u38 u37.heap.size [0, 0]) := Lib.hid (zrow (k := 2) ha38); have HF_38 : Hid (Below w.heap.size w u38) := Lib.hid (HF_37.out.grown hga38 HF_37.out.size (by simp)); have HNE38_0 : Hid (w.heap.size ≠ u37.heap.size) := Lib.hid (by have := Ngp_37.out.lt; omega); have HGE38 : Hid (w.heap.size ≤ u37.heap.size) := Lib.hid HF_37.out.size; clear ha38 hza38 hga38 Ngp_37 HF_37)) | ((with_reducible show wpList _ _ _ (⟨_, .load 35 (.tmp 1), _, _, _, _⟩ :: _) _ _); go_must (refine wpList_exec rfl (vR [x1, y1]) (exec_loadP (.tmp 1) rfl (w.heap.size) x1 y1 rfl Ngp_38.out) ?_)) | fail)
  generalize u37.heap.size = gr at *
  refine (C1.out _).mono ?_
  rintro e39 x39 ⟨rfl, hb39⟩
  have Ngp_39 := hKq Ngp_38 hb39
  have Ngr_39 := hKq Ngr_38 hb39
  have HF_39 := fTq HF_38 hb39
  clear hb39 Ngp_38 Ngr_38 HF_38
  go_wp2_with fail
  refine (CZ.out _).mono ?_
  rintro e40 x40 ⟨rfl, hb40⟩
  have Ngp_40 := hKq Ngp_39 hb40
  have Ngr_40 := hKq Ngr_39 hb40
  have HF_40 := fTq HF_39 hb40
  clear hb40 Ngp_39 Ngr_39 HF_39
  go_wp2_with (first | ((with_reducible show wpList _ _ _ (⟨none, .store 35 (.tmp 2) (.tmp 6), _, _, _, _⟩ :: _) _ _); go_must (refine wpList_storeP rfl (.tmp 2) (.tmp 6) rfl (gr) [0, 0] 0 1 rfl rfl Ngr_40.out rfl ?_; intro y41 hr41 hg41 hz41; have Ngp_41 := hGq Ngp_40 hg41 HNE38_0; have Ngr_41 : Hid (RAt y41 gr [0, 1]) := Lib.hid hr41; have HF_41 : Hid (Below w.heap.size w y41) := Lib.hid (HF_40.out.grown hg41 HF_40.out.size (fun r hr => by injection hr with hr; have := HGE38.out; omega)); clear hr41 hg41 hz41 Ngp_40 Ngr_40 HF_40)) | fail)
  go_wp2_with fail
  obtain ⟨tr, htr⟩ := Ngr_41.out
  refine bodyPost_ret (results_cell_row rfl _ _ gr tr (bcs (encs [0, 1])).toArray _ _ rfl htr Try.underlying35 rfl (by rw [List.size_toArray, bcs_len, encs_len]; exact size35)) rfl ?_
  exact ⟨rfl, HF_41.out⟩
end Go.Proofs.Ytgdimnbdnepbgaa
/- Points in extended coordinates: add. No statement is proved here. -/
namespace Go.Proofs.Ytgdimnbdnepbgaa
open Go.RowKit
set_option linter.unusedVariables false
set_option maxRecDepth 40000
set_option linter.unusedSimpArgs false

theorem CAt.row {w : World} {g n : Nat} (h : CAt w g (bcs (enc n))) : RAt w g [n] := by
  obtain ⟨t, ht⟩ := h
  exact ⟨t, by rw [encs_one]; exact ht⟩
set_option maxHeartbeats 1000000 in
theorem eadd_core (g gp gq r0 r1 r2 r3 x1 y1 z1 t1 x2 y2 z2 t2 one dd tt d a1 a2 x b1 b2 y ox oy X Y Z T : Nat) (w : World)
    (C0 : Hid (∀ w, Calls Try.prog 25 #[vN z1, vN z2] w (Gives (vN one) w)))
    (C1 : Hid (∀ w, Calls Try.prog 45 #[] w (Gives (vN dd) w)))
    (C2 : Hid (∀ w, Calls Try.prog 25 #[vN t1, vN t2] w (Gives (vN tt) w)))
    (C3 : Hid (∀ w, Calls Try.prog 25 #[vN dd, vN tt] w (Gives (vN d) w)))
    (C4 : Hid (∀ w, Calls Try.prog 25 #[vN x1, vN y2] w (Gives (vN a1) w)))
    (C5 : Hid (∀ w, Calls Try.prog 25 #[vN y1, vN x2] w (Gives (vN a2) w)))
    (C6 : Hid (∀ w, Calls Try.prog 19 #[vN a1, vN a2] w (Gives (vN x) w)))
    (C7 : Hid (∀ w, Calls Try.prog 25 #[vN y1, vN y2] w (Gives (vN b1) w)))
    (C8 : Hid (∀ w, Calls Try.prog 25 #[vN x1, vN x2] w (Gives (vN b2) w)))
    (C9 : Hid (∀ w, Calls Try.prog 19 #[vN b1, vN b2] w (Gives (vN y) w)))
    (C10 : Hid (∀ w, Calls Try.prog 19 #[vN one, vN d] w (Gives (vN ox) w)))
    (C11 : Hid (∀ w, Calls Try.prog 21 #[vN one, vN d] w (Gives (vN oy) w)))
    (HD : Hid (∀ (w : World) (g1 g2 g3 g4 : Nat), RAt w g [r0, r1, r2, r3] → RAt w g1 [x] → RAt w g2 [ox] → RAt w g3 [y] → RAt w g4 [oy] → g ≠ g1 → g ≠ g2 → g ≠ g3 → g ≠ g4 → Calls Try.prog 100 #[.pointer (some ⟨g, 0, none⟩), .pointer (some ⟨g1, 0, none⟩), .pointer (some ⟨g2, 0, none⟩), .pointer (some ⟨g3, 0, none⟩), .pointer (some ⟨g4, 0, none⟩)] w (SetsR g [X, Y, Z, T] w)))
    (RG_0 : Hid (RAt w g [r0, r1, r2, r3])) (RX_0 : Hid (RAt w gp [x1, y1, z1, t1])) (RY_0 : Hid (RAt w gq [x2, y2, z2, t2])) :
    Calls Try.prog 81 #[.pointer (some ⟨g, 0, none⟩), .pointer (some ⟨gp, 0, none⟩), .pointer (some ⟨gq, 0, none⟩)] w (SetsR g [X, Y, Z, T] w) := by
  have HM0 := rwD (rwD (rwD (rw0 w) (show CAt w g (bcs (encs [r0, r1, r2, r3])) from RG_0.out)) (show CAt w gp (bcs (encs [x1, y1, z1, t1])) from RX_0.out)) (show CAt w gq (bcs (encs [x2, y2, z2, t2])) from RY_0.out)
  have HF0 : Hid (Below w.heap.size w w) := Lib.hid (Below.refl _ _)
  go_enter Try.func81, Try.ntmps81
  go_wp2_with fail
  refine RO.region_once (P := Try.prog) [.val (.pointer (some ⟨gp, 0, none⟩)), .val (.pointer (some ⟨gp, 0, none⟩)), .val (.pointer (some ⟨gp, 64, none⟩)), .val (vN z1), .val (.pointer (some ⟨gq, 0, none⟩)), .val (.pointer (some ⟨gq, 0, none⟩)), .val (.pointer (some ⟨gq, 64, none⟩)), .val (vN z2), .val (vN one), .new (zbs 32) 23 (bcs (enc one)).toArray, .put 9] 78 (by kernel_rfl) (by kernel_rfl) (by kernel_rfl) (by kernel_rfl) rfl rfl ⟨
    fun γ a_ w_ hb D => .inl (exec_move (.tmp 1) rfl _ (D.2 1 rfl)),
    fun γ a_ w_ hb D => .inl (exec_nil (.tmp 12) rfl _ (D.1 0 12 rfl rfl)),
    fun γ a_ w_ hb D => .inl (exec_field 76 (.tmp 13) 2 rfl (gp) 64 (D.1 1 13 rfl rfl) (fld76_2 _)),
    fun γ a_ w_ hb D => .inl (exec_loadF (.tmp 14) rfl (gp) 2 64 rfl [x1, y1, z1, t1] z1 (D.1 2 14 rfl rfl) ((rwG HM0 1 rfl).keep hb) rfl),
    fun γ a_ w_ hb D => .inl (exec_move (.tmp 2) rfl _ (D.2 2 rfl)),
    fun γ a_ w_ hb D => .inl (exec_nil (.tmp 16) rfl _ (D.1 4 16 rfl rfl)),
    fun γ a_ w_ hb D => .inl (exec_field 76 (.tmp 17) 2 rfl (gq) 64 (D.1 5 17 rfl rfl) (fld76_2 _)),
    fun γ a_ w_ hb D => .inl (exec_loadF (.tmp 18) rfl (gq) 2 64 rfl [x2, y2, z2, t2] z2 (D.1 6 18 rfl rfl) ((rwG HM0 0 rfl).keep hb) rfl),
    fun γ a_ w_ hb D => vcall 25 [.tmp 15, .tmp 19] #[23, 23] rfl [vN z1, vN z2] (hx2 (D.1 3 15 rfl rfl) (D.1 7 19 rfl rfl)) (CG25 _) C0.out,
    fun a_ w_ => exec_alloc 23 rfl (.agg (zbs 32)) zero23 w_,
    RO.put_ok rfl (fun γ a_ w_ D hz => fill 23 (.tmp 6) (.tmp 20) rfl (γ 9) (bcs (enc one)) (bcs (List.replicate 32 0)) (by rw [ce]; exact size23) (by rw [ce]; rfl) (bcs_one' _) (D.1 9 6 rfl rfl) (D.1 8 20 rfl rfl) hz),
    trivial⟩ ?_
  intro γ W1 F1
  simp only [RO.lexi, RO.vof, Act.put, List.setIfInBounds_toArray, List.set_cons_zero, List.set_cons_succ, List.getElem?_cons_zero, List.getElem?_cons_succ, List.take_succ_cons, List.take_zero]
  have HG1_9 : Hid (w.heap.size ≤ γ 9) := Lib.hid (Nat.le_trans HF0.out.size (F1.row 9 _ _ _ rfl).1)
  have HM1 := rwD (rwC HM0 F1.bel) (cbS (cs := bcs (enc one)) (F1.row 9 _ _ _ rfl).2)
  have HF1 := bT HF0 F1.bel
  clear F1 HM0 HF0
  generalize γ 9 = g6 at *
  clear γ
  go_wp2_with fail
  refine RO.region_once (P := Try.prog) [.val (vN dd), .val (.pointer (some ⟨gp, 0, none⟩)), .val (.pointer (some ⟨gp, 0, none⟩)), .val (.pointer (some ⟨gp, 96, none⟩)), .val (vN t1), .val (.pointer (some ⟨gq, 0, none⟩)), .val (.pointer (some ⟨gq, 0, none⟩)), .val (.pointer (some ⟨gq, 96, none⟩)), .val (vN t2), .val (vN tt), .val (vN d), .new (zbs 32) 23 (bcs (enc d)).toArray, .put 11] 78 (by kernel_rfl) (by kernel_rfl) (by kernel_rfl) (by kernel_rfl) rfl rfl ⟨
    fun γ a_ w_ hb D => vcall 45 [] #[] rfl [] rfl (CG45 _) C1.out,
    fun γ a_ w_ hb D => .inl (exec_move (.tmp 1) rfl _ (D.2 1 rfl)),
    fun γ a_ w_ hb D => .inl (exec_nil (.tmp 22) rfl _ (D.1 1 22 rfl rfl)),
    fun γ a_ w_ hb D => .inl (exec_field 76 (.tmp 23) 3 rfl (gp) 96 (D.1 2 23 rfl rfl) (fld76_3 _)),
    fun γ a_ w_ hb D => .inl (exec_loadF (.tmp 24) rfl (gp) 3 96 rfl [x1, y1, z1, t1] t1 (D.1 3 24 rfl rfl) ((rwG HM1 2 rfl).keep hb) rfl),
    fun γ a_ w_ hb D => .inl (exec_move (.tmp 2) rfl _ (D.2 2 rfl)),
    fun γ a_ w_ hb D => .inl (exec_nil (.tmp 26) rfl _ (D.1 5 26 rfl rfl)),
    fun γ a_ w_ hb D => .inl (exec_field 76 (.tmp 27) 3 rfl (gq) 96 (D.1 6 27 rfl rfl) (fld76_3 _)),
    fun γ a_ w_ hb D => .inl (exec_loadF (.tmp 28) rfl (gq) 3 96 rfl [x2, y2, z2, t2] t2 (D.1 7 28 rfl rfl) ((rwG HM1 1 rfl).keep hb) rfl),
    fun γ a_ w_ hb D => vcall 25 [.tmp 25, .tmp 29] #[23, 23] rfl [vN t1, vN t2] (hx2 (D.1 4 25 rfl rfl) (D.1 8 29 rfl rfl)) (CG25 _) C2.out,
    fun γ a_ w_ hb D => vcall 25 [.tmp 21, .tmp 30] #[23, 23] rfl [vN dd, vN tt] (hx2 (D.1 0 21 rfl rfl) (D.1 9 30 rfl rfl)) (CG25 _) C3.out,
    fun a_ w_ => exec_alloc 23 rfl (.agg (zbs 32)) zero23 w_,
    RO.put_ok rfl (fun γ a_ w_ D hz => fill 23 (.tmp 7) (.tmp 31) rfl (γ 11) (bcs (enc d)) (bcs (List.replicate 32 0)) (by rw [ce]; exact size23) (by rw [ce]; rfl) (bcs_one' _) (D.1 11 7 rfl rfl) (D.1 10 31 rfl rfl) hz),
    trivial⟩ ?_
  intro γ W2 F2
  simp only [RO.lexi, RO.vof, Act.put, List.setIfInBounds_toArray, List.set_cons_zero, List.set_cons_succ, List.getElem?_cons_zero, List.getElem?_cons_succ, List.take_succ_cons, List.take_zero]
  have HG2_11 : Hid (w.heap.size ≤ γ 11) := Lib.hid (Nat.le_trans HF1.out.size (F2.row 11 _ _ _ rfl).1)
  have HM2 := rwD (rwC HM1 F2.bel) (cbS (cs := bcs (enc d)) (F2.row 11 _ _ _ rfl).2)
  have HF2 := bT HF1 F2.bel
  clear F2 HM1 HF1
  generalize γ 11 = g7 at *
  clear γ
  go_wp2_with fail
  refine RO.region_once (P := Try.prog) [.val (.pointer (some ⟨gp, 0, none⟩)), .val (.pointer (some ⟨gp, 0, none⟩)), .val (.pointer (some ⟨gp, 0, none⟩)), .val (vN x1), .val (.pointer (some ⟨gq, 0, none⟩)), .val (.pointer (some ⟨gq, 0, none⟩)), .val (.pointer (some ⟨gq, 32, none⟩)), .val (vN y2), .val (vN a1), .val (.pointer (some ⟨gp, 0, none⟩)), .val (.pointer (some ⟨gp, 0, none⟩)), .val (.pointer (some ⟨gp, 32, none⟩)), .val (vN y1), .val (.pointer (some ⟨gq, 0, none⟩)), .val (.pointer (some ⟨gq, 0, none⟩)), .val (.pointer (some ⟨gq, 0, none⟩)), .val (vN x2), .val (vN a2), .val (vN x), .new (zbs 32) 23 (bcs (enc x)).toArray, .put 19] 78 (by kernel_rfl) (by kernel_rfl) (by kernel_rfl) (by kernel_rfl) rfl rfl ⟨
    fun γ a_ w_ hb D => .inl (exec_move (.tmp 1) rfl _ (D.2 1 rfl)),
    fun γ a_ w_ hb D => .inl (exec_nil (.tmp 32) rfl _ (D.1 0 32 rfl rfl)),
    fun γ a_ w_ hb D => .inl (exec_field 76 (.tmp 33) 0 rfl (gp) 0 (D.1 1 33 rfl rfl) (fld76_0 _)),
    fun γ a_ w_ hb D => .inl (exec_loadF (.tmp 34) rfl (gp) 0 0 rfl [x1, y1, z1, t1] x1 (D.1 2 34 rfl rfl) ((rwG HM2 3 rfl).keep hb) rfl),
    fun γ a_ w_ hb D => .inl (exec_move (.tmp 2) rfl _ (D.2 2 rfl)),
    fun γ a_ w_ hb D => .inl (exec_nil (.tmp 36) rfl _ (D.1 4 36 rfl rfl)),
    fun γ a_ w_ hb D => .inl (exec_field 76 (.tmp 37) 1 rfl (gq) 32 (D.1 5 37 rfl rfl) (fld76_1 _)),
    fun γ a_ w_ hb D => .inl (exec_loadF (.tmp 38) rfl (gq) 1 32 rfl [x2, y2, z2, t2] y2 (D.1 6 38 rfl rfl) ((rwG HM2 2 rfl).keep hb) rfl),
    fun γ a_ w_ hb D => vcall 25 [.tmp 35, .tmp 39] #[23, 23] rfl [vN x1, vN y2] (hx2 (D.1 3 35 rfl rfl) (D.1 7 39 rfl rfl)) (CG25 _) C4.out,
    fun γ a_ w_ hb D => .inl (exec_move (.tmp 1) rfl _ (D.2 1 rfl)),
    fun γ a_ w_ hb D => .inl (exec_nil (.tmp 41) rfl _ (D.1 9 41 rfl rfl)),
    fun γ a_ w_ hb D => .inl (exec_field 76 (.tmp 42) 1 rfl (gp) 32 (D.1 10 42 rfl rfl) (fld76_1 _)),
    fun γ a_ w_ hb D => .inl (exec_loadF (.tmp 43) rfl (gp) 1 32 rfl [x1, y1, z1, t1] y1 (D.1 11 43 rfl rfl) ((rwG HM2 3 rfl).keep hb) rfl),
    fun γ a_ w_ hb D => .inl (exec_move (.tmp 2) rfl _ (D.2 2 rfl)),
    fun γ a_ w_ hb D => .inl (exec_nil (.tmp 45) rfl _ (D.1 13 45 rfl rfl)),
    fun γ a_ w_ hb D => .inl (exec_field 76 (.tmp 46) 0 rfl (gq) 0 (D.1 14 46 rfl rfl) (fld76_0 _)),
    fun γ a_ w_ hb D => .inl (exec_loadF (.tmp 47) rfl (gq) 0 0 rfl [x2, y2, z2, t2] x2 (D.1 15 47 rfl rfl) ((rwG HM2 2 rfl).keep hb) rfl),
    fun γ a_ w_ hb D => vcall 25 [.tmp 44, .tmp 48] #[23, 23] rfl [vN y1, vN x2] (hx2 (D.1 12 44 rfl rfl) (D.1 16 48 rfl rfl)) (CG25 _) C5.out,
    fun γ a_ w_ hb D => vcall 19 [.tmp 40, .tmp 49] #[23, 23] rfl [vN a1, vN a2] (hx2 (D.1 8 40 rfl rfl) (D.1 17 49 rfl rfl)) (CG19 _) C6.out,
    fun a_ w_ => exec_alloc 23 rfl (.agg (zbs 32)) zero23 w_,
    RO.put_ok rfl (fun γ a_ w_ D hz => fill 23 (.tmp 8) (.tmp 50) rfl (γ 19) (bcs (enc x)) (bcs (List.replicate 32 0)) (by rw [ce]; exact size23) (by rw [ce]; rfl) (bcs_one' _) (D.1 19 8 rfl rfl) (D.1 18 50 rfl rfl) hz),
    trivial⟩ ?_
  intro γ W3 F3
  simp only [RO.lexi, RO.vof, Act.put, List.setIfInBounds_toArray, List.set_cons_zero, List.set_cons_succ, List.getElem?_cons_zero, List.getElem?_cons_succ, List.take_succ_cons, List.take_zero]
  have HG3_19 : Hid (w.heap.size ≤ γ 19) := Lib.hid (Nat.le_trans HF2.out.size (F3.row 19 _ _ _ rfl).1)
  have HM3 := rwD (rwC HM2 F3.bel) (cbS (cs := bcs (enc x)) (F3.row 19 _ _ _ rfl).2)
  have HF3 := bT HF2 F3.bel
  clear F3 HM2 HF2
  generalize γ 19 = g8 at *
  clear γ
  go_wp2_with fail
  refine RO.region_once (P := Try.prog) [.val (.pointer (some ⟨gp, 0, none⟩)), .val (.pointer (some ⟨gp, 0, none⟩)), .val (.pointer (some ⟨gp, 32, none⟩)), .val (vN y1), .val (.pointer (some ⟨gq, 0, none⟩)), .val (.pointer (some ⟨gq, 0, none⟩)), .val (.pointer (some ⟨gq, 32, none⟩)), .val (vN y2), .val (vN b1), .val (.pointer (some ⟨gp, 0, none⟩)), .val (.pointer (some ⟨gp, 0, none⟩)), .val (.pointer (some ⟨gp, 0, none⟩)), .val (vN x1), .val (.pointer (some ⟨gq, 0, none⟩)), .val (.pointer (some ⟨gq, 0, none⟩)), .val (.pointer (some ⟨gq, 0, none⟩)), .val (vN x2), .val (vN b2), .val (vN y), .new (zbs 32) 23 (bcs (enc y)).toArray, .put 19] 78 (by kernel_rfl) (by kernel_rfl) (by kernel_rfl) (by kernel_rfl) rfl rfl ⟨
    fun γ a_ w_ hb D => .inl (exec_move (.tmp 1) rfl _ (D.2 1 rfl)),
    fun γ a_ w_ hb D => .inl (exec_nil (.tmp 51) rfl _ (D.1 0 51 rfl rfl)),
    fun γ a_ w_ hb D => .inl (exec_field 76 (.tmp 52) 1 rfl (gp) 32 (D.1 1 52 rfl rfl) (fld76_1 _)),
    fun γ a_ w_ hb D => .inl (exec_loadF (.tmp 53) rfl (gp) 1 32 rfl [x1, y1, z1, t1] y1 (D.1 2 53 rfl rfl) ((rwG HM3 4 rfl).keep hb) rfl),
    fun γ a_ w_ hb D => .inl (exec_move (.tmp 2) rfl _ (D.2 2 rfl)),
    fun γ a_ w_ hb D => .inl (exec_nil (.tmp 55) rfl _ (D.1 4 55 rfl rfl)),
    fun γ a_ w_ hb D => .inl (exec_field 76 (.tmp 56) 1 rfl (gq) 32 (D.1 5 56 rfl rfl) (fld76_1 _)),
    fun γ a_ w_ hb D => .inl (exec_loadF (.tmp 57) rfl (gq) 1 32 rfl [x2, y2, z2, t2] y2 (D.1 6 57 rfl rfl) ((rwG HM3 3 rfl).keep hb) rfl),
    fun γ a_ w_ hb D => vcall 25 [.tmp 54, .tmp 58] #[23, 23] rfl [vN y1, vN y2] (hx2 (D.1 3 54 rfl rfl) (D.1 7 58 rfl rfl)) (CG25 _) C7.out,
    fun γ a_ w_ hb D => .inl (exec_move (.tmp 1) rfl _ (D.2 1 rfl)),
    fun γ a_ w_ hb D => .inl (exec_nil (.tmp 60) rfl _ (D.1 9 60 rfl rfl)),
    fun γ a_ w_ hb D => .inl (exec_field 76 (.tmp 61) 0 rfl (gp) 0 (D.1 10 61 rfl rfl) (fld76_0 _)),
    fun γ a_ w_ hb D => .inl (exec_loadF (.tmp 62) rfl (gp) 0 0 rfl [x1, y1, z1, t1] x1 (D.1 11 62 rfl rfl) ((rwG HM3 4 rfl).keep hb) rfl),
    fun γ a_ w_ hb D => .inl (exec_move (.tmp 2) rfl _ (D.2 2 rfl)),
    fun γ a_ w_ hb D => .inl (exec_nil (.tmp 64) rfl _ (D.1 13 64 rfl rfl)),
    fun γ a_ w_ hb D => .inl (exec_field 76 (.tmp 65) 0 rfl (gq) 0 (D.1 14 65 rfl rfl) (fld76_0 _)),
    fun γ a_ w_ hb D => .inl (exec_loadF (.tmp 66) rfl (gq) 0 0 rfl [x2, y2, z2, t2] x2 (D.1 15 66 rfl rfl) ((rwG HM3 3 rfl).keep hb) rfl),
    fun γ a_ w_ hb D => vcall 25 [.tmp 63, .tmp 67] #[23, 23] rfl [vN x1, vN x2] (hx2 (D.1 12 63 rfl rfl) (D.1 16 67 rfl rfl)) (CG25 _) C8.out,
    fun γ a_ w_ hb D => vcall 19 [.tmp 59, .tmp 68] #[23, 23] rfl [vN b1, vN b2] (hx2 (D.1 8 59 rfl rfl) (D.1 17 68 rfl rfl)) (CG19 _) C9.out,
    fun a_ w_ => exec_alloc 23 rfl (.agg (zbs 32)) zero23 w_,
    RO.put_ok rfl (fun γ a_ w_ D hz => fill 23 (.tmp 9) (.tmp 69) rfl (γ 19) (bcs (enc y)) (bcs (List.replicate 32 0)) (by rw [ce]; exact size23) (by rw [ce]; rfl) (bcs_one' _) (D.1 19 9 rfl rfl) (D.1 18 69 rfl rfl) hz),
    trivial⟩ ?_
  intro γ W4 F4
  simp only [RO.lexi, RO.vof, Act.put, List.setIfInBounds_toArray, List.set_cons_zero, List.set_cons_succ, List.getElem?_cons_zero, List.getElem?_cons_succ, List.take_succ_cons, List.take_zero]
  have HG4_19 : Hid (w.heap.size ≤ γ 19) := Lib.hid (Nat.le_trans HF3.out.size (F4.row 19 _ _ _ rfl).1)
  have HM4 := rwD (rwC HM3 F4.bel) (cbS (cs := bcs (enc y)) (F4.row 19 _ _ _ rfl).2)
  have HF4 := bT HF3 F4.bel
  clear F4 HM3 HF3
  generalize γ 19 = g9 at *
  clear γ
  go_wp2_with fail
  refine RO.region_once (P := Try.prog) [.val (vN one), .val (vN d), .val (vN ox), .val (vN one), .val (vN d), .val (vN oy), .new (zbs 32) 23 (bcs (enc ox)).toArray, .new (zbs 32) 23 (bcs (enc oy)).toArray, .put 6, .put 7] 78 (by kernel_rfl) (by kernel_rfl) (by kernel_rfl) (by kernel_rfl) rfl rfl ⟨
    fun γ a_ w_ hb D => .inl (loadN (.tmp 6) rfl (g6) one (D.2 6 rfl) ((rwG HM4 3 rfl).keep hb)),
    fun γ a_ w_ hb D => .inl (loadN (.tmp 7) rfl (g7) d (D.2 7 rfl) ((rwG HM4 2 rfl).keep hb)),
    fun γ a_ w_ hb D => vcall 19 [.tmp 70, .tmp 71] #[23, 23] rfl [vN one, vN d] (hx2 (D.1 0 70 rfl rfl) (D.1 1 71 rfl rfl)) (CG19 _) C10.out,
    fun γ a_ w_ hb D => .inl (loadN (.tmp 6) rfl (g6) one (D.2 6 rfl) ((rwG HM4 3 rfl).keep hb)),
    fun γ a_ w_ hb D => .inl (loadN (.tmp 7) rfl (g7) d (D.2 7 rfl) ((rwG HM4 2 rfl).keep hb)),
    fun γ a_ w_ hb D => vcall 21 [.tmp 73, .tmp 74] #[23, 23] rfl [vN one, vN d] (hx2 (D.1 3 73 rfl rfl) (D.1 4 74 rfl rfl)) (CG21 _) C11.out,
    fun a_ w_ => exec_alloc 23 rfl (.agg (zbs 32)) zero23 w_,
    fun a_ w_ => exec_alloc 23 rfl (.agg (zbs 32)) zero23 w_,
    RO.put_ok rfl (fun γ a_ w_ D hz => fill 23 (.tmp 10) (.tmp 72) rfl (γ 6) (bcs (enc ox)) (bcs (List.replicate 32 0)) (by rw [ce]; exact size23) (by rw [ce]; rfl) (bcs_one' _) (D.1 6 10 rfl rfl) (D.1 2 72 rfl rfl) hz),
    RO.put_ok rfl (fun γ a_ w_ D hz => fill 23 (.tmp 11) (.tmp 75) rfl (γ 7) (bcs (enc oy)) (bcs (List.replicate 32 0)) (by rw [ce]; exact size23) (by rw [ce]; rfl) (bcs_one' _) (D.1 7 11 rfl rfl) (D.1 5 75 rfl rfl) hz),
    trivial⟩ ?_
  intro γ W5 F5
  simp only [RO.lexi, RO.vof, Act.put, List.setIfInBounds_toArray, List.set_cons_zero, List.set_cons_succ, List.getElem?_cons_zero, List.getElem?_cons_succ, List.take_succ_cons, List.take_zero]
  have HG5_6 : Hid (w.heap.size ≤ γ 6) := Lib.hid (Nat.le_trans HF4.out.size (F5.row 6 _ _ _ rfl).1)
  have HG5_7 : Hid (w.heap.size ≤ γ 7) := Lib.hid (Nat.le_trans HF4.out.size (F5.row 7 _ _ _ rfl).1)
  have HM5 := rwD (rwD (rwC HM4 F5.bel) (cbS (cs := bcs (enc ox)) (F5.row 6 _ _ _ rfl).2)) (cbS (cs := bcs (enc oy)) (F5.row 7 _ _ _ rfl).2)
  have HF5 := bT HF4 F5.bel
  clear F5 HM4 HF4
  generalize γ 6 = g10 at *
  generalize γ 7 = g11 at *
  clear γ
  go_wp2_with fail
  refine (HD.out _ _ _ _ _ (show RAt _ _ _ from (rwG HM5 8 rfl)) ((rwG HM5 3 rfl)).row ((rwG HM5 1 rfl)).row ((rwG HM5 2 rfl)).row ((rwG HM5 0 rfl)).row (by have := RG_0.out.lt; have := HG3_19.out; omega) (by have := RG_0.out.lt; have := HG5_6.out; omega) (by have := RG_0.out.lt; have := HG4_19.out; omega) (by have := RG_0.out.lt; have := HG5_7.out; omega)).mono ?_
  rintro e we ⟨rfl, hr, hk⟩
  have HKE := Lib.hid ((Keeps.of_below (G := (· = g)) HF5.out).trans hk)
  have HRE := Lib.hid hr
  clear hr hk HM5 HF5
  go_wp2_with fail
  refine bodyPost_end (results_none rfl _ _ _) rfl ?_
  exact ⟨rfl, HRE.out, HKE.out⟩
end Go.Proofs.Ytgdimnbdnepbgaa
/- The group of a twisted Edwards curve, over residues modulo any n that make a field. No statement is proved here. -/
namespace Go.Proofs.Ytgdimnbdnepbgaa
set_option linter.unusedVariables false

/-- A field with a root of -1, and a d that is no square. -/
structure Ed (n : Nat) [NeZero n] where
  inv : Fin n → Fin n
  d : Fin n
  i : Fin n
  nz : ∀ a b : Fin n, a * b = 0 → a = 0 ∨ b = 0
  hinv : ∀ a : Fin n, a ≠ 0 → a * inv a = 1
  hi : i * i = -1
  h1 : (1 : Fin n) ≠ 0
  h2 : (1 + 1 : Fin n) ≠ 0
  hd : ∀ x : Fin n, x * x ≠ d
namespace Ed
variable {n : Nat} [NeZero n]
theorem cancel (E : Ed n) {a b c : Fin n} (ha : a ≠ 0) (h : a * b = a * c) : b = c := by
  have h0 : a * (b - c) = 0 := by grind
  rcases E.nz _ _ h0 with h | h
  · exact absurd h ha
  · grind
theorem mul_ne (E : Ed n) {a b : Fin n} (ha : a ≠ 0) (hb : b ≠ 0) : a * b ≠ 0 := fun h => by
  rcases E.nz _ _ h with h | h
  · exact ha h
  · exact hb h
theorem inv_one (E : Ed n) : E.inv 1 = 1 := by
  have := E.hinv 1 E.h1
  grind
theorem inv_mul (E : Ed n) {a b : Fin n} (ha : a ≠ 0) (hb : b ≠ 0) : b * E.inv (a * b) = E.inv a := by
  have h1 := E.hinv _ (E.mul_ne ha hb)
  have h2 := E.hinv _ ha
  apply E.cancel ha
  grind
/-- On the curve. -/
def On (E : Ed n) (x y : Fin n) : Prop := y * y - x * x = 1 + E.d * (x * x * (y * y))
theorem no_root (E : Ed n) {w s u : Fin n} (h : w * w = E.d * (s * u) * (s * u)) (hs : s ≠ 0) (hu : u ≠ 0) : False := by
  have hsu := E.mul_ne hs hu
  have h1 := E.hinv _ hsu
  refine E.hd (w * E.inv (s * u)) ?_
  have : (w * E.inv (s * u)) * (w * E.inv (s * u)) = (w * w) * (E.inv (s * u) * E.inv (s * u)) := by grind
  rw [this, h]
  grind
/-- The denominators are never 0. -/
theorem full (E : Ed n) {x1 y1 x2 y2 e : Fin n} (h1 : E.On x1 y1) (h2 : E.On x2 y2) (he : e * e = 1) : E.d * (x1 * y1 * (x2 * y2)) ≠ e := by
  intro h
  unfold On at h1 h2
  have he0 : e ≠ 0 := fun h0 => E.h1 (by rw [← he, h0]; grind)
  have hs : x1 * y1 ≠ 0 := fun h0 => he0 (by rw [← h, h0]; grind)
  have ht : x2 * y2 ≠ 0 := fun h0 => he0 (by rw [← h, h0]; grind)
  have hii := E.hi
  have a1 : (E.i * x1 + e * y1) * (E.i * x1 + e * y1) = E.d * (x1 * y1 * (E.i * x2 + y2)) * (x1 * y1 * (E.i * x2 + y2)) := by grind
  have a2 : (E.i * x1 - e * y1) * (E.i * x1 - e * y1) = E.d * (x1 * y1 * (E.i * x2 - y2)) * (x1 * y1 * (E.i * x2 - y2)) := by grind
  have b1 : E.i * x2 + y2 = 0 := Classical.byContradiction fun hu => E.no_root a1 hs hu
  have b2 : E.i * x2 - y2 = 0 := Classical.byContradiction fun hu => E.no_root a2 hs hu
  have b3 : (1 + 1) * y2 = 0 := by grind
  rcases E.nz _ _ b3 with h0 | h0
  · exact E.h2 h0
  · exact ht (by rw [h0]; grind)
theorem den1 (E : Ed n) {x1 y1 x2 y2 : Fin n} (h1 : E.On x1 y1) (h2 : E.On x2 y2) : 1 + E.d * (x1 * y1 * (x2 * y2)) ≠ 0 := fun h => E.full h1 h2 (e := -1) (by grind) (by grind)
theorem den2 (E : Ed n) {x1 y1 x2 y2 : Fin n} (h1 : E.On x1 y1) (h2 : E.On x2 y2) : 1 - E.d * (x1 * y1 * (x2 * y2)) ≠ 0 := fun h => E.full h1 h2 (e := 1) (by grind) (by grind)
/-- The sum. -/
def sx (E : Ed n) (x1 y1 x2 y2 : Fin n) : Fin n := (x1 * y2 + y1 * x2) * E.inv (1 + E.d * (x1 * y1 * (x2 * y2)))
def sy (E : Ed n) (x1 y1 x2 y2 : Fin n) : Fin n := (y1 * y2 + x1 * x2) * E.inv (1 - E.d * (x1 * y1 * (x2 * y2)))
theorem sx_eq (E : Ed n) {x1 y1 x2 y2 : Fin n} (h1 : E.On x1 y1) (h2 : E.On x2 y2) : E.sx x1 y1 x2 y2 * (1 + E.d * (x1 * y1 * (x2 * y2))) = x1 * y2 + y1 * x2 := by
  have := E.hinv _ (E.den1 h1 h2)
  unfold sx
  generalize E.inv (1 + E.d * (x1 * y1 * (x2 * y2))) = v at *
  grind
theorem sy_eq (E : Ed n) {x1 y1 x2 y2 : Fin n} (h1 : E.On x1 y1) (h2 : E.On x2 y2) : E.sy x1 y1 x2 y2 * (1 - E.d * (x1 * y1 * (x2 * y2))) = y1 * y2 + x1 * x2 := by
  have := E.hinv _ (E.den2 h1 h2)
  unfold sy
  generalize E.inv (1 - E.d * (x1 * y1 * (x2 * y2))) = v at *
  grind
theorem clos {x1 y1 x2 y2 d : Fin n} (h1 : y1*y1 - x1*x1 = 1 + d*(x1*x1*(y1*y1))) (h2 : y2*y2 - x2*x2 = 1 + d*(x2*x2*(y2*y2))) :
  (y1*y2+x1*x2)*(y1*y2+x1*x2)*(1+d*(x1*y1*(x2*y2)))*(1+d*(x1*y1*(x2*y2))) - (x1*y2+y1*x2)*(x1*y2+y1*x2)*(1-d*(x1*y1*(x2*y2)))*(1-d*(x1*y1*(x2*y2)))
   = (1-d*(x1*y1*(x2*y2)))*(1-d*(x1*y1*(x2*y2)))*(1+d*(x1*y1*(x2*y2)))*(1+d*(x1*y1*(x2*y2))) + d * (y1*y2+x1*x2)*(y1*y2+x1*x2)*(x1*y2+y1*x2)*(x1*y2+y1*x2) := by grind
theorem On_sum (E : Ed n) {x1 y1 x2 y2 : Fin n} (h1 : E.On x1 y1) (h2 : E.On x2 y2) : E.On (E.sx x1 y1 x2 y2) (E.sy x1 y1 x2 y2) := by
  have e1 := E.sx_eq h1 h2
  have e2 := E.sy_eq h1 h2
  have d1 := E.den1 h1 h2
  have d2 := E.den2 h1 h2
  have k := clos h1 h2
  rw [← e1, ← e2] at k
  unfold On
  generalize E.sx x1 y1 x2 y2 = X at *
  generalize E.sy x1 y1 x2 y2 = Y at *
  generalize 1 + E.d * (x1 * y1 * (x2 * y2)) = B at *
  generalize 1 - E.d * (x1 * y1 * (x2 * y2)) = D at *
  apply E.cancel (E.mul_ne (E.mul_ne d1 d2) (E.mul_ne d1 d2))
  clear e1 e2 h1 h2 d1 d2
  grind
theorem comm_x (E : Ed n) (x1 y1 x2 y2 : Fin n) : E.sx x1 y1 x2 y2 = E.sx x2 y2 x1 y1 := by
  unfold sx
  rw [show x1 * y1 * (x2 * y2) = x2 * y2 * (x1 * y1) by grind, show x1 * y2 + y1 * x2 = x2 * y1 + y2 * x1 by grind]
theorem comm_y (E : Ed n) (x1 y1 x2 y2 : Fin n) : E.sy x1 y1 x2 y2 = E.sy x2 y2 x1 y1 := by
  unfold sy
  rw [show x1 * y1 * (x2 * y2) = x2 * y2 * (x1 * y1) by grind, show y1 * y2 + x1 * x2 = y2 * y1 + x2 * x1 by grind]
theorem assoc_px {x1 y1 x2 y2 x3 y3 d : Fin n} (h1 : y1*y1 - x1*x1 = 1 + d*(x1*x1*(y1*y1))) (h2 : y2*y2 - x2*x2 = 1 + d*(x2*x2*(y2*y2))) (h3 : y3*y3 - x3*x3 = 1 + d*(x3*x3*(y3*y3))) :
  ((x1*y2+y1*x2) * (1-d*(x1*y1*(x2*y2))) * y3 + (y1*y2+x1*x2)*(1+d*(x1*y1*(x2*y2)))*x3) * ((1+d*(x2*y2*(x3*y3)))*(1-d*(x2*y2*(x3*y3))) + d*(x1*y1)*(x2*y3+y2*x3)*(y2*y3+x2*x3)) =
  (x1*(y2*y3+x2*x3)*(1+d*(x2*y2*(x3*y3))) + y1*(x2*y3+y2*x3)*(1-d*(x2*y2*(x3*y3)))) * ((1+d*(x1*y1*(x2*y2)))*(1-d*(x1*y1*(x2*y2))) + d * (x1*y2+y1*x2)*(y1*y2+x1*x2)*(x3*y3)) := by grind
theorem assoc_py {x1 y1 x2 y2 x3 y3 d : Fin n} (h1 : y1*y1 - x1*x1 = 1 + d*(x1*x1*(y1*y1))) (h2 : y2*y2 - x2*x2 = 1 + d*(x2*x2*(y2*y2))) (h3 : y3*y3 - x3*x3 = 1 + d*(x3*x3*(y3*y3))) :
  ((y1*y2+x1*x2)*(1+d*(x1*y1*(x2*y2)))*y3 + (x1*y2+y1*x2) * (1-d*(x1*y1*(x2*y2))) * x3) * ((1+d*(x2*y2*(x3*y3)))*(1-d*(x2*y2*(x3*y3))) - d*(x1*y1)*(x2*y3+y2*x3)*(y2*y3+x2*x3)) =
  (y1*(y2*y3+x2*x3)*(1+d*(x2*y2*(x3*y3))) + x1*(x2*y3+y2*x3)*(1-d*(x2*y2*(x3*y3)))) * ((1+d*(x1*y1*(x2*y2)))*(1-d*(x1*y1*(x2*y2))) - d * (x1*y2+y1*x2)*(y1*y2+x1*x2)*(x3*y3)) := by grind
/-- From two quotients to the sum of both with a third point. -/
theorem quot {A B C D X Y x y e S : Fin n} (hB : B ≠ 0) (hD : D ≠ 0) (e1 : X * B = A) (e2 : Y * D = C) (hM : S * (1 + e * (X * Y * (x * y))) = X * y + Y * x) : S * (B * D + e * A * C * (x * y)) = A * D * y + C * B * x := by
  subst e1
  subst e2
  have : S * (B * D + e * (X * B) * (Y * D) * (x * y)) = B * D * (S * (1 + e * (X * Y * (x * y)))) := by grind
  rw [this, hM]
  grind
theorem quot2 {A B C D X Y x y e S : Fin n} (e1 : X * B = A) (e2 : Y * D = C) (hM : S * (1 - e * (X * Y * (x * y))) = Y * y + X * x) : S * (B * D - e * A * C * (x * y)) = C * B * y + A * D * x := by
  subst e1
  subst e2
  have : S * (B * D - e * (X * B) * (Y * D) * (x * y)) = B * D * (S * (1 - e * (X * Y * (x * y)))) := by grind
  rw [this, hM]
  grind
theorem cross (E : Ed n) {S T M1 M2 N1 N2 : Fin n} (h1 : M1 ≠ 0) (h2 : M2 ≠ 0) (e1 : S * M1 = N1) (e2 : T * M2 = N2) (h : N1 * M2 = N2 * M1) : S = T := by
  subst e1
  subst e2
  apply E.cancel (E.mul_ne h1 h2)
  grind
theorem denq (E : Ed n) {A B C D X Y x y e : Fin n} (hB : B ≠ 0) (hD : D ≠ 0) (e1 : X * B = A) (e2 : Y * D = C) (h : 1 + e * (X * Y * (x * y)) ≠ 0) : B * D + e * A * C * (x * y) ≠ 0 := by
  subst e1
  subst e2
  have : B * D + e * (X * B) * (Y * D) * (x * y) = B * D * (1 + e * (X * Y * (x * y))) := by grind
  rw [this]
  exact E.mul_ne (E.mul_ne hB hD) h
theorem denq2 (E : Ed n) {A B C D X Y x y e : Fin n} (hB : B ≠ 0) (hD : D ≠ 0) (e1 : X * B = A) (e2 : Y * D = C) (h : 1 - e * (X * Y * (x * y)) ≠ 0) : B * D - e * A * C * (x * y) ≠ 0 := by
  subst e1
  subst e2
  have : B * D - e * (X * B) * (Y * D) * (x * y) = B * D * (1 - e * (X * Y * (x * y))) := by grind
  rw [this]
  exact E.mul_ne (E.mul_ne hB hD) h
theorem assoc_x (E : Ed n) {x1 y1 x2 y2 x3 y3 : Fin n} (h1 : E.On x1 y1) (h2 : E.On x2 y2) (h3 : E.On x3 y3) :
    E.sx (E.sx x1 y1 x2 y2) (E.sy x1 y1 x2 y2) x3 y3 = E.sx x1 y1 (E.sx x2 y2 x3 y3) (E.sy x2 y2 x3 y3) := by
  have o4 := E.On_sum h1 h2
  have o5 := E.On_sum h2 h3
  have q4 := quot (E.den1 h1 h2) (E.den2 h1 h2) (E.sx_eq h1 h2) (E.sy_eq h1 h2) (E.sx_eq o4 h3)
  have n4 := E.denq (E.den1 h1 h2) (E.den2 h1 h2) (E.sx_eq h1 h2) (E.sy_eq h1 h2) (E.den1 o4 h3)
  have q5 := quot (E.den1 h2 h3) (E.den2 h2 h3) (E.sx_eq h2 h3) (E.sy_eq h2 h3) (E.sx_eq o5 h1)
  have n5 := E.denq (E.den1 h2 h3) (E.den2 h2 h3) (E.sx_eq h2 h3) (E.sy_eq h2 h3) (E.den1 o5 h1)
  rw [E.comm_x x1 y1 (E.sx x2 y2 x3 y3) (E.sy x2 y2 x3 y3)]
  refine E.cross n4 n5 q4 q5 ?_
  have p := assoc_px h1 h2 h3
  clear q4 n4 q5 n5 o4 o5 h1 h2 h3
  generalize 1 + E.d * (x1 * y1 * (x2 * y2)) = B at *
  generalize 1 - E.d * (x1 * y1 * (x2 * y2)) = D at *
  generalize 1 + E.d * (x2 * y2 * (x3 * y3)) = B' at *
  generalize 1 - E.d * (x2 * y2 * (x3 * y3)) = D' at *
  generalize x1 * y2 + y1 * x2 = A at *
  generalize y1 * y2 + x1 * x2 = C at *
  generalize x2 * y3 + y2 * x3 = A' at *
  generalize y2 * y3 + x2 * x3 = C' at *
  grind
theorem assoc_y (E : Ed n) {x1 y1 x2 y2 x3 y3 : Fin n} (h1 : E.On x1 y1) (h2 : E.On x2 y2) (h3 : E.On x3 y3) :
    E.sy (E.sx x1 y1 x2 y2) (E.sy x1 y1 x2 y2) x3 y3 = E.sy x1 y1 (E.sx x2 y2 x3 y3) (E.sy x2 y2 x3 y3) := by
  have o4 := E.On_sum h1 h2
  have o5 := E.On_sum h2 h3
  have q4 := quot2 (E.sx_eq h1 h2) (E.sy_eq h1 h2) (E.sy_eq o4 h3)
  have n4 := E.denq2 (E.den1 h1 h2) (E.den2 h1 h2) (E.sx_eq h1 h2) (E.sy_eq h1 h2) (E.den2 o4 h3)
  have q5 := quot2 (E.sx_eq h2 h3) (E.sy_eq h2 h3) (E.sy_eq o5 h1)
  have n5 := E.denq2 (E.den1 h2 h3) (E.den2 h2 h3) (E.sx_eq h2 h3) (E.sy_eq h2 h3) (E.den2 o5 h1)
  rw [E.comm_y x1 y1 (E.sx x2 y2 x3 y3) (E.sy x2 y2 x3 y3)]
  refine E.cross n4 n5 q4 q5 ?_
  have p := assoc_py h1 h2 h3
  clear q4 n4 q5 n5 o4 o5 h1 h2 h3
  generalize 1 + E.d * (x1 * y1 * (x2 * y2)) = B at *
  generalize 1 - E.d * (x1 * y1 * (x2 * y2)) = D at *
  generalize 1 + E.d * (x2 * y2 * (x3 * y3)) = B' at *
  generalize 1 - E.d * (x2 * y2 * (x3 * y3)) = D' at *
  generalize x1 * y2 + y1 * x2 = A at *
  generalize y1 * y2 + x1 * x2 = C at *
  generalize x2 * y3 + y2 * x3 = A' at *
  generalize y2 * y3 + x2 * x3 = C' at *
  grind
theorem On_zero (E : Ed n) : E.On 0 1 := by unfold On; grind
theorem zero_x (E : Ed n) (x y : Fin n) : E.sx x y 0 1 = x := by
  unfold sx
  rw [show x * y * (0 * 1) = 0 by grind, show (1 + E.d * 0 : Fin n) = 1 by grind, E.inv_one]
  grind
theorem zero_y (E : Ed n) (x y : Fin n) : E.sy x y 0 1 = y := by
  unfold sy
  rw [show x * y * (0 * 1) = 0 by grind, show (1 - E.d * 0 : Fin n) = 1 by grind, E.inv_one]
  grind
theorem On_neg (E : Ed n) {x y : Fin n} (h : E.On x y) : E.On (-x) y := by unfold On at *; grind
theorem neg_x (E : Ed n) (x y : Fin n) : E.sx x y (-x) y = 0 := by
  unfold sx
  rw [show x * y + y * -x = 0 by grind]
  grind
theorem neg_y (E : Ed n) {x y : Fin n} (h : E.On x y) : E.sy x y (-x) y = 1 := by
  have h2 := E.hinv _ (E.den2 h (E.On_neg h))
  unfold sy
  have e : y * y + x * -x = 1 - E.d * (x * y * (-x * y)) := by unfold On at h; grind
  rw [e]
  exact h2

/-- Points. -/
def Pt (E : Ed n) : Type := { p : Fin n × Fin n // E.On p.1 p.2 }
def add (E : Ed n) (p q : E.Pt) : E.Pt := ⟨(E.sx p.1.1 p.1.2 q.1.1 q.1.2, E.sy p.1.1 p.1.2 q.1.1 q.1.2), E.On_sum p.2 q.2⟩
def zero (E : Ed n) : E.Pt := ⟨(0, 1), E.On_zero⟩
def neg (E : Ed n) (p : E.Pt) : E.Pt := ⟨(-p.1.1, p.1.2), E.On_neg p.2⟩
theorem add_comm (E : Ed n) (p q : E.Pt) : E.add p q = E.add q p := Subtype.ext (Prod.ext (E.comm_x ..) (E.comm_y ..))
theorem add_assoc (E : Ed n) (p q r : E.Pt) : E.add (E.add p q) r = E.add p (E.add q r) := Subtype.ext (Prod.ext (E.assoc_x p.2 q.2 r.2) (E.assoc_y p.2 q.2 r.2))
theorem add_zero (E : Ed n) (p : E.Pt) : E.add p E.zero = p := Subtype.ext (Prod.ext (E.zero_x ..) (E.zero_y ..))
theorem zero_add (E : Ed n) (p : E.Pt) : E.add E.zero p = p := by rw [E.add_comm, E.add_zero]
theorem add_neg (E : Ed n) (p : E.Pt) : E.add p (E.neg p) = E.zero := Subtype.ext (Prod.ext (E.neg_x ..) (E.neg_y p.2))
theorem neg_add (E : Ed n) (p : E.Pt) : E.add (E.neg p) p = E.zero := by rw [E.add_comm, E.add_neg]
theorem add_neg_cancel (E : Ed n) (p q : E.Pt) : E.add (E.add p q) (E.neg p) = q := by rw [E.add_comm p q, E.add_assoc, E.add_neg, E.add_zero]
theorem neg_uniq (E : Ed n) {p q : E.Pt} (h : E.add p q = E.zero) : q = E.neg p := by
  have := congrArg (fun z => E.add z (E.neg p)) h
  simp only [E.add_neg_cancel, E.zero_add] at this
  exact this
theorem neg_sum (E : Ed n) (p q : E.Pt) : E.neg (E.add p q) = E.add (E.neg p) (E.neg q) := by
  refine (E.neg_uniq ?_).symm
  rw [E.add_assoc, ← E.add_assoc q, E.add_comm q, E.add_assoc (E.neg p), E.add_neg, E.add_zero, E.add_neg]
end Ed
end Go.Proofs.Ytgdimnbdnepbgaa
/- The curve's functions over residues modulo p. No statement is proved here. -/
namespace Go.Proofs.Ytgdimnbdnepbgaa
open Go.RowKit
set_option linter.unusedVariables false
set_option maxRecDepth 40000
set_option linter.unusedSimpArgs false

instance nzP : NeZero PP := ⟨by unfold PP; omega⟩
theorem fT (a : Fin PP) : a.val < TT := Nat.lt_trans a.isLt PP_lt
theorem fz_nz (a b : Fin PP) (h : a * b = 0) : a = 0 ∨ b = 0 := by
  have h1 : a.val * b.val % PP = 0 := by
    have := congrArg Fin.val h
    rwa [Fin.val_mul] at this
  rcases prP.euclid (Nat.dvd_of_mod_eq_zero h1) with h | h
  · left
    apply Fin.ext
    rw [Nat.eq_zero_of_dvd_of_lt h a.isLt]
    rfl
  · right
    apply Fin.ext
    rw [Nat.eq_zero_of_dvd_of_lt h b.isLt]
    rfl
theorem val_ne {a : Fin PP} (h : a ≠ 0) : a.val % PP ≠ 0 := fun h0 => h (by
  apply Fin.ext
  rw [Nat.mod_eq_of_lt a.isLt] at h0
  rw [h0]
  rfl)
theorem inv_ex (a : Fin PP) : ∃ b : Fin PP, (a ≠ 0 → a * b = 1) ∧ (a = 0 → b = 0) ∧ ∀ q, PP = q + 2 → b.val = a.val ^ q % PP := by
  obtain ⟨q, hq⟩ := q_ex
  refine ⟨⟨a.val ^ q % PP, modP _⟩, fun h => ?_, fun h => ?_, fun q' hq' => ?_⟩
  · apply Fin.ext
    rw [Fin.val_mul]
    show a.val * (a.val ^ q % PP) % PP = 1 % PP
    rw [inv_mul q hq a.val (val_ne h), Nat.mod_eq_of_lt (by unfold PP; omega)]
  · apply Fin.ext
    show a.val ^ q % PP = 0
    subst h
    show 0 ^ q % PP = 0
    rw [Nat.zero_pow (by unfold PP at hq; omega), Nat.zero_mod]
  · obtain rfl : q = q' := by omega
    rfl
noncomputable def fInv (a : Fin PP) : Fin PP := Classical.choose (inv_ex a)
theorem fInv_mul {a : Fin PP} (h : a ≠ 0) : a * fInv a = 1 := (Classical.choose_spec (inv_ex a)).1 h
theorem fInv_zero : fInv 0 = 0 := (Classical.choose_spec (inv_ex 0)).2.1 rfl
theorem fInv_val (a : Fin PP) (q : Nat) (hq : PP = q + 2) : (fInv a).val = a.val ^ q % PP := (Classical.choose_spec (inv_ex a)).2.2 q hq
theorem dN_lt : dN < PP := by unfold dN PP; omega
def dF : Fin PP := ⟨dN, dN_lt⟩
def iN : Nat := 19681161376707505956807079304988542015446066515923890162744021073123829784752
theorem iN_lt : iN < PP := by unfold iN PP; omega
def iF : Fin PP := ⟨iN, iN_lt⟩
theorem iN_sq : iN * iN % PP = (PP - 1 % PP) % PP := by decide +kernel
theorem dchi (k : Nat) (hk : PP = 8 * k + 5) : dN ^ (4 * k + 2) % PP = PP - 1 := by
  rw [show 4 * k + 2 = 28948022309329048855892746252171976963317496166410141009864396001978282409974 from by unfold PP at hk; omega]
  have h := pm_eq PP dN 256 28948022309329048855892746252171976963317496166410141009864396001978282409974 (by decide)
  have e : pm PP dN 256 28948022309329048855892746252171976963317496166410141009864396001978282409974 = PP - 1 := by decide +kernel
  exact h.symm.trans e
theorem d_no (x : Fin PP) : x * x ≠ dF := by
  intro h
  obtain ⟨k, hk⟩ := k_ex
  have h1 : x.val * x.val % PP = dN := by
    have := congrArg Fin.val h
    rwa [Fin.val_mul] at this
  have h2 := dchi k hk
  have hx : ¬ PP ∣ x.val := fun hd => by
    have : x.val * x.val % PP = 0 := Nat.mod_eq_zero_of_dvd (Nat.dvd_trans hd ⟨_, rfl⟩)
    rw [this] at h1
    exact absurd h1 (by decide)
  have h3 := fermat1 prP x.val hx
  rw [← h1, ← Nat.pow_mod, show x.val * x.val = x.val ^ 2 from by rw [Nat.pow_succ, Nat.pow_one], ← Nat.pow_mul, show 2 * (4 * k + 2) = PP - 1 from by omega, h3] at h2
  unfold PP at h2
  omega
theorem one_ne : (1 : Fin PP) ≠ 0 := fun h => by
  have := congrArg Fin.val h
  have h1 : (1 : Fin PP).val = 1 % PP := rfl
  have h0 : (0 : Fin PP).val = 0 % PP := rfl
  rw [h1, h0] at this
  unfold PP at this
  omega
theorem two_ne : (1 + 1 : Fin PP) ≠ 0 := fun h => by
  have := congrArg Fin.val h
  have h1 : (1 : Fin PP).val = 1 % PP := rfl
  have h0 : (0 : Fin PP).val = 0 % PP := rfl
  rw [Fin.val_add, h1, h0] at this
  unfold PP at this
  omega
noncomputable def EC : Ed PP where
  inv := fInv
  d := dF
  i := iF
  nz := fz_nz
  hinv := fun a h => fInv_mul h
  hi := Fin.ext (by rw [Fin.val_mul]; exact iN_sq)
  h1 := one_ne
  h2 := two_ne
  hd := d_no

theorem v0 : (0 : Fin PP).val = 0 := rfl
theorem v1 : (1 : Fin PP).val = 1 := by
  have h1 : (1 : Fin PP).val = 1 % PP := rfl
  rw [h1]
  exact Nat.mod_eq_of_lt (by unfold PP; omega)
theorem gives_N {f : FuncId} {args : Array Value} {x y : Nat} {w : World} (e : x = y) (h : Calls Try.prog f args w (Gives (vN x) w)) : Calls Try.prog f args w (Gives (vN y) w) := e ▸ h
theorem gives_V {f : FuncId} {args : Array Value} {x y : Value} {w : World} (e : x = y) (h : Calls Try.prog f args w (Gives x w)) : Calls Try.prog f args w (Gives y w) := e ▸ h
theorem fAdd (a b : Fin PP) (w : World) : Calls Try.prog 19 #[vN a.val, vN b.val] w (Gives (vN (a + b).val) w) := gives_N (Fin.val_add a b).symm (Add_any a.val b.val (fT a) (fT b) w)
theorem fMul (a b : Fin PP) (w : World) : Calls Try.prog 25 #[vN a.val, vN b.val] w (Gives (vN (a * b).val) w) := gives_N (Fin.val_mul a b).symm (Mul_any a.val b.val (fT a) (fT b) w)
theorem fSub (a b : Fin PP) (w : World) : Calls Try.prog 21 #[vN a.val, vN b.val] w (Gives (vN (a - b).val) w) :=
  gives_N (by rw [Fin.sub_def, Nat.mod_eq_of_lt b.isLt, Nat.add_comm]) (Sub_any a.val b.val (fT a) (fT b) w)
theorem fNeg (a : Fin PP) (w : World) : Calls Try.prog 23 #[vN a.val] w (Gives (vN (-a).val) w) :=
  gives_N (by rw [Nat.mod_eq_of_lt a.isLt]; rfl) (Neg_any a.val (fT a) w)
theorem fInvC (a : Fin PP) (w : World) : Calls Try.prog 29 #[vN a.val] w (Gives (vN (fInv a).val) w) := by
  obtain ⟨q, hq⟩ := q_ex
  rw [fInv_val a q hq]
  exact Inv_any q hq a.val (fT a) w
theorem fOne (w : World) : Calls Try.prog 17 #[.int .u64 1] w (Gives (vN (1 : Fin PP).val) w) := gives_N v1.symm (Of_any 1 (by omega) w)
theorem fEq (a b : Fin PP) (w : World) : (Op.equalIn 10000 23 (vN a.val) (vN b.val)).run Try.prog w = .ok (decide (a = b)) w := by
  rw [eqN _ _ (fT a) (fT b) w]
  congr 1
  rw [Bool.eq_iff_iff, decide_eq_true_eq, decide_eq_true_eq]
  exact ⟨Fin.ext, congrArg Fin.val⟩
theorem fCanon (a : Fin PP) (w : World) : Calls Try.prog 15 #[vN a.val] w (Gives (.bool true) w) := by
  have h := Canon_any a.val (fT a) w
  rw [decide_eq_true (Nat.mod_eq_of_lt a.isLt).symm] at h
  exact h
theorem fD (w : World) : Calls Try.prog 45 #[] w (Gives (vN dF.val) w) := D_any w

theorem divide_any (x ox y oy : Fin PP) (r0 r1 r2 r3 : Nat) (w : World) (g g1 g2 g3 g4 : Nat) (h0 : RAt w g [r0, r1, r2, r3]) (h1 : RAt w g1 [x.val]) (h2 : RAt w g2 [ox.val]) (h3 : RAt w g3 [y.val]) (h4 : RAt w g4 [oy.val]) (n1 : g ≠ g1) (n2 : g ≠ g2) (n3 : g ≠ g3) (n4 : g ≠ g4) :
    Calls Try.prog 100 #[.pointer (some ⟨g, 0, none⟩), .pointer (some ⟨g1, 0, none⟩), .pointer (some ⟨g2, 0, none⟩), .pointer (some ⟨g3, 0, none⟩), .pointer (some ⟨g4, 0, none⟩)] w (SetsR g [(x * oy).val, (y * ox).val, (ox * oy).val, (x * y).val] w) :=
  divide_core g g1 g2 g3 g4 r0 r1 r2 r3 _ _ _ _ _ _ _ _ w (Lib.hid (fMul x oy)) (Lib.hid (fMul y ox)) (Lib.hid (fMul ox oy)) (Lib.hid (fMul x y)) (Lib.hid h0) (Lib.hid h1) (Lib.hid h2) (Lib.hid h3) (Lib.hid h4) (Lib.hid n1) (Lib.hid n2) (Lib.hid n3) (Lib.hid n4)
theorem eread_any (x y : Fin PP) (r0 r1 r2 r3 : Nat) (w : World) (g g1 : Nat) (h0 : RAt w g [r0, r1, r2, r3]) (h1 : RAt w g1 [x.val, y.val]) (n1 : g ≠ g1) :
    Calls Try.prog 80 #[.pointer (some ⟨g, 0, none⟩), .pointer (some ⟨g1, 0, none⟩)] w (SetsR g [x.val, y.val, 1, (x * y).val] w) :=
  eread_core g g1 r0 r1 r2 r3 _ _ _ w (Lib.hid fun w => Of_any 1 (by omega) w) (Lib.hid (fMul x y)) (Lib.hid h0) (Lib.hid h1) (Lib.hid n1)
/-- Four residues. -/
structure X4 where
  x : Fin PP
  y : Fin PP
  z : Fin PP
  t : Fin PP
def X4.l (p : X4) : List Nat := [p.x.val, p.y.val, p.z.val, p.t.val]
def X4.sum (p q : X4) : X4 :=
  let one := p.z * q.z
  let d := dF * (p.t * q.t)
  let x := p.x * q.y + p.y * q.x
  let y := p.y * q.y + p.x * q.x
  ⟨x * (one - d), y * (one + d), (one + d) * (one - d), x * y⟩
theorem eadd_any (p q : X4) (r0 r1 r2 r3 : Nat) (w : World) (g gp gq : Nat) (h0 : RAt w g [r0, r1, r2, r3]) (hp : RAt w gp p.l) (hq : RAt w gq q.l) :
    Calls Try.prog 81 #[.pointer (some ⟨g, 0, none⟩), .pointer (some ⟨gp, 0, none⟩), .pointer (some ⟨gq, 0, none⟩)] w (SetsR g (p.sum q).l w) :=
  eadd_core g gp gq r0 r1 r2 r3 p.x.val p.y.val p.z.val p.t.val q.x.val q.y.val q.z.val q.t.val (p.z * q.z).val dF.val (p.t * q.t).val (dF * (p.t * q.t)).val (p.x * q.y).val (p.y * q.x).val (p.x * q.y + p.y * q.x).val (p.y * q.y).val (p.x * q.x).val (p.y * q.y + p.x * q.x).val
    (p.z * q.z + dF * (p.t * q.t)).val (p.z * q.z - dF * (p.t * q.t)).val _ _ _ _ w (Lib.hid (fMul _ _)) (Lib.hid fD) (Lib.hid (fMul _ _)) (Lib.hid (fMul _ _)) (Lib.hid (fMul _ _)) (Lib.hid (fMul _ _)) (Lib.hid (fAdd _ _)) (Lib.hid (fMul _ _)) (Lib.hid (fMul _ _)) (Lib.hid (fAdd _ _)) (Lib.hid (fAdd _ _)) (Lib.hid (fSub _ _))
    (Lib.hid fun w g1 g2 g3 g4 h0 h1 h2 h3 h4 n1 n2 n3 n4 => divide_any _ _ _ _ r0 r1 r2 r3 w g g1 g2 g3 g4 h0 h1 h2 h3 h4 n1 n2 n3 n4) (Lib.hid h0) (Lib.hid hp) (Lib.hid hq)
theorem epoint_any (p : X4) (w : World) (g : Nat) (h : RAt w g p.l) : Calls Try.prog 82 #[.pointer (some ⟨g, 0, none⟩)] w (Gives (vR [(p.x * fInv p.z).val, (p.y * fInv p.z).val]) w) :=
  epoint_core g _ _ _ _ _ _ _ w (Lib.hid (fInvC p.z)) (Lib.hid (fMul _ _)) (Lib.hid (fMul _ _)) (Lib.hid h)
/-- It is the point (x, y). -/
def X4.Is (p : X4) (x y : Fin PP) : Prop := p.z ≠ 0 ∧ p.x = x * p.z ∧ p.y = y * p.z ∧ p.t = x * y * p.z
theorem X4.Is.point {p : X4} {x y : Fin PP} (h : p.Is x y) : p.x * fInv p.z = x ∧ p.y * fInv p.z = y := by
  obtain ⟨h0, h1, h2, _⟩ := h
  have hi := fInv_mul h0
  rw [h1, h2]
  generalize fInv p.z = v at *
  exact ⟨by grind, by grind⟩
theorem X4.Is.sum {p q : X4} {x1 y1 x2 y2 : Fin PP} (hp : p.Is x1 y1) (hq : q.Is x2 y2) (o1 : EC.On x1 y1) (o2 : EC.On x2 y2) : (p.sum q).Is (EC.sx x1 y1 x2 y2) (EC.sy x1 y1 x2 y2) := by
  obtain ⟨p0, p1, p2, p3⟩ := hp
  obtain ⟨q0, q1, q2, q3⟩ := hq
  have e1 := EC.sx_eq o1 o2
  have e2 := EC.sy_eq o1 o2
  have d1 := EC.den1 o1 o2
  have d2 := EC.den2 o1 o2
  have hz : p.z * q.z ≠ 0 := EC.mul_ne p0 q0
  have hd : EC.d = dF := rfl
  rw [hd] at e1 e2 d1 d2
  generalize EC.sx x1 y1 x2 y2 = X at *
  generalize EC.sy x1 y1 x2 y2 = Y at *
  have k1 : p.z * q.z + dF * (p.t * q.t) = p.z * q.z * (1 + dF * (x1 * y1 * (x2 * y2))) := by rw [p3, q3]; grind
  have k2 : p.z * q.z - dF * (p.t * q.t) = p.z * q.z * (1 - dF * (x1 * y1 * (x2 * y2))) := by rw [p3, q3]; grind
  have k3 : p.x * q.y + p.y * q.x = p.z * q.z * (x1 * y2 + y1 * x2) := by rw [p1, p2, q1, q2]; grind
  have k4 : p.y * q.y + p.x * q.x = p.z * q.z * (y1 * y2 + x1 * x2) := by rw [p1, p2, q1, q2]; grind
  unfold X4.Is X4.sum
  simp only
  rw [k1, k2, k3, k4, ← e1, ← e2]
  generalize 1 + dF * (x1 * y1 * (x2 * y2)) = B at *
  generalize 1 - dF * (x1 * y1 * (x2 * y2)) = D at *
  generalize p.z * q.z = z at *
  refine ⟨EC.mul_ne (EC.mul_ne hz d1) (EC.mul_ne hz d2), by grind, by grind, by grind⟩
end Go.Proofs.Ytgdimnbdnepbgaa
/- The curve: across, Bytes, Read. No statement is proved here. -/
namespace Go.Proofs.Ytgdimnbdnepbgaa
open Go.RowKit
set_option linter.unusedVariables false
set_option maxRecDepth 40000
set_option linter.unusedSimpArgs false

theorem under22 : Try.prog.underlying 22 = some (.array 32 5) := by kernel_rfl
theorem size22 : (Try.prog.info? 22).map (·.size) = some 32 := by kernel_rfl
theorem or_top : ∀ t : Nat, t < 128 → bits .or .u8 (t : Int) 128 = ((t + 128 : Nat) : Int) := by decide +kernel
theorem byte_val (c : Nat) (h : c < 256) : Value.int IntKind.u8 ((c : Nat) : Int) = bc (UInt8.ofNat c) := by unfold bc; rw [of_byte, Nat.mod_eq_of_lt h]
theorem zero22 (w : World) : (zeroValue 22).run Try.prog w = .ok (.agg (zbs 32)) w := by kernel_rfl
theorem exec_load22 {o : Oper} {a : Act} {w : World} (x : Operand) (ho : o.op = .load 22 x) (g i off : Nat) (he : off = 32 * i) (l : List Nat) (n : Nat) (hx : a.eval x = .pointer (some ⟨g, off, none⟩)) (hr : RAt w g l) (hn : l[i]? = some n) : (execOp a.eval o).run Try.prog w = .ok (.value (vN n)) w := by
  subst he
  have hl : (loadCells ⟨g, 32 * i, none⟩ (bcs (enc n)).length).run Try.prog w = .ok (bcs (enc n)).toArray w :=
    run_loadCells_list (P := Try.prog) w ⟨g, 32 * i, none⟩ (bcs (enc n)) (fun j v hv => by
      have hadd : (⟨g, 32 * i, none⟩ : Addr).add j = ⟨g, 32 * i + j, none⟩ := by unfold Addr.add; split <;> simp_all
      rw [hadd]
      exact hr.cells i n hn j v hv)
  have hagg : (isAgg 22).run Try.prog w = .ok true w := by
    unfold isAgg
    rw [Sem.run_bind, run_underlying under22 w]
    rfl
  have hq : ∃ i, Try.prog.info? 22 = some i ∧ i.size = 32 := by
    have := size22
    cases h : Try.prog.info? 22 with
    | none => rw [h] at this; simp at this
    | some i => exact ⟨i, rfl, by rw [h] at this; simpa using this⟩
  obtain ⟨k, hi, hs⟩ := hq
  have hrun : (Instr.loadAt 22 (.pointer (some ⟨g, 32 * i, none⟩))).run Try.prog w = .ok (vN n) w := by
    rw [bcs_enc_len] at hl
    simp [Instr.loadAt, Instr.sureAddr, loadVar, Sem.run_bind, hagg, sizeOf, typeInfo, hi, hs, hl]
    rfl
  unfold execOp
  simp only [ho, hx, Sem.run_bind, Sem.run_pure, Result.andThen_ok, hrun]

set_option maxHeartbeats 4000000 in
theorem across_core (y yy dd m s below u q x : Nat) (ok : Bool) (w : World)
    (C0 : Hid (∀ w, Calls Try.prog 17 #[.int .u64 1] w (Gives (vN 1) w)))
    (C1 : Hid (∀ w, Calls Try.prog 25 #[vN y, vN y] w (Gives (vN yy) w)))
    (C2 : Hid (∀ w, Calls Try.prog 45 #[] w (Gives (vN dd) w)))
    (C3 : Hid (∀ w, Calls Try.prog 25 #[vN dd, vN yy] w (Gives (vN m) w)))
    (C4 : Hid (∀ w, Calls Try.prog 19 #[vN m, vN 1] w (Gives (vN s) w)))
    (C5 : Hid (∀ w, Calls Try.prog 29 #[vN s] w (Gives (vN below) w)))
    (C6 : Hid (∀ w, Calls Try.prog 21 #[vN yy, vN 1] w (Gives (vN u) w)))
    (C7 : Hid (∀ w, Calls Try.prog 25 #[vN u, vN below] w (Gives (vN q) w)))
    (C8 : Hid (∀ w, Calls Try.prog 11 #[vN q] w (Gives (.tuple #[vN x, .bool ok]) w))) :
    Calls Try.prog 78 #[vN y] w (Gives (.tuple #[vN x, .bool ok]) w) := by
  have HM0 : Hid (Rws w []) := rw0 w
  have HF0 : Hid (Below w.heap.size w w) := Lib.hid (Below.refl _ _)
  go_enter Try.func78, Try.ntmps78
  go_wp2_with (first | ((with_reducible show wpList _ _ _ (⟨some 1, .box 23 (.tmp 0), _, _, _, _⟩ :: _) _ _); go_must (refine wpList_box_row rfl 23 (.tmp 0) rfl (bcs (enc y)).toArray rfl ?_; intro u1 a1 b1 c1; have HG2 : Hid (w.heap.size ≤ w.heap.size) := Lib.hid HF0.out.size; have HM2 := rwN HM0 (below_of_grownBy c1) (cbS (cs := bcs (enc y)) a1); have HF2 := bT HF0 (below_of_grownBy c1); clear a1 b1 c1 HM0 HF0)) | ((with_reducible show wpList _ _ _ (⟨some 2, .alloc 23, _, _, _, _⟩ :: _) _ _); go_must (refine wpList_alloc_row rfl 23 rfl (.agg (zbs 32)) zero23 ?_; intro u3 a3 b3 c3; have HG4 : Hid (w.heap.size ≤ u1.heap.size) := Lib.hid HF2.out.size; have HM4 := rwN HM2 (below_of_grownBy c3) (cbS (cs := bcs (List.replicate 32 0)) a3); have HF4 := bT HF2 (below_of_grownBy c3); clear a3 b3 c3 HM2 HF2)) | fail)
  generalize u1.heap.size = gr at *
  refine RO.region_once (P := Try.prog) [.val (vN 1), .val (vN y), .val (vN y), .val (vN yy), .new (zbs 32) 23 (bcs (enc 1)).toArray, .new (zbs 32) 23 (bcs (enc yy)).toArray, .put 4, .put 5] 25 (by kernel_rfl) (by kernel_rfl) (by kernel_rfl) (by kernel_rfl) rfl rfl ⟨
    fun γ a_ w_ hb D => vcall 17 [.const (.int .u64 1)] #[24] rfl [.int .u64 1] (hx1 rfl) (CG17 _) C0.out,
    fun γ a_ w_ hb D => .inl (loadN (.tmp 1) rfl (w.heap.size) y (D.2 1 rfl) ((rwG HM4 1 rfl).keep hb)),
    fun γ a_ w_ hb D => .inl (loadN (.tmp 1) rfl (w.heap.size) y (D.2 1 rfl) ((rwG HM4 1 rfl).keep hb)),
    fun γ a_ w_ hb D => vcall 25 [.tmp 8, .tmp 9] #[23, 23] rfl [vN y, vN y] (hx2 (D.1 1 8 rfl rfl) (D.1 2 9 rfl rfl)) (CG25 _) C1.out,
    fun a_ w_ => exec_alloc 23 rfl (.agg (zbs 32)) zero23 w_,
    fun a_ w_ => exec_alloc 23 rfl (.agg (zbs 32)) zero23 w_,
    RO.put_ok rfl (fun γ a_ w_ D hz => fill 23 (.tmp 4) (.tmp 7) rfl (γ 4) (bcs (enc 1)) (bcs (List.replicate 32 0)) (by rw [ce]; exact size23) (by rw [ce]; rfl) (bcs_one' _) (D.1 4 4 rfl rfl) (D.1 0 7 rfl rfl) hz),
    RO.put_ok rfl (fun γ a_ w_ D hz => fill 23 (.tmp 5) (.tmp 10) rfl (γ 5) (bcs (enc yy)) (bcs (List.replicate 32 0)) (by rw [ce]; exact size23) (by rw [ce]; rfl) (bcs_one' _) (D.1 5 5 rfl rfl) (D.1 3 10 rfl rfl) hz),
    trivial⟩ ?_
  intro γ W5 F5
  simp only [RO.lexi, RO.vof, Act.put, List.setIfInBounds_toArray, List.set_cons_zero, List.set_cons_succ, List.getElem?_cons_zero, List.getElem?_cons_succ, List.take_succ_cons, List.take_zero]
  have HG5_4 : Hid (w.heap.size ≤ γ 4) := Lib.hid (Nat.le_trans HF4.out.size (F5.row 4 _ _ _ rfl).1)
  have HG5_5 : Hid (w.heap.size ≤ γ 5) := Lib.hid (Nat.le_trans HF4.out.size (F5.row 5 _ _ _ rfl).1)
  have HM5 := rwD (rwD (rwC HM4 F5.bel) (cbS (cs := bcs (enc 1)) (F5.row 4 _ _ _ rfl).2)) (cbS (cs := bcs (enc yy)) (F5.row 5 _ _ _ rfl).2)
  have HF5 := bT HF4 F5.bel
  clear F5 HM4 HF4
  generalize γ 4 = g4 at *
  generalize γ 5 = g5 at *
  clear γ
  go_wp2_with fail
  refine RO.region_once (P := Try.prog) [.val (vN dd), .val (vN yy), .val (vN m), .val (vN 1), .val (vN s), .val (vN below), .new (zbs 32) 23 (bcs (enc below)).toArray, .put 6] 25 (by kernel_rfl) (by kernel_rfl) (by kernel_rfl) (by kernel_rfl) rfl rfl ⟨
    fun γ a_ w_ hb D => vcall 45 [] #[] rfl [] rfl (CG45 _) C2.out,
    fun γ a_ w_ hb D => .inl (loadN (.tmp 5) rfl (g5) yy (D.2 5 rfl) ((rwG HM5 0 rfl).keep hb)),
    fun γ a_ w_ hb D => vcall 25 [.tmp 11, .tmp 12] #[23, 23] rfl [vN dd, vN yy] (hx2 (D.1 0 11 rfl rfl) (D.1 1 12 rfl rfl)) (CG25 _) C3.out,
    fun γ a_ w_ hb D => .inl (loadN (.tmp 4) rfl (g4) 1 (D.2 4 rfl) ((rwG HM5 1 rfl).keep hb)),
    fun γ a_ w_ hb D => vcall 19 [.tmp 13, .tmp 14] #[23, 23] rfl [vN m, vN 1] (hx2 (D.1 2 13 rfl rfl) (D.1 3 14 rfl rfl)) (CG19 _) C4.out,
    fun γ a_ w_ hb D => vcall 29 [.tmp 15] #[23] rfl [vN s] (hx1 (D.1 4 15 rfl rfl)) (CG29 _) C5.out,
    fun a_ w_ => exec_alloc 23 rfl (.agg (zbs 32)) zero23 w_,
    RO.put_ok rfl (fun γ a_ w_ D hz => fill 23 (.tmp 6) (.tmp 16) rfl (γ 6) (bcs (enc below)) (bcs (List.replicate 32 0)) (by rw [ce]; exact size23) (by rw [ce]; rfl) (bcs_one' _) (D.1 6 6 rfl rfl) (D.1 5 16 rfl rfl) hz),
    trivial⟩ ?_
  intro γ W6 F6
  simp only [RO.lexi, RO.vof, Act.put, List.setIfInBounds_toArray, List.set_cons_zero, List.set_cons_succ, List.getElem?_cons_zero, List.getElem?_cons_succ, List.take_succ_cons, List.take_zero]
  have HG6_6 : Hid (w.heap.size ≤ γ 6) := Lib.hid (Nat.le_trans HF5.out.size (F6.row 6 _ _ _ rfl).1)
  have HM6 := rwD (rwC HM5 F6.bel) (cbS (cs := bcs (enc below)) (F6.row 6 _ _ _ rfl).2)
  have HF6 := bT HF5 F6.bel
  clear F6 HM5 HF5
  generalize γ 6 = g6 at *
  clear γ
  go_wp2_with fail
  refine RO.region_out2 (P := Try.prog) [.val (vN yy), .val (vN 1), .val (vN u), .val (vN below), .val (vN q), .val (.tuple #[vN x, .bool ok]), .val (vN x), .val (.bool ok)] 25 8 rfl (by kernel_rfl) (by kernel_rfl) (by kernel_rfl) (by kernel_rfl) rfl rfl ⟨
    fun γ a_ w_ hb D => .inl (loadN (.tmp 5) rfl (g5) yy (D.2 5 rfl) ((rwG HM6 1 rfl).keep hb)),
    fun γ a_ w_ hb D => .inl (loadN (.tmp 4) rfl (g4) 1 (D.2 4 rfl) ((rwG HM6 2 rfl).keep hb)),
    fun γ a_ w_ hb D => vcall 21 [.tmp 17, .tmp 18] #[23, 23] rfl [vN yy, vN 1] (hx2 (D.1 0 17 rfl rfl) (D.1 1 18 rfl rfl)) (CG21 _) C6.out,
    fun γ a_ w_ hb D => .inl (loadN (.tmp 6) rfl (g6) below (D.2 6 rfl) ((rwG HM6 0 rfl).keep hb)),
    fun γ a_ w_ hb D => vcall 25 [.tmp 19, .tmp 20] #[23, 23] rfl [vN u, vN below] (hx2 (D.1 2 19 rfl rfl) (D.1 3 20 rfl rfl)) (CG25 _) C7.out,
    fun γ a_ w_ hb D => vcall 11 [.tmp 21] #[23] rfl [vN q] (hx1 (D.1 4 21 rfl rfl)) (CG11 _) C8.out,
    fun γ a_ w_ hb D => .inl (exec_extract (.tmp 22) 0 rfl #[vN x, .bool ok] (D.1 5 22 rfl rfl) _ rfl),
    fun γ a_ w_ hb D => .inl (exec_extract (.tmp 22) 1 rfl #[vN x, .bool ok] (D.1 5 22 rfl rfl) _ rfl),
    trivial⟩ (by kernel_rfl) (by kernel_rfl) _ rfl rfl _ rfl (by kernel_rfl) ?_
  intro γ W7 F7
  simp only [RO.lexi, RO.vof, Act.put, List.setIfInBounds_toArray, List.set_cons_zero, List.set_cons_succ, List.getElem?_cons_zero, List.getElem?_cons_succ, List.take_succ_cons, List.take_zero]
  refine exec_putR (w0 := w) 23 (.tmp 2) (.tmp 23) rfl (gr) rfl (bcs (enc x)) (bcs (List.replicate 32 0)) rfl ((rwG HM6 3 rfl).keep F7.bel) (by rw [ce]; exact size23) (by rw [ce]; rfl) (bcs_one' _) (bT HF6 F7.bel).out HG4.out ?_
  intro y7 hc7 hb7
  have HC7 := Lib.hid hc7
  have HF7 := Lib.hid hb7
  clear hc7 hb7 F7 HM6 HF6
  refine ⟨_, exec_moveA (.tmp 24) rfl _ rfl, ?_⟩
  go_wp2_with fail
  obtain ⟨tr, htr⟩ := HC7.out
  exact bodyPost_ret (results_cell2 rfl _ _ (gr) tr (bcs (enc x)).toArray (0, 0) _ rfl htr under23 rfl (by rw [List.size_toArray, ce]; exact size23)) rfl ⟨rfl, HF7.out⟩
set_option maxHeartbeats 4000000 in
theorem Bytes_bad (x y : Nat) (w : World) (C1 : Hid (∀ w, Calls Try.prog 40 #[vR [x, y]] w (Gives (.int .i64 2) w))) :
    Calls Try.prog 36 #[vR [x, y]] w (Gives (.tuple #[vN 0, .int .i64 2]) w) := by
  go_enter Try.func36, Try.ntmps36
  go_wp2_with (first | ((with_reducible show wpList _ _ _ (⟨some 1, .box 35 (.tmp 0), _, _, _, _⟩ :: _) _ _); go_must (refine wpList_box_row rfl 35 (.tmp 0) rfl (bcs (encs [x, y])).toArray rfl ?_; intro a1 h1 z1 g1; have H1 := Lib.hid h1; have Z1 := Lib.hid z1; have G1 := Lib.hid g1; clear h1 z1 g1)) | ((with_reducible show wpList _ _ _ (⟨some 2, .alloc 22, _, _, _, _⟩ :: _) _ _); go_must (refine wpList_alloc_row rfl 22 rfl (.agg (zbs 32)) zero22 ?_; intro a2 h1 z1 g1; have H2 := Lib.hid h1; have Z2 := Lib.hid z1; have G2 := Lib.hid g1; clear h1 z1 g1; have R1 : Hid (RAt a2 w.heap.size [x, y]) := RAt.grown ⟨_, H1.out⟩ G2.out (by simp))) | ((with_reducible show wpList _ _ _ (⟨_, .load 35 (.tmp 1), _, _, _, _⟩ :: _) _ _); go_must (refine wpList_exec rfl (vR [x, y]) (exec_loadP (.tmp 1) rfl (w.heap.size) x y rfl R1.out) ?_)) | fail)
  have HB : Hid (Below w.heap.size w a2) := (below_of_grownBy G1.out).trans ((below_of_grownBy G2.out).mono (by have := Z1.out; omega))
  refine (C1.out _).mono ?_
  rintro e x1 ⟨rfl, hb⟩
  have HR : Hid (x1.heap[a1.heap.size]? = some (.cells (zbs 32) 22 (0, 0))) := Lib.hid ((hb.block _ (Array.getElem?_eq_some_iff.1 H2.out).1).trans H2.out)
  have HBel := Lib.hid (HB.out.trans (hb.mono HB.out.size))
  have HGE : Hid (w.heap.size ≤ a1.heap.size) := Lib.hid (by have := Z1.out; omega)
  clear hb HB H1 Z1 G1 H2 Z2 G2 R1
  go_wp2_with (first | ((with_reducible show wpList _ _ _ (⟨_, .build 22 _, _, _, _, _⟩ :: _) _ _); go_must (refine wpList_exec rfl (vN 0) (exec_buildc rfl (by kernel_rfl)) ?_)) | ((with_reducible show wpList _ _ _ (⟨none, .store 22 (.tmp 2) (.tmp 10), _, _, _, _⟩ :: _) _ _); go_must (refine wpList_store_all rfl 22 (.tmp 2) (.tmp 10) rfl (a1.heap.size) rfl (bcs (enc 0)).toArray rfl 22 _ HR.out (by rw [List.size_toArray, bcs_enc_len]; exact size22) (by rw [List.size_toArray, bcs_enc_len]; rfl) (bcs_one _) ?_; intro b5 hh hg hz; have HH5 := Lib.hid hh; have HG5 := Lib.hid hg; have HZ5 := Lib.hid hz; clear hh hg hz)) | fail)
  exact bodyPost_ret (results_cell2 rfl _ _ a1.heap.size 22 (bcs (enc 0)).toArray (0, 0) _ rfl HH5.out under22 rfl (by rw [List.size_toArray, bcs_enc_len]; exact size22)) rfl ⟨rfl, HBel.out.grown HG5.out HBel.out.size (fun r hr => by injection hr with hr; have := HGE.out; omega)⟩

set_option maxHeartbeats 4000000 in
theorem Bytes_core (x y r : Nat) (o : Bool) (w : World) (C1 : Hid (∀ w, Calls Try.prog 40 #[vR [x, y]] w (Gives (.int .i64 0) w))) (C2 : Hid (∀ w, Calls Try.prog 31 #[vN x] w (Gives (.bool o) w)))
    (HR : Hid (if o then (enc y).set 31 (UInt8.ofNat (((enc y).getD 31 0).toNat + 128)) = enc r else y = r)) (HY : Hid (((enc y).getD 31 0).toNat < 128)) :
    Calls Try.prog 36 #[vR [x, y]] w (Gives (.tuple #[vN r, .int .i64 0]) w) := by
  go_enter Try.func36, Try.ntmps36
  go_wp2_with (first | ((with_reducible show wpList _ _ _ (⟨some 1, .box 35 (.tmp 0), _, _, _, _⟩ :: _) _ _); go_must (refine wpList_box_row rfl 35 (.tmp 0) rfl (bcs (encs [x, y])).toArray rfl ?_; intro a1 h1 z1 g1; have H1 := Lib.hid h1; have Z1 := Lib.hid z1; have G1 := Lib.hid g1; clear h1 z1 g1)) | ((with_reducible show wpList _ _ _ (⟨some 2, .alloc 22, _, _, _, _⟩ :: _) _ _); go_must (refine wpList_alloc_row rfl 22 rfl (.agg (zbs 32)) zero22 ?_; intro a2 h1 z1 g1; have H2 := Lib.hid h1; have Z2 := Lib.hid z1; have G2 := Lib.hid g1; clear h1 z1 g1; have R1 : Hid (RAt a2 w.heap.size [x, y]) := RAt.grown ⟨_, H1.out⟩ G2.out (by simp))) | ((with_reducible show wpList _ _ _ (⟨_, .load 35 (.tmp 1), _, _, _, _⟩ :: _) _ _); go_must (refine wpList_exec rfl (vR [x, y]) (exec_loadP (.tmp 1) rfl (w.heap.size) x y rfl R1.out) ?_)) | fail)
  have HB : Hid (Below w.heap.size w a2) := (below_of_grownBy G1.out).trans ((below_of_grownBy G2.out).mono (by have := Z1.out; omega))
  refine (C1.out _).mono ?_
  rintro e x1 ⟨rfl, hb⟩
  have HR1 : Hid (x1.heap[a1.heap.size]? = some (.cells (zbs 32) 22 (0, 0))) := Lib.hid ((hb.block _ (Array.getElem?_eq_some_iff.1 H2.out).1).trans H2.out)
  have R2 := Lib.hid (R1.out.keep hb)
  have HBel := Lib.hid (HB.out.trans (hb.mono HB.out.size))
  have HGE : Hid (w.heap.size < a1.heap.size) := Lib.hid (by have := Z1.out; omega)
  clear hb HB H1 Z1 G1 H2 Z2 G2 R1
  generalize a1.heap.size = gr at *
  go_wp2_with (first | ((with_reducible show wpList _ _ _ (⟨_, .load 23 (.tmp 12), _, _, _, _⟩ :: _) _ _); go_must (refine wpList_exec rfl (vN y) (exec_loadF (.tmp 12) rfl (w.heap.size) 1 32 rfl [x, y] y rfl R2.out rfl) ?_)) | ((with_reducible show wpList _ _ _ (⟨some 5, .alloc 22, _, _, _, _⟩ :: _) _ _); go_must (refine wpList_alloc_row rfl 22 rfl (.agg (zbs 32)) zero22 ?_; intro a5 h1 z1 g1; have H5 := Lib.hid h1; have Z5 := Lib.hid z1; have G5 := Lib.hid g1; clear h1 z1 g1)) | ((with_reducible show wpList _ _ _ (⟨none, .store 22 (.tmp 5) (.tmp 13), _, _, _, _⟩ :: _) _ _); go_must (refine wpList_store_all rfl 22 (.tmp 5) (.tmp 13) rfl (x1.heap.size) rfl (bcs (enc y)).toArray rfl 22 _ H5.out (by rw [List.size_toArray, bcs_enc_len]; exact size22) (by rw [List.size_toArray, bcs_enc_len]; rfl) (bcs_one _) ?_; intro b6 hh hg hz; have HH6 := Lib.hid hh; have HG6 := Lib.hid hg; have HZ6 := Lib.hid hz; clear hh hg hz; have R3 := Lib.hid ((R2.out.grown G5.out (by simp)).grown HG6.out (by have := R2.out.lt; simp; omega)))) | ((with_reducible show wpList _ _ _ (⟨_, .load 23 (.tmp 14), _, _, _, _⟩ :: _) _ _); go_must (refine wpList_exec rfl (vN x) (exec_loadF (.tmp 14) rfl (w.heap.size) 0 0 rfl [x, y] x rfl R3.out rfl) ?_)) | fail)
  have HR2 : Hid (b6.heap[gr]? = some (.cells (zbs 32) 22 (0, 0))) := Lib.hid ((HG6.out.block _ (by have := (Array.getElem?_eq_some_iff.1 HR1.out).1; have := G5.out.size; omega) (by have := (Array.getElem?_eq_some_iff.1 HR1.out).1; simp; omega)).trans ((G5.out.block _ (Array.getElem?_eq_some_iff.1 HR1.out).1 (by simp)).trans HR1.out))
  have HB6 : Hid (Below w.heap.size w b6) := Lib.hid ((HBel.out.grown G5.out HBel.out.size (by simp)).grown HG6.out (by have := HBel.out.size; have := Z5.out; omega) (fun r hr => by injection hr with hr; have := HBel.out.size; omega))
  have HNE : Hid (gr < x1.heap.size) := Lib.hid (Array.getElem?_eq_some_iff.1 HR1.out).1
  clear HR1 HBel H5 Z5 G5 HG6 HZ6 R2 R3
  generalize x1.heap.size = gb at *
  refine (C2.out _).mono ?_
  rintro e x2 ⟨rfl, hb⟩
  have HRow : Hid (x2.heap[gb]? = some (.cells (bcs (enc y)).toArray 22 (0, 0))) := Lib.hid ((hb.block _ (Array.getElem?_eq_some_iff.1 HH6.out).1).trans HH6.out)
  have HR3 : Hid (x2.heap[gr]? = some (.cells (zbs 32) 22 (0, 0))) := Lib.hid ((hb.block _ (Array.getElem?_eq_some_iff.1 HR2.out).1).trans HR2.out)
  have HB7 := Lib.hid (HB6.out.trans (hb.mono HB6.out.size))
  clear hb HB6 HR2 HH6
  cases o
  · obtain rfl : y = r := HR.out
    go_wp2_with (first | ((with_reducible show wpList _ _ _ (⟨_, .load 22 (.tmp 5), _, _, _, _⟩ :: _) _ _); go_must (refine wpList_load_arr rfl 22 (.tmp 5) rfl gb 0 rfl (bcs (enc y)) (fun i u hu => by rw [Nat.zero_add]; exact row_cells HRow.out i u (by simpa using hu)) _ under22 rfl (by rw [bcs_enc_len]; exact size22) ?_)) | ((with_reducible show wpList _ _ _ (⟨none, .store 22 (.tmp 2) (.tmp 21), _, _, _, _⟩ :: _) _ _); go_must (refine wpList_store_all rfl 22 (.tmp 2) (.tmp 21) rfl (gr) rfl (bcs (enc y)).toArray rfl 22 _ HR3.out (by rw [List.size_toArray, bcs_enc_len]; exact size22) (by rw [List.size_toArray, bcs_enc_len]; rfl) (bcs_one _) ?_; intro b8 hh hg hz; have HH8 := Lib.hid hh; have HG8 := Lib.hid hg; have HZ8 := Lib.hid hz; clear hh hg hz)) | fail)
    exact bodyPost_ret (results_cell2 rfl _ _ gr 22 (bcs (enc y)).toArray (0, 0) _ rfl HH8.out under22 rfl (by rw [List.size_toArray, bcs_enc_len]; exact size22)) rfl ⟨rfl, HB7.out.grown HG8.out HB7.out.size (fun r hr => by injection hr with hr; have := HGE.out; omega)⟩
  · have hr : (enc y).set 31 (UInt8.ofNat (((enc y).getD 31 0).toNat + 128)) = enc r := HR.out
    have HRR := Lib.hid hr
    clear hr HR
    have c0 : x2.cell? ⟨gb, 31, none⟩ = some (.int .u8 (((enc y).getD 31 0).toNat : Nat)) := (show BAt x2 gb (enc y) from ⟨enc_len y, 22, HRow.out⟩).cell 31 (by omega)
    generalize ((enc y).getD 31 0).toNat = t at *
    go_wp2_with (first | ((with_reducible show wpList _ _ _ (⟨none, .store 5 (.tmp 20) (.tmp 19), _, _, _, _⟩ :: _) _ _); go_must (refine wpList_store_one rfl 5 (.tmp 20) (.tmp 19) rfl gb 31 rfl .u8 _ rfl 22 _ HRow.out size5 (by simp only [List.size_toArray, bcs_enc_len]; omega) ?_; intro b9 hh hg hz; rw [or_top t HY.out, byte_val (t + 128) (by have := HY.out; omega), bcs_put, HRR.out] at hh; have HH9 := Lib.hid hh; have HR4 : Hid (b9.heap[gr]? = some (.cells (zbs 32) 22 (0, 0))) := Lib.hid ((hg.block _ (Array.getElem?_eq_some_iff.1 HR3.out).1 (by have := HNE.out; simp; omega)).trans HR3.out); have HB8 : Hid (Below w.heap.size w b9) := Lib.hid (HB7.out.grown hg HB7.out.size (fun r hr => by injection hr with hr; have := HGE.out; have := HNE.out; omega)); clear hh hg hz HR3 HB7 HRow)) | ((with_reducible show wpList _ _ _ (⟨_, .load 22 (.tmp 5), _, _, _, _⟩ :: _) _ _); go_must (refine wpList_load_arr rfl 22 (.tmp 5) rfl gb 0 rfl (bcs (enc r)) (fun i u hu => by rw [Nat.zero_add]; exact row_cells HH9.out i u (by simpa using hu)) _ under22 rfl (by rw [bcs_enc_len]; exact size22) ?_)) | ((with_reducible show wpList _ _ _ (⟨none, .store 22 (.tmp 2) (.tmp 21), _, _, _, _⟩ :: _) _ _); go_must (refine wpList_store_all rfl 22 (.tmp 2) (.tmp 21) rfl (gr) rfl (bcs (enc r)).toArray rfl 22 _ HR4.out (by rw [List.size_toArray, bcs_enc_len]; exact size22) (by rw [List.size_toArray, bcs_enc_len]; rfl) (bcs_one _) ?_; intro b8 hh hg hz; have HH8 := Lib.hid hh; have HG8 := Lib.hid hg; have HZ8 := Lib.hid hz; clear hh hg hz)) | fail)
    exact bodyPost_ret (results_cell2 rfl _ _ gr 22 (bcs (enc r)).toArray (0, 0) _ rfl HH8.out under22 rfl (by rw [List.size_toArray, bcs_enc_len]; exact size22)) rfl ⟨rfl, HB8.out.grown HG8.out HB8.out.size (fun r hr => by injection hr with hr; have := HGE.out; omega)⟩
end Go.Proofs.Ytgdimnbdnepbgaa
/- Rows of cells, all of them in one fact; words of ten and points by three of them. No statement is proved here. -/
namespace Go.Proofs.Ytgdimnbdnepbgaa
open Go.RowKit
set_option linter.unusedVariables false
set_option maxRecDepth 40000
set_option linter.unusedSimpArgs false

/-- Words. -/
theorem exec_loadJ {o : Oper} {a : Act} {w : World} (ty : TypeId) (m : Nat) (hu : ∀ w, (isAgg ty).run Try.prog w = .ok true w) (hs : (Try.prog.info? ty).map (·.size) = some m) (x : Operand) (ho : o.op = .load ty x) (g off : Nat) (l n : List Nat) (hx : a.eval x = .pointer (some ⟨g, off, none⟩)) (hr : CAt w g (ics l)) (hn : ∀ i u, n[i]? = some u → l[off + i]? = some u) (hl : n.length = m) : (execOp a.eval o).run Try.prog w = .ok (.value (.agg (ics n).toArray)) w := by
  obtain ⟨t, ht⟩ := hr
  have hl' : (loadCells ⟨g, off, none⟩ (ics n).length).run Try.prog w = .ok (ics n).toArray w :=
    run_loadCells_list (P := Try.prog) w ⟨g, off, none⟩ (ics n) (fun j v hv => by
      have hadd : (⟨g, off, none⟩ : Addr).add j = ⟨g, off + j, none⟩ := by unfold Addr.add; split <;> simp_all
      rw [hadd]
      rw [ics_get] at hv
      cases hq : n[j]? with
      | none => rw [hq] at hv; cases hv
      | some u =>
        rw [hq] at hv
        have h2 := hn j u hq
        refine row_cells ht (off + j) v ?_
        rw [List.toList_toArray, ics_get, h2]
        exact hv)
  have hagg := hu w
  have hq : ∃ i, Try.prog.info? ty = some i ∧ i.size = m := by
    cases h : Try.prog.info? ty with
    | none => rw [h] at hs; simp at hs
    | some i => exact ⟨i, rfl, by rw [h] at hs; simpa using hs⟩
  obtain ⟨k', hi, hsz⟩ := hq
  have hrun : (Instr.loadAt ty (.pointer (some ⟨g, off, none⟩))).run Try.prog w = .ok (.agg (ics n).toArray) w := by
    rw [ics_len, hl] at hl'
    simp [Instr.loadAt, Instr.sureAddr, loadVar, Sem.run_bind, hagg, sizeOf, typeInfo, hi, hsz, hl']
  unfold execOp
  simp only [ho, hx, Sem.run_bind, Sem.run_pure, Result.andThen_ok, hrun]
theorem agg83 (w : World) : (isAgg 83).run Try.prog w = .ok true w := by kernel_rfl
theorem agg65 (w : World) : (isAgg 65).run Try.prog w = .ok true w := by kernel_rfl
theorem size83 : (Try.prog.info? 83).map (·.size) = some 30 := by kernel_rfl
def zi30 : List Value := ics (List.replicate 30 0)
def zi10 : List Value := ics (List.replicate 10 0)
theorem zero83 (w : World) : (zeroValue 83).run Try.prog w = .ok (.agg zi30.toArray) w := by kernel_rfl
theorem fld83_0 (g : Nat) (w : World) : (Instr.fieldAt 83 (.pointer (some ⟨g, 0, none⟩)) 0).run Try.prog w = .ok (.pointer (some ⟨g, 0, none⟩)) w := by kernel_rfl
theorem fld83_1 (g : Nat) (w : World) : (Instr.fieldAt 83 (.pointer (some ⟨g, 0, none⟩)) 1).run Try.prog w = .ok (.pointer (some ⟨g, 10, none⟩)) w := by kernel_rfl
theorem fld83_2 (g : Nat) (w : World) : (Instr.fieldAt 83 (.pointer (some ⟨g, 0, none⟩)) 2).run Try.prog w = .ok (.pointer (some ⟨g, 20, none⟩)) w := by kernel_rfl
/-- A far point's words. -/
def fw (x y z : List Nat) : List Nat := x ++ (y ++ z)
theorem fw_len {x y z : List Nat} (hx : x.length = 10) (hy : y.length = 10) (hz : z.length = 10) : (ics (fw x y z)).length = 30 := by rw [ics_len]; unfold fw; rw [List.length_append, List.length_append, hx, hy, hz]
theorem ile {x : List Nat} (hx : x.length = 10) : (ics x).length = 10 := by rw [ics_len, hx]
theorem build83 (x y z : List Nat) (hx : x.length = 10) (hy : y.length = 10) (hz : z.length = 10) (w : World) : (Instr.build 83 #[(0, .agg (ics x).toArray), (1, .agg (ics y).toArray), (2, .agg (ics z).toArray)]).run Try.prog w = .ok (.agg (ics (fw x y z)).toArray) w := by
  obtain ⟨a0, a1, a2, a3, a4, a5, a6, a7, a8, a9, rfl⟩ : ∃ a0 a1 a2 a3 a4 a5 a6 a7 a8 a9, x = [a0, a1, a2, a3, a4, a5, a6, a7, a8, a9] := by
    match x, hx with
    | [a0, a1, a2, a3, a4, a5, a6, a7, a8, a9], _ => exact ⟨_, _, _, _, _, _, _, _, _, _, rfl⟩
  obtain ⟨b0, b1, b2, b3, b4, b5, b6, b7, b8, b9, rfl⟩ : ∃ a0 a1 a2 a3 a4 a5 a6 a7 a8 a9, y = [a0, a1, a2, a3, a4, a5, a6, a7, a8, a9] := by
    match y, hy with
    | [a0, a1, a2, a3, a4, a5, a6, a7, a8, a9], _ => exact ⟨_, _, _, _, _, _, _, _, _, _, rfl⟩
  obtain ⟨c0, c1, c2, c3, c4, c5, c6, c7, c8, c9, rfl⟩ : ∃ a0 a1 a2 a3 a4 a5 a6 a7 a8 a9, z = [a0, a1, a2, a3, a4, a5, a6, a7, a8, a9] := by
    match z, hz with
    | [a0, a1, a2, a3, a4, a5, a6, a7, a8, a9], _ => exact ⟨_, _, _, _, _, _, _, _, _, _, rfl⟩
  kernel_rfl
theorem exec_build83 {o : Oper} {a : Act} {w : World} (p q r : Operand) (ho : o.op = .build 83 #[(0, p), (1, q), (2, r)]) (x y z : List Nat) (hp : a.eval p = .agg (ics x).toArray) (hq : a.eval q = .agg (ics y).toArray) (hr : a.eval r = .agg (ics z).toArray) (hx : x.length = 10) (hy : y.length = 10) (hz : z.length = 10) :
    (execOp a.eval o).run Try.prog w = .ok (.value (.agg (ics (fw x y z)).toArray)) w := by
  unfold execOp
  simp only [ho, List.map_toArray, List.map_cons, List.map_nil, Sem.run_bind, Sem.run_pure, hp, hq, hr]
  rw [build83 x y z hx hy hz w]
  rfl
section
variable {o : Oper} {a : Act} {w : World}
theorem loadW (x : Operand) (ho : o.op = .load 65 x) (g : Nat) (n : List Nat) (hx : a.eval x = .pointer (some ⟨g, 0, none⟩)) (hr : CAt w g (ics n)) (hl : n.length = 10) : (execOp a.eval o).run Try.prog w = .ok (.value (.agg (ics n).toArray)) w :=
  exec_loadJ 65 10 agg65 size65 x ho g 0 n n hx hr (fun i u h => by rw [Nat.zero_add]; exact h) hl
theorem loadQ (x : Operand) (ho : o.op = .load 83 x) (g : Nat) (p q r : List Nat) (hx : a.eval x = .pointer (some ⟨g, 0, none⟩)) (hr : CAt w g (ics (fw p q r))) (hp : p.length = 10) (hq : q.length = 10) (hz : r.length = 10) : (execOp a.eval o).run Try.prog w = .ok (.value (.agg (ics (fw p q r)).toArray)) w :=
  exec_loadJ 83 30 agg83 size83 x ho g 0 _ _ hx hr (fun i u h => by rw [Nat.zero_add]; exact h) (by have := fw_len hp hq hz; rwa [ics_len] at this)
theorem load0 (x : Operand) (ho : o.op = .load 65 x) (g : Nat) (p q r : List Nat) (hx : a.eval x = .pointer (some ⟨g, 0, none⟩)) (hr : CAt w g (ics (fw p q r))) (hp : p.length = 10) : (execOp a.eval o).run Try.prog w = .ok (.value (.agg (ics p).toArray)) w :=
  exec_loadJ 65 10 agg65 size65 x ho g 0 _ p hx hr (fun i u h => by
    have := (List.getElem?_eq_some_iff.1 h).1
    unfold fw
    rw [Nat.zero_add, List.getElem?_append_left this]; exact h) hp
theorem load1 (x : Operand) (ho : o.op = .load 65 x) (g : Nat) (p q r : List Nat) (hx : a.eval x = .pointer (some ⟨g, 10, none⟩)) (hr : CAt w g (ics (fw p q r))) (hp : p.length = 10) (hq : q.length = 10) : (execOp a.eval o).run Try.prog w = .ok (.value (.agg (ics q).toArray)) w :=
  exec_loadJ 65 10 agg65 size65 x ho g 10 _ q hx hr (fun i u h => by
    have := (List.getElem?_eq_some_iff.1 h).1
    unfold fw
    rw [List.getElem?_append_right (by omega), hp, Nat.add_sub_cancel_left, List.getElem?_append_left this]; exact h) hq
theorem load2 (x : Operand) (ho : o.op = .load 65 x) (g : Nat) (p q r : List Nat) (hx : a.eval x = .pointer (some ⟨g, 20, none⟩)) (hr : CAt w g (ics (fw p q r))) (hp : p.length = 10) (hq : q.length = 10) (hz : r.length = 10) : (execOp a.eval o).run Try.prog w = .ok (.value (.agg (ics r).toArray)) w :=
  exec_loadJ 65 10 agg65 size65 x ho g 20 _ r hx hr (fun i u h => by
    have := (List.getElem?_eq_some_iff.1 h).1
    unfold fw
    rw [List.getElem?_append_right (by omega), hp, show 20 + i - 10 = 10 + i by omega, List.getElem?_append_right (by omega), hq, Nat.add_sub_cancel_left]; exact h) hz
end
end Go.Proofs.Ytgdimnbdnepbgaa
/- The reference's points by three: Mul, near, away, plus. No statement is proved here. -/
namespace Go.Proofs.Ytgdimnbdnepbgaa
open Go.RowKit
set_option linter.unusedVariables false
set_option maxRecDepth 40000
set_option linter.unusedSimpArgs false

set_option maxHeartbeats 600000 in
theorem rMul_P (k px py zx zy rx ry : Nat) (w : World)
    (C0 : Hid (∀ w, Calls Try.prog 84 #[] w (Gives (vR [zx, zy]) w)))
    (C1 : Hid (∀ w, Calls Try.prog 54 #[vN k, vR [px, py], vN 0, vR [zx, zy]] w (Gives (vR [rx, ry]) w))) :
    Calls Try.prog 55 #[vN k, vR [px, py]] w (Gives (vR [rx, ry]) w) := by
  have HM0 : Hid (Rws w []) := rw0 w
  have HF0 : Hid (Below w.heap.size w w) := Lib.hid (Below.refl _ _)
  go_enter Try.func55, Try.ntmps55
  go_wp2_with (first | ((with_reducible show wpList _ _ _ (⟨some 2, .box 23 (.tmp 0), _, _, _, _⟩ :: _) _ _); go_must (refine wpList_box_row rfl 23 (.tmp 0) rfl (bcs (enc k)).toArray rfl ?_; intro u1 a1 b1 c1; have HG2 : Hid (w.heap.size ≤ w.heap.size) := Lib.hid HF0.out.size; have HM2 := rwN HM0 (below_of_grownBy c1) (cbS (cs := bcs (enc k)) a1); have HF2 := bT HF0 (below_of_grownBy c1); clear a1 b1 c1 HM0 HF0)) | ((with_reducible show wpList _ _ _ (⟨some 3, .box 35 (.tmp 1), _, _, _, _⟩ :: _) _ _); go_must (refine wpList_box_row rfl 35 (.tmp 1) rfl (bcs (encs [px, py])).toArray rfl ?_; intro u3 a3 b3 c3; have HG4 : Hid (w.heap.size ≤ u1.heap.size) := Lib.hid HF2.out.size; have HM4 := rwN HM2 (below_of_grownBy c3) (cbS (cs := bcs (encs [px, py])) a3); have HF4 := bT HF2 (below_of_grownBy c3); clear a3 b3 c3 HM2 HF2)) | ((with_reducible show wpList _ _ _ (⟨some 4, .alloc 35, _, _, _, _⟩ :: _) _ _); go_must (refine wpList_alloc_row rfl 35 rfl (.agg (zbs 64)) zero35 ?_; intro u5 a5 b5 c5; have HG6 : Hid (w.heap.size ≤ u3.heap.size) := Lib.hid HF4.out.size; have HM6 := rwN HM4 (below_of_grownBy c5) (cbS (cs := bcs (List.replicate 64 0)) a5); have HF6 := bT HF4 (below_of_grownBy c5); clear a5 b5 c5 HM4 HF4)) | fail)
  generalize u1.heap.size = gp at *
  generalize u3.heap.size = gr at *
  refine RO.region_out (P := Try.prog) [.val (vN k), .val (vR [px, py]), .val (vN 0), .val (vR [zx, zy]), .val (vR [rx, ry])] 10 5 rfl (by kernel_rfl) (by kernel_rfl) (by kernel_rfl) (by kernel_rfl) rfl rfl ⟨
    fun γ a_ w_ hb D => .inl (loadN (.tmp 2) rfl (w.heap.size) k (D.2 2 rfl) ((rwG HM6 2 rfl).keep hb)),
    fun γ a_ w_ hb D => .inl (loadP (.tmp 3) rfl (gp) px py (D.2 3 rfl) ((rwG HM6 1 rfl).keep hb)),
    fun γ a_ w_ hb D => .inl (exec_build0 rfl),
    fun γ a_ w_ hb D => vcall 84 [] #[] rfl [] rfl (CG84 _) C0.out,
    fun γ a_ w_ hb D => vcall 54 [.tmp 5, .tmp 6, .tmp 7, .tmp 8] #[23, 35, 23, 35] rfl [vN k, vR [px, py], vN 0, vR [zx, zy]] (hx4 (D.1 0 5 rfl rfl) (D.1 1 6 rfl rfl) (D.1 2 7 rfl rfl) (D.1 3 8 rfl rfl)) (CG54 _) C1.out,
    trivial⟩ (by kernel_rfl) _ rfl rfl ?_
  intro γ W7 F7
  simp only [RO.lexi, RO.vof, Act.put, List.setIfInBounds_toArray, List.set_cons_zero, List.set_cons_succ, List.getElem?_cons_zero, List.getElem?_cons_succ, List.take_succ_cons, List.take_zero]
  refine exec_putR (w0 := w) 35 (.tmp 4) (.tmp 9) rfl (gr) rfl (bcs (encs [rx, ry])) (bcs (List.replicate 64 0)) rfl ((rwG HM6 0 rfl).keep F7.bel) (by rw [cr]; exact size35) (by rw [cr]; rfl) (bcs_one' _) (bT HF6 F7.bel).out HG6.out ?_
  intro y7 hc7 hb7
  have HC7 := Lib.hid hc7
  have HF7 := Lib.hid hb7
  clear hc7 hb7 F7 HM6 HF6
  go_wp2_with fail
  obtain ⟨tr, htr⟩ := HC7.out
  exact bodyPost_ret (results_cell_row rfl _ _ (gr) tr (bcs (encs [rx, ry])).toArray _ _ rfl htr Try.underlying35 rfl (by rw [List.size_toArray, cr]; exact size35)) rfl ⟨rfl, HF7.out⟩

set_option maxHeartbeats 600000 in
theorem near_core (x y z : List Nat) (c i a m b n : Nat) (w : World)
    (Lx : Hid (x.length = 10))
    (Ly : Hid (y.length = 10))
    (Lz : Hid (z.length = 10))
    (C0 : Hid (∀ w, Calls Try.prog 67 #[.agg (ics z).toArray] w (Gives (vN c) w)))
    (C1 : Hid (∀ w, Calls Try.prog 30 #[vN c] w (Gives (vN i) w)))
    (C2 : Hid (∀ w, Calls Try.prog 67 #[.agg (ics x).toArray] w (Gives (vN a) w)))
    (C3 : Hid (∀ w, Calls Try.prog 26 #[vN a, vN i] w (Gives (vN m) w)))
    (C4 : Hid (∀ w, Calls Try.prog 67 #[.agg (ics y).toArray] w (Gives (vN b) w)))
    (C5 : Hid (∀ w, Calls Try.prog 26 #[vN b, vN i] w (Gives (vN n) w))) :
    Calls Try.prog 85 #[.agg (ics (fw x y z)).toArray] w (Gives (vR [m, n]) w) := by
  have HM0 : Hid (Rws w []) := rw0 w
  have HF0 : Hid (Below w.heap.size w w) := Lib.hid (Below.refl _ _)
  go_enter Try.func85, Try.ntmps85
  go_wp2_with (first | ((with_reducible show wpList _ _ _ (⟨some 1, .box 83 (.tmp 0), _, _, _, _⟩ :: _) _ _); go_must (refine wpList_box_row rfl 83 (.tmp 0) rfl (ics (fw x y z)).toArray rfl ?_; intro u1 a1 b1 c1; have HG2 : Hid (w.heap.size ≤ w.heap.size) := Lib.hid HF0.out.size; have HM2 := rwN HM0 (below_of_grownBy c1) (cbS (cs := ics (fw x y z)) a1); have HF2 := bT HF0 (below_of_grownBy c1); clear a1 b1 c1 HM0 HF0)) | ((with_reducible show wpList _ _ _ (⟨some 2, .alloc 35, _, _, _, _⟩ :: _) _ _); go_must (refine wpList_alloc_row rfl 35 rfl (.agg (zbs 64)) zero35 ?_; intro u3 a3 b3 c3; have HG4 : Hid (w.heap.size ≤ u1.heap.size) := Lib.hid HF2.out.size; have HM4 := rwN HM2 (below_of_grownBy c3) (cbS (cs := bcs (List.replicate 64 0)) a3); have HF4 := bT HF2 (below_of_grownBy c3); clear a3 b3 c3 HM2 HF2)) | ((with_reducible show wpList _ _ _ (⟨some 5, .load 65 (.tmp 4), _, _, _, _⟩ :: _) _ _); go_must (refine wpList_exec rfl (.agg (ics z).toArray) (load2 (.tmp 4) rfl (w.heap.size) x y z rfl (rwG HM4 1 rfl) Lx.out Ly.out Lz.out) ?_)) | fail)
  generalize u1.heap.size = gr at *
  refine (C0.out _).mono ?_
  rintro e5 x5 ⟨rfl, hb5⟩
  have HM5 := rwC HM4 hb5
  have HF5 := bT HF4 hb5
  clear hb5 HM4 HF4
  go_wp2_with fail
  refine (C1.out _).mono ?_
  rintro e6 x6 ⟨rfl, hb6⟩
  have HM6 := rwC HM5 hb6
  have HF6 := bT HF5 hb6
  clear hb6 HM5 HF5
  go_wp2_with (first | ((with_reducible show wpList _ _ _ (⟨some 3, .alloc 23, _, _, _, _⟩ :: _) _ _); go_must (refine wpList_mk rfl 23 rfl (zbs 32) zero23 (.tmp 3) (.tmp 7) rfl (bcs (enc i)) rfl rfl rfl (by rw [ce]; exact size23) (Eq.symm (by rw [ce]; rfl)) (bcs_one' _) ?_; intro y7 a7 b7; have HG8 : Hid (w.heap.size ≤ x6.heap.size) := Lib.hid HF6.out.size; have HM8 := rwN HM6 b7 a7; have HF8 := bT HF6 b7; clear a7 b7 HM6 HF6)) | fail)
  generalize x6.heap.size = gi at *
  refine RO.region_out (P := Try.prog) [.val (.pointer (some ⟨w.heap.size, 0, none⟩)), .val (.agg (ics x).toArray), .val (vN a), .val (vN i), .val (vN m), .val (.pointer (some ⟨w.heap.size, 10, none⟩)), .val (.agg (ics y).toArray), .val (vN b), .val (vN i), .val (vN n), .val (vR [m, n])] 19 11 rfl (by kernel_rfl) (by kernel_rfl) (by kernel_rfl) (by kernel_rfl) rfl rfl ⟨
    fun γ a_ w_ hb D => .inl (exec_field 83 (.tmp 1) 0 rfl (w.heap.size) 0 (D.2 1 rfl) (fld83_0 _)),
    fun γ a_ w_ hb D => .inl (load0 (.tmp 8) rfl (w.heap.size) x y z (D.1 0 8 rfl rfl) ((rwG HM8 2 rfl).keep hb) Lx.out),
    fun γ a_ w_ hb D => vcall 67 [.tmp 9] #[65] rfl [.agg (ics x).toArray] (hx1 (D.1 1 9 rfl rfl)) (CG67 _) C2.out,
    fun γ a_ w_ hb D => .inl (loadN (.tmp 3) rfl (gi) i (D.2 3 rfl) ((rwG HM8 0 rfl).keep hb)),
    fun γ a_ w_ hb D => vcall 26 [.tmp 10, .tmp 11] #[23, 23] rfl [vN a, vN i] (hx2 (D.1 2 10 rfl rfl) (D.1 3 11 rfl rfl)) (CG26 _) C3.out,
    fun γ a_ w_ hb D => .inl (exec_field 83 (.tmp 1) 1 rfl (w.heap.size) 10 (D.2 1 rfl) (fld83_1 _)),
    fun γ a_ w_ hb D => .inl (load1 (.tmp 13) rfl (w.heap.size) x y z (D.1 5 13 rfl rfl) ((rwG HM8 2 rfl).keep hb) Lx.out Ly.out),
    fun γ a_ w_ hb D => vcall 67 [.tmp 14] #[65] rfl [.agg (ics y).toArray] (hx1 (D.1 6 14 rfl rfl)) (CG67 _) C4.out,
    fun γ a_ w_ hb D => .inl (loadN (.tmp 3) rfl (gi) i (D.2 3 rfl) ((rwG HM8 0 rfl).keep hb)),
    fun γ a_ w_ hb D => vcall 26 [.tmp 15, .tmp 16] #[23, 23] rfl [vN b, vN i] (hx2 (D.1 7 15 rfl rfl) (D.1 8 16 rfl rfl)) (CG26 _) C5.out,
    fun γ a_ w_ hb D => .inl (exec_build35 (.tmp 12) (.tmp 17) m n rfl (D.1 4 12 rfl rfl) (D.1 9 17 rfl rfl)),
    trivial⟩ (by kernel_rfl) _ rfl rfl ?_
  intro γ W9 F9
  simp only [RO.lexi, RO.vof, Act.put, List.setIfInBounds_toArray, List.set_cons_zero, List.set_cons_succ, List.getElem?_cons_zero, List.getElem?_cons_succ, List.take_succ_cons, List.take_zero]
  refine exec_putR (w0 := w) 35 (.tmp 2) (.tmp 18) rfl (gr) rfl (bcs (encs [m, n])) (bcs (List.replicate 64 0)) rfl ((rwG HM8 1 rfl).keep F9.bel) (by rw [cr]; exact size35) (by rw [cr]; rfl) (bcs_one' _) (bT HF8 F9.bel).out HG4.out ?_
  intro y9 hc9 hb9
  have HC9 := Lib.hid hc9
  have HF9 := Lib.hid hb9
  clear hc9 hb9 F9 HM8 HF8
  go_wp2_with fail
  obtain ⟨tr, htr⟩ := HC9.out
  exact bodyPost_ret (results_cell_row rfl _ _ (gr) tr (bcs (encs [m, n])).toArray _ _ rfl htr Try.underlying35 rfl (by rw [List.size_toArray, cr]; exact size35)) rfl ⟨rfl, HF9.out⟩

set_option maxHeartbeats 600000 in
theorem away_core (m n : Nat) (x y z : List Nat) (w : World)
    (Lx : Hid (x.length = 10))
    (Ly : Hid (y.length = 10))
    (Lz : Hid (z.length = 10))
    (C0 : Hid (∀ w, Calls Try.prog 68 #[vN m] w (Gives (.agg (ics x).toArray) w)))
    (C1 : Hid (∀ w, Calls Try.prog 68 #[vN n] w (Gives (.agg (ics y).toArray) w)))
    (C2 : Hid (∀ w, Calls Try.prog 18 #[.int .u64 1] w (Gives (vN 1) w)))
    (C3 : Hid (∀ w, Calls Try.prog 68 #[vN 1] w (Gives (.agg (ics z).toArray) w))) :
    Calls Try.prog 87 #[vR [m, n]] w (Gives (.agg (ics (fw x y z)).toArray) w) := by
  have HM0 : Hid (Rws w []) := rw0 w
  have HF0 : Hid (Below w.heap.size w w) := Lib.hid (Below.refl _ _)
  go_enter Try.func87, Try.ntmps87
  go_wp2_with (first | ((with_reducible show wpList _ _ _ (⟨some 1, .box 35 (.tmp 0), _, _, _, _⟩ :: _) _ _); go_must (refine wpList_box_row rfl 35 (.tmp 0) rfl (bcs (encs [m, n])).toArray rfl ?_; intro u1 a1 b1 c1; have HG2 : Hid (w.heap.size ≤ w.heap.size) := Lib.hid HF0.out.size; have HM2 := rwN HM0 (below_of_grownBy c1) (cbS (cs := bcs (encs [m, n])) a1); have HF2 := bT HF0 (below_of_grownBy c1); clear a1 b1 c1 HM0 HF0)) | ((with_reducible show wpList _ _ _ (⟨some 2, .alloc 83, _, _, _, _⟩ :: _) _ _); go_must (refine wpList_alloc_row rfl 83 rfl (.agg zi30.toArray) zero83 ?_; intro u3 a3 b3 c3; have HG4 : Hid (w.heap.size ≤ u1.heap.size) := Lib.hid HF2.out.size; have HM4 := rwN HM2 (below_of_grownBy c3) (cbS (cs := zi30) a3); have HF4 := bT HF2 (below_of_grownBy c3); clear a3 b3 c3 HM2 HF2)) | fail)
  generalize u1.heap.size = gr at *
  refine RO.region_out (P := Try.prog) [.val (.pointer (some ⟨w.heap.size, 0, none⟩)), .val (vN m), .val (.agg (ics x).toArray), .val (.pointer (some ⟨w.heap.size, 32, none⟩)), .val (vN n), .val (.agg (ics y).toArray), .val (vN 1), .val (.agg (ics z).toArray), .val (.agg (ics (fw x y z)).toArray)] 12 9 rfl (by kernel_rfl) (by kernel_rfl) (by kernel_rfl) (by kernel_rfl) rfl rfl ⟨
    fun γ a_ w_ hb D => .inl (exec_field 35 (.tmp 1) 0 rfl (w.heap.size) 0 (D.2 1 rfl) (fld35_0 _)),
    fun γ a_ w_ hb D => .inl (loadX (.tmp 3) rfl (w.heap.size) m n (D.1 0 3 rfl rfl) ((rwG HM4 1 rfl).keep hb)),
    fun γ a_ w_ hb D => vcall 68 [.tmp 4] #[23] rfl [vN m] (hx1 (D.1 1 4 rfl rfl)) (CG68 _) C0.out,
    fun γ a_ w_ hb D => .inl (exec_field 35 (.tmp 1) 1 rfl (w.heap.size) 32 (D.2 1 rfl) (fld35_1 _)),
    fun γ a_ w_ hb D => .inl (loadY (.tmp 6) rfl (w.heap.size) m n (D.1 3 6 rfl rfl) ((rwG HM4 1 rfl).keep hb)),
    fun γ a_ w_ hb D => vcall 68 [.tmp 7] #[23] rfl [vN n] (hx1 (D.1 4 7 rfl rfl)) (CG68 _) C1.out,
    fun γ a_ w_ hb D => vcall 18 [.const (.int .u64 1)] #[24] rfl [.int .u64 1] (hx1 rfl) (CG18 _) C2.out,
    fun γ a_ w_ hb D => vcall 68 [.tmp 9] #[23] rfl [vN 1] (hx1 (D.1 6 9 rfl rfl)) (CG68 _) C3.out,
    fun γ a_ w_ hb D => .inl (exec_build83 (.tmp 5) (.tmp 8) (.tmp 10) rfl x y z (D.1 2 5 rfl rfl) (D.1 5 8 rfl rfl) (D.1 7 10 rfl rfl) Lx.out Ly.out Lz.out),
    trivial⟩ (by kernel_rfl) _ rfl rfl ?_
  intro γ W5 F5
  simp only [RO.lexi, RO.vof, Act.put, List.setIfInBounds_toArray, List.set_cons_zero, List.set_cons_succ, List.getElem?_cons_zero, List.getElem?_cons_succ, List.take_succ_cons, List.take_zero]
  refine exec_putR (w0 := w) 83 (.tmp 2) (.tmp 11) rfl (gr) rfl (ics (fw x y z)) (zi30) rfl ((rwG HM4 0 rfl).keep F5.bel) (by rw [fw_len Lx.out Ly.out Lz.out]; exact size83) (by rw [fw_len Lx.out Ly.out Lz.out]; rfl) (ics_one _) (bT HF4 F5.bel).out HG4.out ?_
  intro y5 hc5 hb5
  have HC5 := Lib.hid hc5
  have HF5 := Lib.hid hb5
  clear hc5 hb5 F5 HM4 HF4
  go_wp2_with fail
  obtain ⟨tr, htr⟩ := HC5.out
  exact bodyPost_ret (results_cell_row rfl _ _ (gr) tr (ics (fw x y z)).toArray _ _ rfl htr Try.underlying83 rfl (by rw [List.size_toArray, fw_len Lx.out Ly.out Lz.out]; exact size83)) rfl ⟨rfl, HF5.out⟩
end Go.Proofs.Ytgdimnbdnepbgaa
