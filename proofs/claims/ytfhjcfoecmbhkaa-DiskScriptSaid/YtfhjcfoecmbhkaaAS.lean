/- Calls as they come in: one, and a slice of them. No statement is proved here. -/
import Derived.Test.YtfhjcfoecmbhkaaDA
import Derived.OpenShut
import Derived.ChangeOld
import Derived.Deep.Grids
import Derived.Deep.Slices
import Derived.Deep.Strs
import Derived.ProofKit
namespace Go.Proofs.Ytfhjcfoecmbhkaa
open Go.RowKit Go.ChangeShapes Go.WideShapes Go.ChangeAt
set_option linter.unusedVariables false
set_option linter.unusedSimpArgs false

/-- A call. -/
structure ActV where
  kind : Int
  at_ : Int
  b : UInt8
  long : Bool
  A : Option Addr
  kn : Nat
  kc : Nat
  ks : List Bool
def ActV.cells (a : ActV) : List Value := [.int .i64 a.kind, .int .i64 a.at_, .int .u8 (a.b.toNat : Int), .bool a.long, .slice a.A a.kn a.kc]
/-- It came in. -/
structure ActV.Ok (a : ActV) (w : World) : Prop where
  keep : Src w (· < w.heap.size) a.A a.kn (a.ks.map Value.bool)
  k0 : -9223372036854775808 ≤ a.kind ∧ a.kind ≤ 9223372036854775807
  a0 : -9223372036854775808 ≤ a.at_ ∧ a.at_ ≤ 9223372036854775807
/-- A slice of calls that came in. -/
structure Acts (w : World) (A : Option Addr) (n : Nat) (l : List ActV) : Prop where
  len : l.length = n
  lies : 0 < n → ∃ b o, A = some ⟨b, o, none⟩ ∧ b < w.heap.size ∧ ∀ i a, l[i]? = some a → ∀ j u, a.cells[j]? = some u → w.cell? ⟨b, o + i * 5 + j, none⟩ = some u
  ok : ∀ a ∈ l, a.Ok w
theorem ActV.Ok.below {a : ActV} {w w' : World} (h : a.Ok w) (hb : Below w.heap.size w w') : a.Ok w' := ⟨h.keep.below hb (fun b hlt => Nat.lt_of_lt_of_le hlt hb.size), h.k0, h.a0⟩
theorem Acts.below {w w' : World} {A : Option Addr} {n : Nat} {l : List ActV} (h : Acts w A n l) (hb : Below w.heap.size w w') : Acts w' A n l :=
  ⟨h.len, fun hn => by
    obtain ⟨b, o, e, hlt, hc⟩ := h.lies hn
    exact ⟨b, o, e, Nat.lt_of_lt_of_le hlt hb.size, fun i a hi j u hu => (hb.cell (p := ⟨b, o + i * 5 + j, none⟩) hlt).trans (hc i a hi j u hu)⟩, fun a ha => (h.ok a ha).below hb⟩

section
variable {H : Type} {enc : TypeId × Value → H} {w : World} {base : Nat} {held : Bool}
theorem trod_struct5 {P : Program} {spare : Nat → Bool} {t : TypeId} {f0 f1 f2 f3 f4 : Field} {fuel : Nat} {cs : List Value} {x : DataW H × List MemPlace} (ht : P.underlying t = some (.struct #[f0, f1, f2, f3, f4])) (h : DataW.trod enc P w base spare held fuel t cs = some x) :
    ∃ y0 y1 y2 y3 y4 n, cs.length = P.cellsOf t ∧ DataW.trod enc P w base spare held n f0.type ((cs.drop f0.offset).take (P.cellsOf f0.type)) = some y0 ∧
      DataW.trod enc P w base spare held n f1.type ((cs.drop f1.offset).take (P.cellsOf f1.type)) = some y1 ∧ DataW.trod enc P w base spare held n f2.type ((cs.drop f2.offset).take (P.cellsOf f2.type)) = some y2 ∧
      DataW.trod enc P w base spare held n f3.type ((cs.drop f3.offset).take (P.cellsOf f3.type)) = some y3 ∧ DataW.trod enc P w base spare held n f4.type ((cs.drop f4.offset).take (P.cellsOf f4.type)) = some y4 := by
  obtain ⟨xs, n, _, rfl, hl, hlen, hf⟩ := DataW.trod_struct ht h
  match xs, hlen with
  | [y0, y1, y2, y3, y4], _ => exact ⟨y0, y1, y2, y3, y4, n, hl, by simpa using hf 0 f0 rfl, by simpa using hf 1 f1 rfl, by simpa using hf 2 f2 rfl, by simpa using hf 3 f3 rfl, by simpa using hf 4 f4 rfl⟩
theorem cellsOf46 : Try.prog.cellsOf 46 = 5 := by kernel_rfl
theorem cellsOf3 : Try.prog.cellsOf 3 = 1 := by kernel_rfl
theorem cellsOf4 : Try.prog.cellsOf 4 = 1 := by kernel_rfl
theorem cellsOf5 : Try.prog.cellsOf 5 = 1 := by kernel_rfl
theorem cellsOf44 : Try.prog.cellsOf 44 = 1 := by kernel_rfl
theorem addr_add (b o j : Nat) : (⟨b, o, none⟩ : Addr).add j = ⟨b, o + j, none⟩ := by unfold Addr.add; split <;> simp_all
theorem list5 {l : List Value} (h : l.length = 5) : ∃ a b c d e, l = [a, b, c, d, e] := by
  match l, h with
  | [a, b, c, d, e], _ => exact ⟨a, b, c, d, e, rfl⟩
theorem open_act {fuel : Nat} {cs : List Value} {x : DataW H × List MemPlace} (h : DataW.trod enc Try.prog w base (fun _ => true) held fuel 46 cs = some x) : ∃ a : ActV, cs = a.cells ∧ a.Ok w := by
  obtain ⟨y0, y1, y2, y3, y4, n, hl, h0, h1, h2, h3, h4⟩ := trod_struct5 Try.underlying46 h
  rw [cellsOf46] at hl
  obtain ⟨c0, c1, c2, c3, c4, rfl⟩ := list5 hl
  simp only [cellsOf3, cellsOf4, cellsOf5, cellsOf44, List.drop_zero, List.drop_succ_cons, List.take_succ_cons, List.take_zero] at h0 h1 h2 h3 h4
  obtain ⟨kind, e0, _, w0⟩ := DataW.trod_int Try.underlying3 h0
  obtain ⟨at_, e1, _, w1⟩ := DataW.trod_int Try.underlying3 h1
  obtain ⟨b, e2, _, w2⟩ := DataW.trod_int Try.underlying5 h2
  obtain ⟨lg, e3, _⟩ := DataW.trod_bool Try.underlying4 h3
  have hb := bounds_u8 w2
  have hk := bounds_i64 w0
  have ha := bounds_i64 w1
  have hB : (((UInt8.ofNat b.toNat).toNat : Nat) : Int) = b := by rw [UInt8.toNat_ofNat']; omega
  injection e0 with e0 _
  injection e1 with e1 _
  injection e2 with e2 _
  injection e3 with e3 _
  subst e0; subst e1; subst e2; subst e3
  rcases Go.Deep.open_bools Try.underlying44 Try.underlying4 cellsOf4 h4 with ⟨e4, _⟩ | ⟨a, len, cap, B, e4, hb, hl, hm, _, hc⟩
  · injection e4 with e4 _
    subst e4
    exact ⟨⟨kind, at_, UInt8.ofNat b.toNat, lg, none, 0, 0, []⟩, by simp only [ActV.cells, hB], ⟨Src.nil_ _ _ _, by omega, by omega⟩⟩
  · injection e4 with e4 _
    subst e4
    refine ⟨⟨kind, at_, UInt8.ofNat b.toNat, lg, some a, len, cap, (List.range len).map B⟩, by simp only [ActV.cells, hB], ⟨⟨by simp, fun hn0 => ?_⟩, by omega, by omega⟩⟩
    have hn : 0 < len := hn0
    obtain ⟨blk, off, spot⟩ := a
    have h0 := hc 0 (by omega)
    have hs : spot = none := by simpa [Addr.add] using World.cell?_spot h0
    subst hs
    rw [addr_add] at h0
    refine ⟨blk, off, rfl, block_lt_of_cell h0, fun i hi0 => ?_⟩
    have hi : i < len := hi0
    have := hc i (by omega)
    rw [addr_add] at this
    rw [this, List.getElem?_map, List.getElem?_map, List.getElem?_range hi]
    rfl
theorem open_acts {fuel : Nat} {cs : List Value} {x : DataW H × List MemPlace} (h : DataW.trod enc Try.prog w base (fun _ => true) held fuel 38 cs = some x) : ∃ A n c l, cs = [.slice A n c] ∧ n ≤ c ∧ c ≤ maxLen ∧ Acts w A n l := by
  rcases Go.Deep.open_slice Try.underlying38 h with ⟨rfl, _⟩ | ⟨a, len, cap, m, n, D, Pl, rfl, hb, hl, hm, hmm, _, hx⟩
  · exact ⟨none, 0, 0, [], rfl, Nat.le_refl _, by simp [maxLen], rfl, fun h => absurd h (by omega), fun a ha => by cases ha⟩
  · simp only [if_true] at hmm
    subst hmm
    have hall : ∀ i, ∃ act : ActV, i < len → act.Ok w ∧ w.cells? base (a.add (i * 5)) 5 = some act.cells := fun i => by
      by_cases hi : i < len
      · obtain ⟨cs', hcs, ht⟩ := hx i (by omega)
        rw [cellsOf46] at hcs
        obtain ⟨act, rfl, hok⟩ := open_act ht
        exact ⟨act, fun _ => ⟨hok, hcs⟩⟩
      · exact ⟨⟨0, 0, 0, false, none, 0, 0, []⟩, fun h => absurd h hi⟩
    obtain ⟨f, hf⟩ := Classical.skolem.1 hall
    refine ⟨some a, len, m, (List.range len).map f, rfl, hl, hm, by simp, fun hn => ?_, fun act hact => ?_⟩
    · obtain ⟨blk, off, spot⟩ := a
      have h0 := (World.cells?_some (hf 0 hn).2).2.2 0 (by omega)
      have hs : spot = none := by
        have h1 : w.cell? (Addr.add (Addr.add ⟨blk, off, spot⟩ (0 * 5)) 0) = some (.int .i64 (f 0).kind) := h0
        simpa [Addr.add] using World.cell?_spot h1
      subst hs
      rw [Nat.zero_mul, addr_add, addr_add] at h0
      refine ⟨blk, off, rfl, block_lt_of_cell (v := .int .i64 (f 0).kind) h0, fun i act hi j u hu => ?_⟩
      obtain ⟨hi2, e⟩ := List.getElem?_eq_some_iff.1 hi
      simp only [List.length_map, List.length_range] at hi2
      simp only [List.getElem_map, List.getElem_range] at e
      subst e
      have hj : j < 5 := by have := (List.getElem?_eq_some_iff.1 hu).1; exact this
      have h2 := (World.cells?_some (hf i hi2).2).2.2 j hj
      rw [addr_add, addr_add] at h2
      rw [h2]
      exact hu
    · obtain ⟨i, hi, rfl⟩ := List.mem_map.1 hact
      exact (hf i (List.mem_range.1 hi)).1
end
end Go.Proofs.Ytfhjcfoecmbhkaa
