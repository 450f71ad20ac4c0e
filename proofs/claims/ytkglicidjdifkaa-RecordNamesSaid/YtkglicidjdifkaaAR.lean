/- Records as they come in: one, and a slice of them. No statement is proved here. -/
import Derived.Test.YtkglicidjdifkaaRA
import Derived.OpenShut
import Derived.ChangeOld
import Derived.Deep.Grids
import Derived.Deep.Slices
import Derived.ProofKit
namespace Go.Proofs.Ytkglicidjdifkaa
open Go.RowKit Go.ChangeShapes Go.WideShapes Go.ChangeAt
set_option linter.unusedVariables false
set_option linter.unusedSimpArgs false

/-- A slice of integers that came in. -/
def IsRow (k : IntKind) (w : World) (a : Option Addr) (len cap : Nat) (zs : List Int) : Prop :=
  (a = none ∧ len = 0 ∧ cap = 0 ∧ zs = []) ∨
  ∃ x, a = some x ∧ len ≤ cap ∧ cap ≤ maxLen ∧ zs.length = cap ∧ (∀ i, i < zs.length → w.cell? (x.add i) = some (.int k (zs.getD i 0))) ∧ ∀ n ∈ zs, (Lit.int k n).wf = true

theorem IsRow.src {k : IntKind} {w : World} {a : Option Addr} {len cap : Nat} {zs : List Int} (h : IsRow k w a len cap zs) : len ≤ cap ∧ cap ≤ maxLen ∧ Src w (· < w.heap.size) a len ((zs.take len).map (Value.int k)) := by
  rcases h with ⟨rfl, rfl, rfl, rfl⟩ | ⟨x, rfl, hl, hm, hz, hc, _⟩
  · exact ⟨Nat.le_refl _, by simp [maxLen], Src.nil_ _ _ _⟩
  · refine ⟨hl, hm, by rw [List.length_map, List.length_take]; omega, fun hn => ?_⟩
    obtain ⟨b, off, spot⟩ := x
    have h0 := hc 0 (by omega)
    have hs : spot = none := by simpa [Addr.add] using World.cell?_spot h0
    subst hs
    have hadd : ∀ j, (⟨b, off, none⟩ : Addr).add j = ⟨b, off + j, none⟩ := fun j => by unfold Addr.add; split <;> simp_all
    refine ⟨b, off, rfl, by rw [hadd] at h0; exact block_lt_of_cell h0, fun i hi => ?_⟩
    have := hc i (by omega)
    rw [hadd] at this
    rw [this, List.getElem?_map, List.getElem?_take, if_pos hi]
    simp [List.getElem?_eq_getElem (show i < zs.length by omega)]

theorem IsRow.bytes {w : World} {a : Option Addr} {len cap : Nat} {zs : List Int} (h : IsRow .u8 w a len cap zs) : len ≤ cap ∧ cap ≤ maxLen ∧ ∃ l : List UInt8, Src w (· < w.heap.size) a len (bcs l) := by
  obtain ⟨h1, h2, h3⟩ := h.src
  refine ⟨h1, h2, (zs.take len).map (fun z => UInt8.ofNat z.toNat), ?_⟩
  have e : bcs ((zs.take len).map (fun z => UInt8.ofNat z.toNat)) = (zs.take len).map (Value.int .u8) := by
    unfold bcs
    rw [List.map_map]
    refine List.map_congr_left fun z hz => ?_
    have hw : (Lit.int .u8 z).wf = true := by
      rcases h with ⟨_, _, _, rfl⟩ | ⟨_, _, _, _, _, _, hwf⟩
      · simp at hz
      · exact hwf z (List.mem_of_mem_take hz)
    have hb := bounds_u8 hw
    show bc (UInt8.ofNat z.toNat) = _
    unfold bc
    rw [UInt8.toNat_ofNat']
    congr 1
    omega
  rw [e]
  exact h3

section
variable {H : Type} {enc : TypeId × Value → H} {P : Program} {w : World} {base : Nat} {spare : Nat → Bool} {held : Bool}
theorem okWide_array {r : Reach} {b0 n e : Nat} {t : TypeId} {v : Value} (ht : P.underlying t = some (.array n e)) (h : Value.okWide P w r b0 t v) : ∃ cs, v = .agg cs ∧ cs.size = P.cellsOf t := by
  simp only [Value.okWide, ht] at h
  obtain ⟨cs, h1, h2, _⟩ := h
  exact ⟨cs, h1, h2⟩
/-- An array of bytes that came in. -/
theorem open_arr {r : Reach} {b0 n e : Nat} {t : TypeId} {v : Value} {d : DataW H} {p : List MemPlace} (ht : P.underlying t = some (.array n e)) (he : P.underlying e = some (.int .u8)) (hce : P.cellsOf e = 1) (hct : P.cellsOf t = n)
    (hv : Value.okWide P w r b0 t v) (h : DataW.Trod enc P w base spare held t v d p) : ∃ l : List UInt8, l.length = n ∧ v = .agg (bcs l).toArray := by
  obtain ⟨cs, rfl, hsz⟩ := okWide_array ht hv
  obtain ⟨fuel, hf⟩ := h
  obtain ⟨xs, m, _, _, hl, hxl, hel⟩ := DataW.trod_array ht hf
  have hcs : ∀ i (hi : i < cs.size), ∃ b : UInt8, cs[i] = bc b := by
    intro i hi
    have h1 := hel i (by omega)
    have hd : ((Value.agg cs).cells.toList.drop (i * P.cellsOf e)).take (P.cellsOf e) = [cs[i]] := by
      rw [hce, Nat.mul_one]
      simp only [Value.cells]
      rw [List.drop_eq_getElem_cons (by simpa using hi)]
      simp
    rw [hd, List.getElem?_eq_getElem (by omega)] at h1
    obtain ⟨z, e0, _, wz⟩ := DataW.trod_int he h1
    simp only [List.cons.injEq, and_true] at e0
    have hb := bounds_u8 wz
    refine ⟨UInt8.ofNat z.toNat, ?_⟩
    rw [e0]
    unfold bc
    rw [UInt8.toNat_ofNat']
    congr 1
    omega
  refine ⟨cs.toList.map (fun v => match v with | .int _ z => UInt8.ofNat z.toNat | _ => 0), by simp; omega, ?_⟩
  congr 1
  apply Array.ext
  · simp [bcs]
  · intro i h1 h2
    obtain ⟨b, hb⟩ := hcs i h1
    simp only [bcs, List.map_map, List.getElem_toArray, List.getElem_map, Function.comp_def, Array.getElem_toList, hb]
    simp [bc]
end

/-- A record that came in. -/
structure RecV where
  k : UInt8
  A : Option Addr
  n : Nat
  c : Nat
  l : List UInt8
def RecV.cells (r : RecV) : List Value := [.int .u8 (r.k.toNat : Int), .slice r.A r.n r.c]
structure RecV.Ok (r : RecV) (w : World) : Prop where
  src : Src w (· < w.heap.size) r.A r.n (bcs r.l)
  c1 : r.n ≤ r.c
  c2 : r.c ≤ maxLen
/-- A slice of records that came in. -/
structure Recs (w : World) (A : Option Addr) (n : Nat) (l : List RecV) : Prop where
  len : l.length = n
  lies : 0 < n → ∃ b o, A = some ⟨b, o, none⟩ ∧ b < w.heap.size ∧ ∀ i a, l[i]? = some a → ∀ j u, a.cells[j]? = some u → w.cell? ⟨b, o + i * 2 + j, none⟩ = some u
  ok : ∀ a ∈ l, a.Ok w
theorem RecV.Ok.below {a : RecV} {w w' : World} (h : a.Ok w) (hb : Below w.heap.size w w') : a.Ok w' := ⟨h.src.below hb (fun b hlt => Nat.lt_of_lt_of_le hlt hb.size), h.c1, h.c2⟩
theorem Recs.below {w w' : World} {A : Option Addr} {n : Nat} {l : List RecV} (h : Recs w A n l) (hb : Below w.heap.size w w') : Recs w' A n l :=
  ⟨h.len, fun hn => by
    obtain ⟨b, o, e, hlt, hc⟩ := h.lies hn
    exact ⟨b, o, e, Nat.lt_of_lt_of_le hlt hb.size, fun i a hi j u hu => (hb.cell (p := ⟨b, o + i * 2 + j, none⟩) hlt).trans (hc i a hi j u hu)⟩, fun a ha => (h.ok a ha).below hb⟩
theorem okWide_struct {P : Program} {w : World} {r : Reach} {b0 : Nat} {t : TypeId} {v : Value} {fs : Array Field} (ht : P.underlying t = some (.struct fs)) (h : Value.okWide P w r b0 t v) : ∃ cs, v = .agg cs := by
  simp only [Value.okWide, ht] at h
  obtain ⟨cs, h1, _⟩ := h
  exact ⟨cs, h1⟩
section
variable {H : Type} {enc : TypeId × Value → H} {w : World} {base : Nat} {held : Bool}
theorem trod_struct2 {P : Program} {spare : Nat → Bool} {t : TypeId} {f0 f1 : Field} {fuel : Nat} {cs : List Value} {x : DataW H × List MemPlace} (ht : P.underlying t = some (.struct #[f0, f1])) (h : DataW.trod enc P w base spare held fuel t cs = some x) :
    ∃ y0 y1 n, cs.length = P.cellsOf t ∧ DataW.trod enc P w base spare held n f0.type ((cs.drop f0.offset).take (P.cellsOf f0.type)) = some y0 ∧
      DataW.trod enc P w base spare held n f1.type ((cs.drop f1.offset).take (P.cellsOf f1.type)) = some y1 := by
  obtain ⟨xs, n, _, rfl, hl, hlen, hf⟩ := DataW.trod_struct ht h
  match xs, hlen with
  | [y0, y1], _ => exact ⟨y0, y1, n, hl, by simpa using hf 0 f0 rfl, by simpa using hf 1 f1 rfl⟩
theorem cellsOf31 : Try.prog.cellsOf 31 = 2 := by kernel_rfl
theorem cellsOf5 : Try.prog.cellsOf 5 = 1 := by kernel_rfl
theorem cellsOf26 : Try.prog.cellsOf 26 = 1 := by kernel_rfl
theorem addr_add (b o j : Nat) : (⟨b, o, none⟩ : Addr).add j = ⟨b, o + j, none⟩ := by unfold Addr.add; split <;> simp_all
theorem list2 {l : List Value} (h : l.length = 2) : ∃ a b, l = [a, b] := by
  match l, h with
  | [a, b], _ => exact ⟨a, b, rfl⟩
theorem open_rec {fuel : Nat} {cs : List Value} {x : DataW H × List MemPlace} (h : DataW.trod enc Try.prog w base (fun _ => true) held fuel 31 cs = some x) : ∃ a : RecV, cs = a.cells ∧ a.Ok w := by
  obtain ⟨y0, y1, n, hl, h0, h1⟩ := trod_struct2 Try.underlying31 h
  rw [cellsOf31] at hl
  obtain ⟨c0, c1, rfl⟩ := list2 hl
  simp only [cellsOf5, cellsOf26, List.drop_zero, List.drop_succ_cons, List.take_succ_cons, List.take_zero] at h0 h1
  obtain ⟨b, e0, _, w0⟩ := DataW.trod_int Try.underlying5 h0
  have hb := bounds_u8 w0
  have hB : (((UInt8.ofNat b.toNat).toNat : Nat) : Int) = b := by rw [UInt8.toNat_ofNat']; omega
  injection e0 with e0 _
  subst e0
  rcases open_ints Try.underlying26 Try.underlying5 (by kernel_rfl) h1 with ⟨e4, _⟩ | ⟨a, len, cap, zs, e4, hb, hlc, hm, hz, _, hcell, hwz⟩
  · injection e4 with e4 _
    subst e4
    exact ⟨⟨UInt8.ofNat b.toNat, none, 0, 0, []⟩, by simp only [RecV.cells, hB], ⟨Src.nil_ _ _ _, Nat.le_refl _, by simp [maxLen]⟩⟩
  · injection e4 with e4 _
    subst e4
    have hr : IsRow .u8 w (some a) len cap zs := .inr ⟨_, rfl, hlc, hm, by simpa using hz, hcell, hwz⟩
    obtain ⟨_, _, l, hs⟩ := hr.bytes
    exact ⟨⟨UInt8.ofNat b.toNat, some a, len, cap, l⟩, by simp only [RecV.cells, hB], ⟨hs, hlc, hm⟩⟩
theorem open_recs {fuel : Nat} {cs : List Value} {x : DataW H × List MemPlace} (h : DataW.trod enc Try.prog w base (fun _ => true) held fuel 39 cs = some x) : ∃ A n c l, cs = [.slice A n c] ∧ n ≤ c ∧ c ≤ maxLen ∧ Recs w A n l := by
  rcases Go.Deep.open_slice Try.underlying39 h with ⟨rfl, _⟩ | ⟨a, len, cap, m, n, D, Pl, rfl, hb, hl, hm, hmm, _, hx⟩
  · exact ⟨none, 0, 0, [], rfl, Nat.le_refl _, by simp [maxLen], rfl, fun h => absurd h (by omega), fun a ha => by cases ha⟩
  · simp only [if_true] at hmm
    subst hmm
    have hall : ∀ i, ∃ act : RecV, i < len → act.Ok w ∧ w.cells? base (a.add (i * 2)) 2 = some act.cells := fun i => by
      by_cases hi : i < len
      · obtain ⟨cs', hcs, ht⟩ := hx i (by omega)
        rw [cellsOf31] at hcs
        obtain ⟨act, rfl, hok⟩ := open_rec ht
        exact ⟨act, fun _ => ⟨hok, hcs⟩⟩
      · exact ⟨⟨0, none, 0, 0, []⟩, fun h => absurd h hi⟩
    obtain ⟨f, hf⟩ := Classical.skolem.1 hall
    refine ⟨some a, len, m, (List.range len).map f, rfl, hl, hm, by simp, fun hn => ?_, fun act hact => ?_⟩
    · obtain ⟨blk, off, spot⟩ := a
      have h0 := (World.cells?_some (hf 0 hn).2).2.2 0 (by omega)
      have hs : spot = none := by
        have h1 : w.cell? (Addr.add (Addr.add ⟨blk, off, spot⟩ (0 * 2)) 0) = some (.int .u8 ((f 0).k.toNat : Int)) := h0
        simpa [Addr.add] using World.cell?_spot h1
      subst hs
      rw [Nat.zero_mul, addr_add, addr_add] at h0
      refine ⟨blk, off, rfl, block_lt_of_cell (v := .int .u8 ((f 0).k.toNat : Int)) h0, fun i act hi j u hu => ?_⟩
      obtain ⟨hi2, e⟩ := List.getElem?_eq_some_iff.1 hi
      simp only [List.length_map, List.length_range] at hi2
      simp only [List.getElem_map, List.getElem_range] at e
      subst e
      have hj : j < 2 := by have := (List.getElem?_eq_some_iff.1 hu).1; exact this
      have h2 := (World.cells?_some (hf i hi2).2).2.2 j hj
      rw [addr_add, addr_add] at h2
      rw [h2]
      exact hu
    · obtain ⟨i, hi, rfl⟩ := List.mem_map.1 hact
      exact (hf i (List.mem_range.1 hi)).1
/-- One record as an argument. -/
theorem open_rec1 {r : Reach} {b0 : Nat} {v : Value} {d : DataW H} {p : List MemPlace} (hv : Value.okWide Try.prog w r b0 31 v) (h : DataW.Trod enc Try.prog w base (fun _ => true) held 31 v d p) : ∃ a : RecV, v = .agg a.cells.toArray ∧ a.Ok w := by
  obtain ⟨cs, rfl⟩ := okWide_struct Try.underlying31 hv
  obtain ⟨fuel, hf⟩ := h
  obtain ⟨a, e, hok⟩ := open_rec hf
  refine ⟨a, ?_, hok⟩
  simp only [Value.cells] at e
  rw [← e]
end
end Go.Proofs.Ytkglicidjdifkaa
