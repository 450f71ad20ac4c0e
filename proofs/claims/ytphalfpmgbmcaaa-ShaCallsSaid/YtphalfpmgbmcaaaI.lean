/- What comes in: a slice of bytes as a source. No statement is proved here. -/
import Derived.Test.YtphalfpmgbmcaaaU
import Derived.OpenShut
namespace Go.Proofs.Ytphalfpmgbmcaaa
open Go.RowKit

/-- A slice of integers that came in. -/
def IsRow (k : IntKind) (w : World) (a : Option Addr) (len cap : Nat) (zs : List Int) : Prop :=
  (a = none ∧ len = 0 ∧ cap = 0 ∧ zs = []) ∨
  ∃ x, a = some x ∧ len ≤ cap ∧ cap ≤ maxLen ∧ zs.length = cap ∧ (∀ i, i < zs.length → w.cell? (x.add i) = some (.int k (zs.getD i 0))) ∧ ∀ n ∈ zs, (Lit.int k n).wf = true

theorem IsRow.src {k : IntKind} {w : World} {a : Option Addr} {len cap : Nat} {zs : List Int} (h : IsRow k w a len cap zs) : len ≤ cap ∧ cap ≤ maxLen ∧ Src w (· < w.heap.size) a len ((zs.take len).map (Value.int k)) := by
  rcases h with ⟨rfl, rfl, rfl, rfl⟩ | ⟨x, rfl, hl, hm, hz, hc, _⟩
  · exact ⟨Nat.le_refl _, by simp [maxLen], Src.nil_ _ _ _⟩
  · refine ⟨hl, hm, by rw [List.length_map, List.length_take]; omega, fun hn => ?_⟩
    obtain ⟨b, off, spot⟩ := x
    have h0 := hc 0 (by omega)
    have hs : spot = none := by simpa [Addr.add] using World.cell?_spot h0
    subst hs
    have hadd : ∀ j, (⟨b, off, none⟩ : Addr).add j = ⟨b, off + j, none⟩ := fun j => by unfold Addr.add; split <;> simp_all
    refine ⟨b, off, rfl, by rw [hadd] at h0; exact block_lt_of_cell h0, fun i hi => ?_⟩
    have := hc i (by omega)
    rw [hadd] at this
    rw [this, List.getElem?_map, List.getElem?_take, if_pos hi]
    simp [List.getElem?_eq_getElem (show i < zs.length by omega)]

theorem IsRow.bytes {w : World} {a : Option Addr} {len cap : Nat} {zs : List Int} (h : IsRow .u8 w a len cap zs) : len ≤ cap ∧ cap ≤ maxLen ∧ ∃ l : List UInt8, Src w (· < w.heap.size) a len (bcs l) := by
  obtain ⟨h1, h2, h3⟩ := h.src
  refine ⟨h1, h2, (zs.take len).map (fun z => UInt8.ofNat z.toNat), ?_⟩
  have e : bcs ((zs.take len).map (fun z => UInt8.ofNat z.toNat)) = (zs.take len).map (Value.int .u8) := by
    unfold bcs
    rw [List.map_map]
    refine List.map_congr_left fun z hz => ?_
    have hw : (Lit.int .u8 z).wf = true := by
      rcases h with ⟨_, _, _, rfl⟩ | ⟨_, _, _, _, _, _, hwf⟩
      · simp at hz
      · exact hwf z (List.mem_of_mem_take hz)
    have hb := bounds_u8 hw
    show bc (UInt8.ofNat z.toNat) = _
    unfold bc
    rw [UInt8.toNat_ofNat']
    congr 1
    omega
  rw [e]
  exact h3

section
variable {H : Type} {enc : TypeId × Value → H} {P : Program} {w : World} {base : Nat} {spare : Nat → Bool} {held : Bool}
theorem okWide_array {r : Reach} {b0 n e : Nat} {t : TypeId} {v : Value} (ht : P.underlying t = some (.array n e)) (h : Value.okWide P w r b0 t v) : ∃ cs, v = .agg cs ∧ cs.size = P.cellsOf t := by
  simp only [Value.okWide, ht] at h
  obtain ⟨cs, h1, h2, _⟩ := h
  exact ⟨cs, h1, h2⟩
/-- An array of bytes that came in. -/
theorem open_arr {r : Reach} {b0 n e : Nat} {t : TypeId} {v : Value} {d : DataW H} {p : List MemPlace} (ht : P.underlying t = some (.array n e)) (he : P.underlying e = some (.int .u8)) (hce : P.cellsOf e = 1) (hct : P.cellsOf t = n)
    (hv : Value.okWide P w r b0 t v) (h : DataW.Trod enc P w base spare held t v d p) : ∃ l : List UInt8, l.length = n ∧ v = .agg (bcs l).toArray := by
  obtain ⟨cs, rfl, hsz⟩ := okWide_array ht hv
  obtain ⟨fuel, hf⟩ := h
  obtain ⟨xs, m, _, _, hl, hxl, hel⟩ := DataW.trod_array ht hf
  have hcs : ∀ i (hi : i < cs.size), ∃ b : UInt8, cs[i] = bc b := by
    intro i hi
    have h1 := hel i (by omega)
    have hd : ((Value.agg cs).cells.toList.drop (i * P.cellsOf e)).take (P.cellsOf e) = [cs[i]] := by
      rw [hce, Nat.mul_one]
      simp only [Value.cells]
      rw [List.drop_eq_getElem_cons (by simpa using hi)]
      simp
    rw [hd, List.getElem?_eq_getElem (by omega)] at h1
    obtain ⟨z, e0, _, wz⟩ := DataW.trod_int he h1
    simp only [List.cons.injEq, and_true] at e0
    have hb := bounds_u8 wz
    refine ⟨UInt8.ofNat z.toNat, ?_⟩
    rw [e0]
    unfold bc
    rw [UInt8.toNat_ofNat']
    congr 1
    omega
  refine ⟨cs.toList.map (fun v => match v with | .int _ z => UInt8.ofNat z.toNat | _ => 0), by simp; omega, ?_⟩
  congr 1
  apply Array.ext
  · simp [bcs]
  · intro i h1 h2
    obtain ⟨b, hb⟩ := hcs i h1
    simp only [bcs, List.map_map, List.getElem_toArray, List.getElem_map, Function.comp_def, Array.getElem_toList, hb]
    simp [bc]
end
end Go.Proofs.Ytphalfpmgbmcaaa
