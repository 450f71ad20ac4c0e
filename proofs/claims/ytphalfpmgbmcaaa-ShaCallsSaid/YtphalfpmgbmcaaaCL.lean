/- For the law of calls: what comes in, and regions whose lower bound is raised. No statement is proved here. -/
import Derived.Test.YtphalfpmgbmcaaaCK
import Derived.Test.YtphalfpmgbmcaaaI
namespace Go.Proofs.Ytphalfpmgbmcaaa
open Go.RowKit
set_option linter.unusedVariables false
set_option linter.unusedSimpArgs false

section
variable {H : Type} {enc : TypeId × Value → H} {P : Program} {w : World} {base : Nat} {spare : Nat → Bool} {held : Bool}
/-- An array of words that came in. -/
theorem open_arrQ {r : Reach} {b0 n e : Nat} {t : TypeId} {v : Value} {d : DataW H} {p : List MemPlace} (ht : P.underlying t = some (.array n e)) (he : P.underlying e = some (.int .u64)) (hce : P.cellsOf e = 1) (hct : P.cellsOf t = n)
    (hv : Value.okWide P w r b0 t v) (h : DataW.Trod enc P w base spare held t v d p) : ∃ l : List Nat, (l.length = n ∧ ∀ x ∈ l, x < 18446744073709551616) ∧ v = .agg (ucs l).toArray := by
  obtain ⟨cs, rfl, hsz⟩ := okWide_array ht hv
  obtain ⟨fuel, hf⟩ := h
  obtain ⟨xs, m, _, _, hl, hxl, hel⟩ := DataW.trod_array ht hf
  have hcs : ∀ i (hi : i < cs.size), ∃ b : Nat, b < 18446744073709551616 ∧ cs[i] = uc b := by
    intro i hi
    have h1 := hel i (by omega)
    have hd : ((Value.agg cs).cells.toList.drop (i * P.cellsOf e)).take (P.cellsOf e) = [cs[i]] := by
      rw [hce, Nat.mul_one]
      simp only [Value.cells]
      rw [List.drop_eq_getElem_cons (by simpa using hi)]
      simp
    rw [hd, List.getElem?_eq_getElem (by omega)] at h1
    obtain ⟨z, e0, _, wz⟩ := DataW.trod_int he h1
    simp only [List.cons.injEq, and_true] at e0
    have hb := bounds_u64 wz
    refine ⟨z.toNat, by omega, ?_⟩
    rw [e0]
    unfold uc
    congr 1
    omega
  have hmem : ∀ u ∈ cs.toList, ∃ b : Nat, b < 18446744073709551616 ∧ u = uc b := by
    intro u hu
    obtain ⟨i, hi, rfl⟩ := List.getElem_of_mem hu
    rw [Array.getElem_toList]
    exact hcs i (by simpa using hi)
  refine ⟨cs.toList.map (fun v => match v with | .int _ z => z.toNat | _ => 0), ⟨by simp; omega, ?_⟩, ?_⟩
  · intro x hx
    obtain ⟨u, hu, rfl⟩ := List.mem_map.1 hx
    obtain ⟨b, hb, rfl⟩ := hmem u hu
    simpa [uc] using hb
  · congr 1
    apply Array.ext
    · simp [ucs]
    · intro i h1 h2
      obtain ⟨b, _, hb⟩ := hcs i h1
      simp only [ucs, List.map_map, List.getElem_toArray, List.getElem_map, Function.comp_def, Array.getElem_toList, hb]
      simp [uc]
end
theorem wpAnyW_raise {P : Program} {md : Region.Mode} {ops : Array Oper} {Q : Exit → Act → World → Prop} {W : Nat → Bool} {lo lo' : Nat} (hlo : lo ≤ lo') :
    ∀ (fuel : Nat) (listed : Array Bool) (a : Act) (w : World), wpAnyW P md ops Q W lo' fuel listed a w → wpAnyW P md ops Q W lo fuel listed a w
  | 0, _, _, _, h => h
  | fuel + 1, _, _, _, h => ⟨h.1, fun i hi => wpOp_mono (fun a' w' h' => ⟨fun hw => (h'.1 hw).mono hlo, wpAnyW_raise hlo fuel _ a' w' h'.2⟩) (h.2 i hi)⟩
/-- A slice that lies in what is old. -/
def SL (W : World) (A : Option Addr) (n : Nat) (l : List UInt8) : Prop := Src W (· < W.heap.size) A n (bcs l)
theorem SL.keep {W W' : World} {A : Option Addr} {n : Nat} {l : List UInt8} (h : SL W A n l) (hb : Below W.heap.size W W') : SL W' A n l :=
  (Src.below' h hb (fun b hb => hb)).weak (fun b h => Nat.lt_of_lt_of_le h hb.size)
theorem SL.own {W0 W : World} {A : Option Addr} {n : Nat} {l : List UInt8} (h : Src W (fun g => W0.heap.size ≤ g ∧ g < W.heap.size) A n (bcs l)) : SL W A n l := h.weak (fun b h => h.2)
theorem mkP1 {W : World} {A : Option Addr} {n c : Nat} {l : List UInt8} (h : SL W A n l) (hc : n ≤ c ∧ c ≤ maxLen) : ∃ W', W' = W.alloc (.cells #[.slice A n c] 30) ∧ Below W.heap.size W W' ∧ PT W' W.heap.size [l] :=
  ⟨_, rfl, below_alloc W _, PT.one h (fun b h => h) hc⟩
theorem mkP2 {W : World} {A A2 : Option Addr} {n n2 c c2 : Nat} {l l2 : List UInt8} (h : SL W A n l) (h2 : SL W A2 n2 l2) (hc : n ≤ c ∧ c ≤ maxLen) (hc2 : n2 ≤ c2 ∧ c2 ≤ maxLen) : ∃ W', W' = W.alloc (.cells #[.slice A n c, .slice A2 n2 c2] 30) ∧ Below W.heap.size W W' ∧ PT W' W.heap.size [l, l2] :=
  ⟨_, rfl, below_alloc W _, PT.two h h2 (fun b h => h) hc hc2⟩
theorem PT.rsum512 {w : World} {g : Nat} {L : List (List UInt8)} (h : PT w g L) (l : List UInt8) (hl : L.flatten = l) (hn : l.length ≤ 1000000000) (m : Nat) (hm : L.length = m) (hm2 : m ≤ 100) :
    Calls Try.prog 17 #[.slice (some ⟨g, 0, none⟩) m m] w (Gives (.agg (bcs (Ytphalfpmgbmcaaa.sum512 l)).toArray) w) := by
  subst hl
  subst hm
  exact rsum512_any L w _ _ _ h.parts (fun b hb => by have := h.lt; omega) hn (by omega)
theorem PT.rsum256 {w : World} {g : Nat} {L : List (List UInt8)} (h : PT w g L) (l : List UInt8) (hl : L.flatten = l) (hn : l.length ≤ 1000000000) (m : Nat) (hm : L.length = m) (hm2 : m ≤ 100) :
    Calls Try.prog 19 #[.slice (some ⟨g, 0, none⟩) m m] w (Gives (.agg (bcs (Ytphalfpmgbmcaaa.sum256 l)).toArray) w) := by
  subst hl
  subst hm
  exact rsum256_any L w _ _ _ h.parts (fun b hb => by have := h.lt; omega) hn (by omega)
theorem st_of (l : List Nat) (h : l.length = 8) (hb : ∀ x ∈ l, x < 18446744073709551616) : ∃ s : St, s.words = l ∧ s.Fits := by
  match l, h with
  | [a, b, c, d, e, f, g, k], _ =>
    exact ⟨⟨a, b, c, d, e, f, g, k⟩, rfl, ⟨hb _ (by simp), hb _ (by simp), hb _ (by simp), hb _ (by simp), hb _ (by simp), hb _ (by simp), hb _ (by simp), hb _ (by simp)⟩⟩
theorem eqK (w : World) : (Op.equalIn 10000 25 (.agg K80a) (.agg K80a)).run Try.prog w = .ok true w := eq25 K80 (by decide) (by decide) w
theorem sz33l (l : List UInt8) (h : l.length = 128) : (Try.prog.info? 33).map (·.size) = some (bcs l).length := by rw [size33, bcs_len, h]
end Go.Proofs.Ytphalfpmgbmcaaa
