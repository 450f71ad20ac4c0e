/- Digests compared; what Read gives, in one form. No statement is proved here. -/
import Derived.Test.YtkglicidjdifkaaRL
import Derived.Test.YtkglicidjdifkaaAR
import Derived.DeepKeys
namespace Go.Proofs.Ytkglicidjdifkaa
open Go.RowKit
set_option linter.unusedVariables false
set_option linter.unusedSimpArgs false
theorem keyLits_bytes {P : Program} {t e n : Nat} (ht : P.underlying t = some (.array n e)) (he : P.underlying e = some (.int .u8)) (hce : P.cellsOf e = 1) (hct : P.cellsOf t = n) (l : List UInt8) (hl : l.length = n) :
    P.keyLits 2 t (bcs l) = some (l.map fun b => Lit.int .u8 (b.toNat : Int)) := by
  unfold Program.keyLits
  simp only [ht, hct, hce, bcs_len, hl, if_true]
  rw [mapM_some _ (fun i => [Lit.int .u8 ((l.getD i 0).toNat : Int)])]
  · rw [Option.map_some, flatten_single]
    congr 1
    apply List.ext_getElem
    · simp [hl]
    · intro i h1 h2
      simp at h1
      simp [List.getElem?_eq_getElem (show i < l.length by omega)]
  · intro i hi
    have hi' : i < l.length := by rw [hl]; simpa using hi
    have hd : ((bcs l).drop (i * 1)).take 1 = [bc l[i]] := by
      rw [Nat.mul_one, List.drop_eq_getElem_cons (by rw [bcs_len]; exact hi')]
      simp [bcs]
    rw [hd]
    have hb : (l[i]).toNat < 256 := l[i].toNat_lt
    have hw : (Lit.int .u8 (l[i].toNat : Int)).wf = true := by
      simp [Lit.wf, IntKind.min, IntKind.max, IntKind.signed, IntKind.bits]
      omega
    simp [Program.keyLits, he, bc, hw, List.getElem?_eq_getElem hi']

theorem lits_inj (a b : List UInt8) (h : (a.map fun b => Lit.int .u8 (b.toNat : Int)) = b.map fun b => Lit.int .u8 (b.toNat : Int)) : a = b := by
  induction a generalizing b with
  | nil => cases b with
    | nil => rfl
    | cons _ _ => simp at h
  | cons x a ih => cases b with
    | nil => simp at h
    | cons y b =>
      simp only [List.map_cons, List.cons.injEq, Lit.int.injEq, true_and] at h
      rw [ih b h.2, UInt8.toNat_inj.1 (by omega : x.toNat = y.toNat)]

theorem eq23 (a b : List UInt8) (ha : a.length = 32) (hb : b.length = 32) (w : World) : (Op.equalIn 10000 23 (.agg (bcs a).toArray) (.agg (bcs b).toArray)).run Try.prog w = .ok (decide (a = b)) w := by
  have hk : Try.prog.keyTypeAt 2 23 = true := by kernel_rfl
  have hf : ∀ l : List UInt8, l.length = 32 → (Value.agg (bcs l).toArray).formed Try.prog 23 = true := by
    intro l hl
    have hc : Try.prog.cellsOf 23 = 32 := by kernel_rfl
    simp [Value.formed, hc, bcs_len, hl]
  have hl : ∀ l : List UInt8, l.length = 32 → Try.prog.keyLits 2 23 (Value.agg (bcs l).toArray).cells.toList = some (l.map fun b => Lit.int .u8 (b.toNat : Int)) := by
    intro l hl
    exact keyLits_bytes under23 Try.underlying5 (by kernel_rfl) (by kernel_rfl) l hl
  obtain ⟨r, hr, hiff⟩ := run_equalIn_deep (P := Try.prog) 9998 2 23 hk w 2 2 _ _ _ _ (hf a ha) (hf b hb) (hl a ha) (hl b hb)
  rw [hr]
  congr 1
  by_cases h : a = b
  · subst h
    rw [decide_eq_true rfl]
    exact hiff.2 rfl
  · rw [decide_eq_false h]
    cases r
    · rfl
    · exact absurd (lits_inj a b (hiff.1 rfl)) h

/-- Read, in one form. -/
def ReadSome (w : World) (ch b : List UInt8) (e : Ending) (w' : World) : Prop :=
  ∃ (k : UInt8) (A : Option Addr) (d ch' : List UInt8) (c2 sz : Nat), e = .returned (.tuple #[vR k A d.length c2, .int .i64 (sz : Int), .agg (bcs ch').toArray, .int .i64 (readE ch b : Int)]) ∧ ch'.length = 32 ∧
    Src w' (fun g => w.heap.size ≤ g ∧ g < w'.heap.size) A d.length (bcs d) ∧ d.length ≤ c2 ∧ c2 ≤ maxLen ∧ Below w.heap.size w w' ∧ d.length ≤ 8192 ∧
    (readE ch b = 0 → k = readK b ∧ d = readD b ∧ sz = sizeR d.length ∧ ch' = nextL ch k d)
theorem read_some (w : World) (S : Nat → Prop) (ch : List UInt8) (hl : ch.length = 32) (A : Option Addr) (n c : Nat) (b : List UInt8) (hs : Src w S A n (bcs b)) (hS : ∀ b, S b → b < w.heap.size) (hc : n ≤ c ∧ c ≤ maxLen) (hn : n ≤ 1000000000) :
    Calls Try.prog 9 #[.agg (bcs ch).toArray, .slice A n c] w (ReadSome w ch b) := by
  refine (recread_any w S ch hl A n c b hs hS hc hn).mono ?_
  rintro e w' ⟨h0, h1, hb⟩
  by_cases he : readE ch b = 0
  · obtain ⟨A2, c2, rfl, hs2, h2, h3⟩ := h0 he
    have hok := (readE_ok he).1
    refine ⟨_, A2, readD b, _, c2, _, by rw [he]; rfl, nextL_len _ _ _, hs2, h2, h3, hb, by simp [okR] at hok; exact hok.2, fun _ => ⟨rfl, rfl, rfl, rfl⟩⟩
  · have := h1 he
    subst this
    exact ⟨0, none, [], List.replicate 32 0, 0, 0, rfl, by simp, Src.nil_ _ _ _, Nat.le_refl _, by simp [maxLen], hb, by simp, fun h => absurd h he⟩
/-- An alloc and a store of a digest. -/
theorem pack2 {w p q : World} {ch : List UInt8} (b1 : Below w.heap.size w p) (hq : DAt q w.heap.size ch) (g : p.grownBy q (some w.heap.size)) : Below w.heap.size w q ∧ DAt q w.heap.size ch :=
  ⟨b1.grown g b1.size (fun r e => by injection e with e; omega), hq⟩
/-- Two allocs, and two stores into them. -/
theorem pack4 {w p q r s : World} {k : UInt8} {A : Option Addr} {n c : Nat} {ch : List UInt8} (b1 : Below w.heap.size w p) (z1 : p.heap.size = w.heap.size + 1) (b2 : Below p.heap.size p q) (hr : RAt r w.heap.size k A n c) (g3 : q.grownBy r (some w.heap.size))
    (hs : DAt s p.heap.size ch) (g4 : r.grownBy s (some p.heap.size)) : Below w.heap.size w s ∧ RAt s w.heap.size k A n c ∧ DAt s p.heap.size ch :=
  ⟨((b1.trans (b2.mono (by omega))).grown g3 (by have := b2.size; omega) (fun r e => by injection e with e; omega)).grown g4 (by have := b2.size; have := g3.size; omega) (fun r e => by injection e with e; omega),
    hr.grown g4 (fun r e => by cases e; omega), hs⟩
end Go.Proofs.Ytkglicidjdifkaa
