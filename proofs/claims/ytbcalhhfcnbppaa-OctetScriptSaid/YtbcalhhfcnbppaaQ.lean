/- Two arrays of bytes compared. No statement is proved here. -/
import Derived.Test.YtbcalhhfcnbppaaL
import Derived.DeepKeys
namespace Go.Proofs.Ytbcalhhfcnbppaa
open Go.RowKit

theorem mapM_some {α β : Type} (f : α → Option β) (g : α → β) : ∀ (L : List α), (∀ i ∈ L, f i = some (g i)) → L.mapM f = some (L.map g)
  | [], _ => rfl
  | x :: L, h => by
    rw [List.mapM_cons, h x (by simp), mapM_some f g L (fun i hi => h i (by simp [hi]))]
    rfl
theorem flatten_single {α β : Type} (h : α → β) : ∀ L : List α, (L.map fun i => [h i]).flatten = L.map h
  | [] => rfl
  | x :: L => by simp [flatten_single h L]

theorem keyLits_bytes {P : Program} {t e n : Nat} (ht : P.underlying t = some (.array n e)) (he : P.underlying e = some (.int .u8)) (hce : P.cellsOf e = 1) (hct : P.cellsOf t = n) (l : List UInt8) (hl : l.length = n) :
    P.keyLits 2 t (bcs l) = some (l.map fun b => Lit.int .u8 (b.toNat : Int)) := by
  unfold Program.keyLits
  simp only [ht, hct, hce, bcs_len, hl, if_true]
  rw [mapM_some _ (fun i => [Lit.int .u8 ((l.getD i 0).toNat : Int)])]
  · rw [Option.map_some, flatten_single]
    congr 1
    apply List.ext_getElem
    · simp [hl]
    · intro i h1 h2
      simp at h1
      simp [List.getElem?_eq_getElem (show i < l.length by omega)]
  · intro i hi
    have hi' : i < l.length := by rw [hl]; simpa using hi
    have hd : ((bcs l).drop (i * 1)).take 1 = [bc l[i]] := by
      rw [Nat.mul_one, List.drop_eq_getElem_cons (by rw [bcs_len]; exact hi')]
      simp [bcs]
    rw [hd]
    have hb : (l[i]).toNat < 256 := l[i].toNat_lt
    have hw : (Lit.int .u8 (l[i].toNat : Int)).wf = true := by
      simp [Lit.wf, IntKind.min, IntKind.max, IntKind.signed, IntKind.bits]
      omega
    simp [Program.keyLits, he, bc, hw, List.getElem?_eq_getElem hi']

theorem lits_inj (a b : List UInt8) (h : (a.map fun b => Lit.int .u8 (b.toNat : Int)) = b.map fun b => Lit.int .u8 (b.toNat : Int)) : a = b := by
  induction a generalizing b with
  | nil => cases b with
    | nil => rfl
    | cons _ _ => simp at h
  | cons x a ih => cases b with
    | nil => simp at h
    | cons y b =>
      simp only [List.map_cons, List.cons.injEq, Lit.int.injEq, true_and] at h
      rw [ih b h.2, UInt8.toNat_inj.1 (by omega : x.toNat = y.toNat)]

theorem eq33 (a b : List UInt8) (ha : a.length = 32) (hb : b.length = 32) (w : World) : (Op.equalIn 10000 33 (.agg (bcs a).toArray) (.agg (bcs b).toArray)).run Try.prog w = .ok (decide (a = b)) w := by
  have hk : Try.prog.keyTypeAt 2 33 = true := by kernel_rfl
  have hf : ∀ l : List UInt8, l.length = 32 → (Value.agg (bcs l).toArray).formed Try.prog 33 = true := by
    intro l hl
    have hc : Try.prog.cellsOf 33 = 32 := by kernel_rfl
    simp [Value.formed, hc, bcs_len, hl]
  have hl : ∀ l : List UInt8, l.length = 32 → Try.prog.keyLits 2 33 (Value.agg (bcs l).toArray).cells.toList = some (l.map fun b => Lit.int .u8 (b.toNat : Int)) := by
    intro l hl
    exact keyLits_bytes under33 Try.underlying5 (by kernel_rfl) (by kernel_rfl) l hl
  obtain ⟨r, hr, hiff⟩ := run_equalIn_deep (P := Try.prog) 9998 2 33 hk w 2 2 _ _ _ _ (hf a ha) (hf b hb) (hl a ha) (hl b hb)
  rw [hr]
  congr 1
  by_cases h : a = b
  · subst h
    rw [decide_eq_true rfl]
    exact hiff.2 rfl
  · rw [decide_eq_false h]
    cases r
    · rfl
    · exact absurd (lits_inj a b (hiff.1 rfl)) h
theorem zarr32 : zarr 32 = (bcs (List.replicate 32 0)).toArray := by rw [← zarr_bcs]
theorem eq33_zero (w : World) : (Op.equalIn 10000 33 (.agg (zarr 32)) (.agg (zarr 32))).run Try.prog w = .ok true w := by
  rw [zarr32, eq33 _ _ (by simp) (by simp)]
  simp
/-- The zero digest as the text writes it. -/
theorem eq33_lit (w : World) : (Op.equalIn 10000 33 (.agg (zarr 32)) (.agg #[.int .u8 0, .int .u8 0, .int .u8 0, .int .u8 0, .int .u8 0, .int .u8 0, .int .u8 0, .int .u8 0, .int .u8 0, .int .u8 0, .int .u8 0, .int .u8 0, .int .u8 0, .int .u8 0, .int .u8 0, .int .u8 0, .int .u8 0, .int .u8 0, .int .u8 0, .int .u8 0, .int .u8 0, .int .u8 0, .int .u8 0, .int .u8 0, .int .u8 0, .int .u8 0, .int .u8 0, .int .u8 0, .int .u8 0, .int .u8 0, .int .u8 0, .int .u8 0])).run Try.prog w = .ok true w := eq33_zero w
end Go.Proofs.Ytbcalhhfcnbppaa
