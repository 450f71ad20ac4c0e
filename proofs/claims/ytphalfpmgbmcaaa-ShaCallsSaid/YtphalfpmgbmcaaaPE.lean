/- An array compared with itself. No statement is proved here. -/
import Derived.Test.YtphalfpmgbmcaaaJ
import Derived.DeepKeys
namespace Go.Proofs.Ytphalfpmgbmcaaa
open Go.RowKit
set_option linter.unusedVariables false

theorem mapM_some {α β : Type} (f : α → Option β) (g : α → β) : ∀ (L : List α), (∀ i ∈ L, f i = some (g i)) → L.mapM f = some (L.map g)
  | [], _ => rfl
  | x :: L, h => by
    rw [List.mapM_cons, h x (by simp), mapM_some f g L (fun i hi => h i (by simp [hi]))]
    rfl
theorem flatten_single {α β : Type} (h : α → β) : ∀ L : List α, (L.map fun i => [h i]).flatten = L.map h
  | [] => rfl
  | x :: L => by simp [flatten_single h L]
theorem keyLits_ints {P : Program} {t e n : Nat} {k : IntKind} (ht : P.underlying t = some (.array n e)) (he : P.underlying e = some (.int k)) (hce : P.cellsOf e = 1) (hct : P.cellsOf t = n) (l : List Int) (hl : l.length = n) (hw : ∀ x ∈ l, (Lit.int k x).wf = true) :
    P.keyLits 2 t (l.map fun x => Value.int k x) = some (l.map fun x => Lit.int k x) := by
  unfold Program.keyLits
  simp only [ht, hct, hce, List.length_map, hl, if_true]
  rw [mapM_some _ (fun i => [Lit.int k (l.getD i 0)])]
  · rw [Option.map_some, flatten_single]
    congr 1
    apply List.ext_getElem
    · simp [hl]
    · intro i h1 h2
      simp at h1
      simp [List.getElem?_eq_getElem (show i < l.length by omega)]
  · intro i hi
    have hi' : i < l.length := by rw [hl]; simpa using hi
    have hd : ((l.map fun x => Value.int k x).drop (i * 1)).take 1 = [Value.int k l[i]] := by
      rw [Nat.mul_one, List.drop_eq_getElem_cons (by rw [List.length_map]; exact hi')]
      simp
    rw [hd]
    have := hw l[i] (List.getElem_mem _)
    simp [Program.keyLits, he, this, List.getElem?_eq_getElem hi']
theorem eq_same {P : Program} {t e n : Nat} {k : IntKind} (ht : P.underlying t = some (.array n e)) (he : P.underlying e = some (.int k)) (hce : P.cellsOf e = 1) (hct : P.cellsOf t = n) (hk : P.keyTypeAt 2 t = true) (l : List Int) (hl : l.length = n) (hw : ∀ x ∈ l, (Lit.int k x).wf = true) (w : World) :
    (Op.equalIn 10000 t (.agg (l.map fun x => Value.int k x).toArray) (.agg (l.map fun x => Value.int k x).toArray)).run P w = .ok true w := by
  have hf : (Value.agg (l.map fun x => Value.int k x).toArray).formed P t = true := by simp [Value.formed, hct, hl, ht]
  have hl2 : P.keyLits 2 t (Value.agg (l.map fun x => Value.int k x).toArray).cells.toList = some (l.map fun x => Lit.int k x) := keyLits_ints ht he hce hct l hl hw
  obtain ⟨r, hr, hiff⟩ := run_equalIn_deep (P := P) 9998 2 t hk w 2 2 _ _ _ _ hf hf hl2 hl2
  rw [hr]
  congr 1
  exact hiff.2 rfl
theorem bcs_ints (l : List UInt8) : bcs l = (l.map fun b => (b.toNat : Int)).map fun x => Value.int .u8 x := by
  rw [List.map_map]
  rfl
theorem ucs_ints (l : List Nat) : ucs l = (l.map fun (b : Nat) => (b : Int)).map fun x => Value.int .u64 x := by
  rw [List.map_map]
  rfl
theorem wf8 (l : List UInt8) : ∀ x ∈ (l.map fun b => (b.toNat : Int)), (Lit.int .u8 x).wf = true := by
  intro x hx
  obtain ⟨b, _, rfl⟩ := List.mem_map.1 hx
  have := b.toNat_lt
  simp [Lit.wf, IntKind.min, IntKind.max, IntKind.signed, IntKind.bits]
  omega
theorem wf64 (l : List Nat) (hl : ∀ x ∈ l, x < 18446744073709551616) : ∀ x ∈ (l.map fun (b : Nat) => (b : Int)), (Lit.int .u64 x).wf = true := by
  intro x hx
  obtain ⟨b, hb, rfl⟩ := List.mem_map.1 hx
  have := hl b hb
  simp [Lit.wf, IntKind.min, IntKind.max, IntKind.signed, IntKind.bits]
  omega
theorem eq22 (l : List UInt8) (hl : l.length = 64) (w : World) : (Op.equalIn 10000 22 (.agg (bcs l).toArray) (.agg (bcs l).toArray)).run Try.prog w = .ok true w := by
  rw [bcs_ints]
  exact eq_same under22 Try.underlying5 (by kernel_rfl) (by kernel_rfl) (by kernel_rfl) _ (by rw [List.length_map, hl]) (wf8 l) w
theorem eq35 (l : List UInt8) (hl : l.length = 32) (w : World) : (Op.equalIn 10000 35 (.agg (bcs l).toArray) (.agg (bcs l).toArray)).run Try.prog w = .ok true w := by
  rw [bcs_ints]
  exact eq_same under35 Try.underlying5 (by kernel_rfl) (by kernel_rfl) (by kernel_rfl) _ (by rw [List.length_map, hl]) (wf8 l) w
theorem eq27 (l : List Nat) (hl : l.length = 8) (hw : ∀ x ∈ l, x < 18446744073709551616) (w : World) : (Op.equalIn 10000 27 (.agg (ucs l).toArray) (.agg (ucs l).toArray)).run Try.prog w = .ok true w := by
  rw [ucs_ints]
  exact eq_same under27 Try.underlying24 (by kernel_rfl) (by kernel_rfl) (by kernel_rfl) _ (by rw [List.length_map, hl]) (wf64 l hw) w
theorem eq25 (l : List Nat) (hl : l.length = 80) (hw : ∀ x ∈ l, x < 18446744073709551616) (w : World) : (Op.equalIn 10000 25 (.agg (ucs l).toArray) (.agg (ucs l).toArray)).run Try.prog w = .ok true w := by
  rw [ucs_ints]
  exact eq_same under25 Try.underlying24 (by kernel_rfl) (by kernel_rfl) (by kernel_rfl) _ (by rw [List.length_map, hl]) (wf64 l hw) w

/-- A slicing, by its run. -/
theorem exec_slice {P : Program} {o : Oper} {a : Act} {w : World} (t : TypeId) (x : Operand) (lo hi : Option Operand) (ho : o.op = .slice t x lo hi none) (v : Value) (hr : (Instr.sliceAt t (a.eval x) (lo.map a.eval) (hi.map a.eval) none).run P w = .ok v w) :
    (execOp a.eval o).run P w = .ok (.value v) w := by
  unfold execOp
  simp only [ho, Option.map_none, Sem.run_bind, Sem.run_pure, Result.andThen_ok, hr]
theorem elem30 : Try.prog.elem 30 = 5 := by kernel_rfl
/-- A part of bytes: sliced from i to j. -/
theorem cut_any {w : World} {S : Nat → Prop} {A : Option Addr} {n c : Nat} {l : List UInt8} (h : Src w S A n (bcs l)) (hnc : n ≤ c) (hcm : c ≤ maxLen) (i j : Nat) (hij : i ≤ j) (hj : j ≤ n) :
    ∃ A' c', Src w S A' (j - i) (bcs ((l.drop i).take (j - i))) ∧ j - i ≤ c' ∧ c' ≤ maxLen ∧
      (∀ W, (Instr.sliceAt 30 (.slice A n c) (some (.int .i64 i)) (some (.int .i64 j)) none).run Try.prog W = .ok (.slice A' (j - i) c') W) ∧
      (i = 0 → ∀ W, (Instr.sliceAt 30 (.slice A n c) none (some (.int .i64 j)) none).run Try.prog W = .ok (.slice A' (j - i) c') W) ∧
      (j = n → ∀ W, (Instr.sliceAt 30 (.slice A n c) (some (.int .i64 i)) none none).run Try.prog W = .ok (.slice A' (j - i) c') W) := by
  have hu : Try.prog.underlying 30 = some (.slice (Try.prog.elem 30)) := by rw [elem30]; exact under30
  have hsz : ∀ W, (sizeOf (Try.prog.elem 30)).run Try.prog W = .ok 1 W := fun W => by
    obtain ⟨i0, hi, _, hz, _⟩ := info_parts info5
    rw [elem30]
    simp [sizeOf, typeInfo, hi, hz]
  have hd := (h.drop_ i (by omega) hnc).take_ (j - i) (by omega)
  rw [← bcs_drop, ← bcs_takeD] at hd
  refine ⟨_, c - i, hd, by omega, by omega, fun W => ?_, fun h0 W => ?_, fun hn W => ?_⟩
  · rw [run_sliceAt_slice _ _ _ _ _ _ hu, run_slice_lh _ _ _ _ _ hu .i64 .i64 i j (by omega) (by omega) (by omega), hsz]
    simp [Result.andThen, sliced]
  · subst h0
    rw [run_sliceAt_slice _ _ _ _ _ _ hu, run_slice_h _ _ _ _ _ hu .i64 j (by omega) (by omega), hsz]
    simp [Result.andThen, sliced]
  · subst hn
    rw [run_sliceAt_slice _ _ _ _ _ _ hu, run_slice_l _ _ _ _ _ hu .i64 i (by omega) (by omega), hsz]
    simp [Result.andThen, sliced]
end Go.Proofs.Ytphalfpmgbmcaaa
