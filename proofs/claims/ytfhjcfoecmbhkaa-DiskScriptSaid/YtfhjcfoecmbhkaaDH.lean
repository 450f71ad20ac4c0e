/- Cached sectors that are kept go to the disk; the cache is emptied: a flush, a crash. No statement is proved here. -/
import Derived.Test.YtfhjcfoecmbhkaaDF
import Derived.Test.YtfhjcfoecmbhkaaDG
namespace Go.Proofs.Ytfhjcfoecmbhkaa
open Go.RowKit Go.Maps
set_option linter.unusedVariables false
set_option linter.unusedSimpArgs false

theorem run_clearM {w : World} {b k : Nat} {D : DataW Value} (h : w.ownsMap Try.prog 3 tokR b k D) (ty : TypeId) :
    ∃ v w', (Builtin.clear_ #[65] ty #[.map (some b)]).run Try.prog w = .ok v w' ∧ w'.ownsMap Try.prog 3 tokR b 0 (.map []) ∧ w.grownBy w' (some b) := by
  obtain ⟨es, clock, hb, F, _, hD⟩ := h
  refine ⟨.tuple #[], ChangeMaps.setBlock w b (.map #[] clock), by simp [Builtin.clear_, run_underlying under65, MapKept.run_getObj_map hb, MapKept.run_setObj_map _ hb, Result.andThen]; rfl, ?_, ?_⟩
  · exact ⟨#[], clock, ChangeMaps.heap_setBlock_same hb _, ⟨by simp, MapKept.stamped_empty clock, by simp⟩, by simp, rfl⟩
  · exact ⟨rfl, rfl, rfl, by simp [ChangeMaps.setBlock], fun i _ hi => ChangeMaps.heap_setBlock_other hb _ (fun e => hi (by rw [e]))⟩
section
variable {P : Program} {ops : Array Oper} {rest : List Oper} {o : Oper} {a : Act} {w : World} {Q : Exit → Act → World → Prop}
theorem wpList_clearM (hgd : Region.wanted o (yielded ops a.tmps) = true) (x : Operand) (ho : o.op = .call { callee := .builtin .clear, args := #[x], argTypes := #[65] }) {b k : Nat} {D : DataW Value} (hx : a.eval x = .map (some b)) (hown : w.ownsMap Try.prog 3 tokR b k D)
    (h : ∀ v w', w'.ownsMap Try.prog 3 tokR b 0 (.map []) → w.grownBy w' (some b) → wpList Try.prog ops Q rest (a.put o.dst v) w') : wpList Try.prog ops Q (o :: rest) a w := by
  obtain ⟨v, w', hr, h1, h2⟩ := run_clearM hown o.type
  refine wpList_exec hgd v (w' := w') ?_ (h v w' h1 h2)
  unfold execOp
  simp only [ho, resolve, invoke, builtin, Sem.run_bind, Sem.run_pure, Result.andThen_ok, List.map_toArray, List.map_cons, List.map_nil, hx, hr]
/-- A look-up of a cached sector. -/
theorem exec_look (m x : Operand) (ho : o.op = .lookup 65 m x false) {n i b k : Nat} {D : DataW Value} {C : Nat → Option (List UInt8)} (hm : a.eval m = .map (some b)) (hown : w.ownsMap Try.prog 3 tokR b k D) (hca : CAs D n C) (hx : a.eval x = .int .i64 (i : Int)) (hi : i < n) (hn : n ≤ 16384) (s : List UInt8) (hs : C i = some s) :
    (execOp a.eval o).run Try.prog w = .ok (.value (.agg (bcs s).toArray)) w := by
  obtain ⟨v, ps, hrun, hv⟩ := hown.lookup K3 under65 (zero63 w) (zd := .held (.agg (zarr 256))) (zp := []) rfl (ky_of (i := i) (by omega))
  rw [hca.at_ i s hi hs] at hv
  have h2 := tokR_inj hv
  subst h2
  unfold execOp
  simp only [ho, hm, hx, Sem.run_bind, Sem.run_pure, Result.andThen_ok, hrun]
end
section
variable {w w' : World} {lo hi p n bs bm cap : Nat} {S : Nat → List UInt8} {C : Nat → Option (List UInt8)} {cur : Array Value} {D : DataW Value}
theorem DkB.congr {T : Nat → List UInt8} (h : DkB w lo hi p n S C bs bm cap cur D) (hST : ∀ i, i < n → T i = S i) : DkB w lo hi p n T C bs bm cap cur D :=
  ⟨h.hp, h.hs, h.hcs, h.hnc, h.hcm, by rw [h.ht, flat_congr (fun i hi => (hST i hi).symm)], h.hm, h.ca, h.p1, h.s1, h.m1, h.ps, h.pm, h.sm, h.n1, h.n2, h.hle, fun i hi => by rw [hST i hi]; exact h.sok i hi, h.cok⟩
/-- A sector is put on the disk itself. -/
theorem DkB.put (h : DkB w lo hi p n S C bs bm cap cur D) {i : Nat} (hi' : i < n) {s : List UInt8} (hsl : s.length = 256)
    (hh : w'.heap[bs]? = some (.cells (cur.toList.take (i * 256) ++ (bcs s).toArray.toList ++ cur.toList.drop (i * 256 + (bcs s).toArray.size)).toArray 63 (0, 0))) (hg : w.grownBy w' (some bs)) :
    DkB w' lo hi p n (upd S i s) C bs bm cap (cur.toList.take (i * 256) ++ (bcs s).toArray.toList ++ cur.toList.drop (i * 256 + (bcs s).toArray.size)).toArray D := by
  have hle := h.hle
  have hp1 := h.p1
  have hm1 := h.m1
  have hnc := h.hnc
  have hcs := h.hcs
  have hcl : cur.toList.length = cap * 256 := by simpa using hcs
  have hb : (bcs s).length = 256 := by rw [bcs_len, hsl]
  refine ⟨(hg.block p (by omega) (by simp; have := h.ps; omega)).trans h.hp, hh, ?_, hnc, h.hcm, ?_, ?_, h.ca, hp1, h.s1, hm1, h.ps, h.pm, h.sm, h.n1, h.n2, Nat.le_trans hle hg.size, h.sok.upd hsl, h.cok⟩
  · simp only [List.size_toArray, List.length_append, List.length_take, List.length_drop, hcl, hb]
    omega
  · rw [← flat_put h.sok hi' s, bcs_append, bcs_append]
    have e1 : bcs ((flat n S).take (256 * i)) = cur.toList.take (i * 256) := by
      unfold bcs
      rw [List.map_take]
      show (bcs (flat n S)).take _ = _
      rw [← h.ht, List.take_take]
      congr 1
      omega
    have e2 : bcs ((flat n S).drop (256 * i + 256)) = (cur.toList.take (256 * n)).drop (i * 256 + 256) := by
      unfold bcs
      rw [List.map_drop]
      show (bcs (flat n S)).drop _ = _
      rw [← h.ht]
      congr 1
      omega
    rw [e1, e2]
    simp only [List.toList_toArray, List.size_toArray, hb]
    have hl1 : (cur.toList.take (i * 256) ++ bcs s).length = i * 256 + 256 := by
      rw [List.length_append, List.length_take, hb, hcl]; omega
    rw [List.take_append, hl1, List.take_of_length_le (by rw [hl1]; omega), List.drop_take]
  · obtain ⟨es, clock, hm, r⟩ := h.hm
    exact ⟨es, clock, (hg.block bm (by omega) (by simp; have := h.sm; omega)).trans hm, r⟩
/-- The cache is emptied. -/
theorem DkB.wipe (h : DkB w lo hi p n S C bs bm cap cur D) (hm : w'.ownsMap Try.prog 3 tokR bm 0 (.map [])) (hg : w.grownBy w' (some bm)) : DkB w' lo hi p n S (fun _ => none) bs bm cap cur (.map []) := by
  have hle := h.hle
  have hp1 := h.p1
  have hs1 := h.s1
  exact ⟨(hg.block p (by omega) (by simp; have := h.pm; omega)).trans h.hp, (hg.block bs (by omega) (by simp; have := h.sm; omega)).trans h.hs, h.hcs, h.hnc, h.hcm, h.ht, hm, CAs.empty n, hp1, hs1, h.m1, h.ps, h.pm, h.sm, h.n1, h.n2, Nat.le_trans hle hg.size, h.sok, fun i hi s hc => by cases hc⟩
end
end Go.Proofs.Ytfhjcfoecmbhkaa
