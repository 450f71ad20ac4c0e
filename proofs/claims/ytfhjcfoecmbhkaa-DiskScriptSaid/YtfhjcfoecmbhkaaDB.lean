/- A disk in memory; what its small functions answer. No statement is proved here. -/
import Derived.Test.YtfhjcfoecmbhkaaDA
import Derived.Shelf.SlMaps.Clone
namespace Go.Proofs.Ytfhjcfoecmbhkaa
open Go.RowKit Go.Maps
set_option linter.unusedVariables false
set_option linter.unusedSimpArgs false

/-- The object at p is a disk of n sectors S, of which C are cached; all of it lies from lo on, below hi. -/
structure DkB (w : World) (lo hi p n : Nat) (S : Nat → List UInt8) (C : Nat → Option (List UInt8)) (bs bm cap : Nat) (cur : Array Value) (D : DataW Value) : Prop where
  hp : w.heap[p]? = some (.cells #[.slice (some ⟨bs, 0, none⟩) n cap, .map (some bm)] 67 (0, 0))
  hs : w.heap[bs]? = some (.cells cur 63 (0, 0))
  hcs : cur.size = cap * 256
  hnc : n ≤ cap
  hcm : cap ≤ maxLen
  ht : cur.toList.take (256 * n) = bcs (flat n S)
  hm : w.ownsMap Try.prog 3 tokR bm (Maps.size D) D
  ca : CAs D n C
  p1 : lo ≤ p ∧ p < hi
  s1 : lo ≤ bs ∧ bs < hi
  m1 : lo ≤ bm ∧ bm < hi
  ps : p ≠ bs
  pm : p ≠ bm
  sm : bs ≠ bm
  n1 : 1 ≤ n
  n2 : n ≤ 16384
  hle : hi ≤ w.heap.size
  sok : SOk n S
  cok : COk n C
def Dk (w : World) (lo hi p n : Nat) (S : Nat → List UInt8) (C : Nat → Option (List UInt8)) : Prop := ∃ bs bm cap cur D, DkB w lo hi p n S C bs bm cap cur D

theorem ownsMap_size {w : World} {b k : Nat} {D : DataW Value} (h : w.ownsMap Try.prog 3 tokR b k D) : w.ownsMap Try.prog 3 tokR b (Maps.size D) D := by
  obtain ⟨es, clock, hb, F, _, hD⟩ := h
  refine ⟨es, clock, hb, F, ?_, hD⟩
  rw [hD]
  simp [Maps.size, length_sorted]
theorem K3 : Keyed Try.prog 3 := int_keyed Try.underlying3
theorem CAs.size_le {w : World} {b k n : Nat} {D : DataW Value} {C : Nat → Option (List UInt8)} (h : CAs D n C) (hm : w.ownsMap Try.prog 3 tokR b k D) : Maps.size D ≤ n := by
  have h1 := (h.keys (hm.canon K3)).length_eq
  have h2 := cks_len n C
  obtain ⟨es, rfl, _⟩ := hm.canon K3
  simp only [List.length_map, intKeys] at h1
  simp only [Maps.size]
  omega

section
variable {w w' : World} {lo hi p n bs bm cap : Nat} {S : Nat → List UInt8} {C : Nat → Option (List UInt8)} {cur : Array Value} {D : DataW Value}
/-- What does not turn the disk's blocks keeps it. -/
theorem DkB.keeps {G : Nat → Prop} (h : DkB w lo hi p n S C bs bm cap cur D) (hk : Keeps G w w') (hG : ∀ b, lo ≤ b → b < hi → ¬ G b) : DkB w' lo hi p n S C bs bm cap cur D := by
  have hle := h.hle
  have hb : ∀ b, lo ≤ b → b < hi → w'.heap[b]? = w.heap[b]? := fun b h1 h2 => hk.block b (by omega) (hG b h1 h2)
  obtain ⟨es, clock, hm, r⟩ := h.hm
  exact ⟨(hb p h.p1.1 h.p1.2).trans h.hp, (hb bs h.s1.1 h.s1.2).trans h.hs, h.hcs, h.hnc, h.hcm, h.ht, ⟨es, clock, (hb bm h.m1.1 h.m1.2).trans hm, r⟩, h.ca, h.p1, h.s1, h.m1, h.ps, h.pm, h.sm, h.n1, h.n2, Nat.le_trans hle hk.size, h.sok, h.cok⟩
theorem Dk.keeps {G : Nat → Prop} (h : Dk w lo hi p n S C) (hk : Keeps G w w') (hG : ∀ b, lo ≤ b → b < hi → ¬ G b) : Dk w' lo hi p n S C := by
  obtain ⟨bs, bm, cap, cur, D, h⟩ := h
  exact ⟨bs, bm, cap, cur, D, h.keeps hk hG⟩
theorem Dk.below (h : Dk w lo hi p n S C) (hb : Below w.heap.size w w') : Dk w' lo hi p n S C := h.keeps (Keeps.of_below (G := fun _ => False) hb) (fun _ _ _ => id)
theorem DkB.wide {lo' hi' : Nat} (h : DkB w lo hi p n S C bs bm cap cur D) (h1 : lo' ≤ lo) (h2 : hi ≤ hi') (h3 : hi' ≤ w.heap.size) : DkB w lo' hi' p n S C bs bm cap cur D :=
  ⟨h.hp, h.hs, h.hcs, h.hnc, h.hcm, h.ht, h.hm, h.ca, ⟨by have := h.p1; omega, by have := h.p1; omega⟩, ⟨by have := h.s1; omega, by have := h.s1; omega⟩, ⟨by have := h.m1; omega, by have := h.m1; omega⟩, h.ps, h.pm, h.sm, h.n1, h.n2, h3, h.sok, h.cok⟩
theorem Dk.wide {lo' hi' : Nat} (h : Dk w lo hi p n S C) (h1 : lo' ≤ lo) (h2 : hi ≤ hi') (h3 : hi' ≤ w.heap.size) : Dk w lo' hi' p n S C := by
  obtain ⟨bs, bm, cap, cur, D, h⟩ := h
  exact ⟨bs, bm, cap, cur, D, h.wide h1 h2 h3⟩
theorem Dk.congr {T : Nat → List UInt8} (h : Dk w lo hi p n S C) (hST : ∀ i, i < n → T i = S i) : Dk w lo hi p n T C := by
  obtain ⟨bs, bm, cap, cur, D, h⟩ := h
  exact ⟨bs, bm, cap, cur, D, h.hp, h.hs, h.hcs, h.hnc, h.hcm, by rw [h.ht, flat_congr (fun i hi => (hST i hi).symm)], h.hm, h.ca, h.p1, h.s1, h.m1, h.ps, h.pm, h.sm, h.n1, h.n2, h.hle, fun i hi => by rw [hST i hi]; exact h.sok i hi, h.cok⟩
theorem DkB.c0 (h : DkB w lo hi p n S C bs bm cap cur D) : w.cell? ⟨p, 0, none⟩ = some (.slice (some ⟨bs, 0, none⟩) n cap) := by
  rw [cell_of_row w p 0 _ _ _ h.hp]; rfl
theorem DkB.c1 (h : DkB w lo hi p n S C bs bm cap cur D) : w.cell? ⟨p, 1, none⟩ = some (.map (some bm)) := by
  rw [cell_of_row w p 1 _ _ _ h.hp]; rfl
end

theorem run_neq_map_nil (w : World) (p : Option Nat) : (binOp .neq 65 (.map p) (.map none)).run Try.prog w = .ok (.bool (!p.isNone)) w := by
  simp only [binOp]
  simp [show Op.equal 65 (.map p) (.map none) = Op.equalIn (9999 + 1) 65 (.map p) (.map none) from rfl, run_equalIn_map_nil_sl w 9999 65 _ _ p Try.underlying65]

section
variable {w : World} {lo hi p n : Nat} {S : Nat → List UInt8} {C : Nat → Option (List UInt8)}
set_option maxHeartbeats 600000 in
theorem valid_any (h : Dk w lo hi p n S C) : Calls Try.prog 35 #[.pointer (some ⟨p, 0, none⟩)] w fun e w' => e = .returned (.bool true) ∧ w' = w := by
  obtain ⟨bs, bm, cap, cur, D, h⟩ := h
  have c1 := h.c1
  have hq := fun w => run_neq_map_nil w (some bm)
  clear h
  go_enter Try.func35, Try.ntmps35
  go_wp2
  go_ret
  exact ⟨rfl, rfl⟩
set_option maxHeartbeats 600000 in
theorem valid_nil (w : World) : Calls Try.prog 35 #[.pointer none] w fun e w' => e = .returned (.bool false) ∧ w' = w := by
  go_enter Try.func35, Try.ntmps35
  go_wp2
  go_ret
  exact ⟨rfl, rfl⟩
end
end Go.Proofs.Ytfhjcfoecmbhkaa
