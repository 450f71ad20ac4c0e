/- The document's own disk: in memory; its size, a read. No statement is proved here. -/
import Derived.Test.YtfhjcfoecmbhkaaDF
namespace Go.Proofs.Ytfhjcfoecmbhkaa
open Go.RowKit Go.Maps
set_option linter.unusedVariables false
set_option linter.unusedSimpArgs false

/-- What lies in a cell of the cache. -/
def Slot (w : World) (lo bb bc : Nat) (u : Value) : Option (List UInt8) → Prop
  | none => u = .slice none 0 0
  | some s => ∃ g c, u = .slice (some ⟨g, 0, none⟩) 256 c ∧ lo ≤ g ∧ g < w.heap.size ∧ g ≠ bb ∧ g ≠ bc ∧ Src w (fun b => b = g) (some ⟨g, 0, none⟩) 256 (bcs s)
/-- The object at r is the document's disk of n sectors S, of which C are cached; all of it lies from lo on. -/
structure RfB (w : World) (lo r n : Nat) (S : Nat → List UInt8) (C : Nat → Option (List UInt8)) (bb bc : Nat) (cs : List Value) : Prop where
  hr : w.heap[r]? = some (.cells #[.slice (some ⟨bb, 0, none⟩) (256 * n) (256 * n), .slice (some ⟨bc, 0, none⟩) n n] 52 (0, 0))
  hb : w.heap[bb]? = some (.cells (bcs (flat n S)).toArray 5 (0, 0))
  hc : w.heap[bc]? = some (.cells cs.toArray 27 (0, 0))
  cl : cs.length = n
  sl : ∀ i u, cs[i]? = some u → Slot w lo bb bc u (C i)
  r1 : lo ≤ r
  b1 : lo ≤ bb
  c1 : lo ≤ bc
  rb : r ≠ bb
  rc : r ≠ bc
  n1 : 1 ≤ n
  n2 : n ≤ 16384
  sok : SOk n S
  cok : COk n C
def Rf (w : World) (lo hi r n : Nat) (S : Nat → List UInt8) (C : Nat → Option (List UInt8)) : Prop := ∃ bb bc cs, RfB w lo r n S C bb bc cs ∧ r < hi ∧ bb < hi ∧ bc < hi

section
variable {w w' : World} {lo hi r n bb bc : Nat} {S : Nat → List UInt8} {C : Nat → Option (List UInt8)} {cs : List Value}
theorem Slot.keeps {G : Nat → Prop} {u : Value} {q : Option (List UInt8)} (h : Slot w lo bb bc u q) (hk : Keeps G w w') (hG : ∀ b, lo ≤ b → b < w.heap.size → b ≠ bb → b ≠ bc → ¬ G b) : Slot w' lo bb bc u q := by
  cases q with
  | none => exact h
  | some s =>
    obtain ⟨g, c, e, h1, h2, h3, h4, h5⟩ := h
    exact ⟨g, c, e, h1, Nat.lt_of_lt_of_le h2 hk.size, h3, h4, h5.keeps hk (fun b hb => by subst hb; exact ⟨h2, hG _ h1 h2 h3 h4⟩)⟩
theorem RfB.lts (h : RfB w lo r n S C bb bc cs) : r < w.heap.size ∧ bb < w.heap.size ∧ bc < w.heap.size :=
  ⟨(Array.getElem?_eq_some_iff.1 h.hr).1, (Array.getElem?_eq_some_iff.1 h.hb).1, (Array.getElem?_eq_some_iff.1 h.hc).1⟩
theorem RfB.keeps {G : Nat → Prop} (h : RfB w lo r n S C bb bc cs) (hk : Keeps G w w') (hG : ∀ b, lo ≤ b → ¬ G b) : RfB w' lo r n S C bb bc cs := by
  obtain ⟨l1, l2, l3⟩ := h.lts
  exact ⟨(hk.block r l1 (hG r h.r1)).trans h.hr, (hk.block bb l2 (hG bb h.b1)).trans h.hb, (hk.block bc l3 (hG bc h.c1)).trans h.hc, h.cl, fun i u hu => (h.sl i u hu).keeps hk (fun b hb _ _ _ => hG b hb), h.r1, h.b1, h.c1, h.rb, h.rc, h.n1, h.n2, h.sok, h.cok⟩
theorem Rf.keeps {G : Nat → Prop} (h : Rf w lo hi r n S C) (hk : Keeps G w w') (hG : ∀ b, lo ≤ b → ¬ G b) : Rf w' lo hi r n S C := by
  obtain ⟨bb, bc, cs, h, hh⟩ := h
  exact ⟨bb, bc, cs, h.keeps hk hG, hh⟩
theorem Rf.below (h : Rf w lo hi r n S C) (hb : Below w.heap.size w w') : Rf w' lo hi r n S C := h.keeps (Keeps.of_below (G := fun _ => False) hb) (fun _ _ => id)
theorem RfB.d0 (h : RfB w lo r n S C bb bc cs) : w.cell? ⟨r, 0, none⟩ = some (.slice (some ⟨bb, 0, none⟩) (256 * n) (256 * n)) := by
  rw [cell_of_row w r 0 _ _ _ h.hr]; rfl
theorem RfB.d1 (h : RfB w lo r n S C bb bc cs) : w.cell? ⟨r, 1, none⟩ = some (.slice (some ⟨bc, 0, none⟩) n n) := by
  rw [cell_of_row w r 1 _ _ _ h.hr]; rfl
theorem RfB.slot (h : RfB w lo r n S C bb bc cs) {i : Nat} (hi : i < n) : ∃ u, cs[i]? = some u ∧ w.cell? ⟨bc, i, none⟩ = some u ∧ Slot w lo bb bc u (C i) := by
  have hl : i < cs.length := by rw [h.cl]; exact hi
  refine ⟨cs[i], List.getElem?_eq_getElem hl, ?_, h.sl i _ (List.getElem?_eq_getElem hl)⟩
  rw [cell_of_row w bc i _ _ _ h.hc]
  simp [hl]

set_option maxHeartbeats 600000 in
theorem rsize_any (h : Rf w lo hi r n S C) : Calls Try.prog 42 #[.pointer (some ⟨r, 0, none⟩)] w fun e w' => e = .returned (.int .i64 (n : Int)) ∧ w' = w := by
  obtain ⟨bb, bc, cs, h, -⟩ := h
  have d1 := h.d1
  clear h
  go_enter Try.func42, Try.ntmps42
  go_wp2
  go_ret
  exact ⟨rfl, rfl⟩
theorem neq_nil27 (w : World) (a : Option Addr) (n c n' c' : Nat) : (binOp .neq 27 (.slice a n c) (.slice none n' c')).run Try.prog w = .ok (.bool (!a.isNone)) w := by
  have := eq_nil27 w a n c n' c'
  simp only [binOp] at this ⊢
  simp [Lib.run_equalIn_slice_nil w 9999 27 5 a n c n' c' under27, show Op.equal 27 (.slice a n c) (.slice none n' c') = Op.equalIn (9999 + 1) 27 (.slice a n c) (.slice none n' c') from rfl]
theorem slice_sec (b n i : Nat) (hi : i < n) (hn : n ≤ 16384) (W : World) :
    (Instr.sliceAt 27 (.slice (some ⟨b, 0, none⟩) (256 * n) (256 * n)) (some (.int .i64 ((i : Int) * 256))) (some (.int .i64 (((i : Int) + 1) * 256))) none).run Try.prog W = .ok (.slice (some ⟨b, 256 * i, none⟩) 256 (256 * n - 256 * i)) W := by
  have e : ((i : Int) * 256) = ((256 * i : Nat) : Int) := by omega
  have e2 : (((i : Int) + 1) * 256) = ((256 * i + 256 : Nat) : Int) := by omega
  have u27 : Try.prog.underlying 27 = some (.slice (Try.prog.elem 27)) := by kernel_rfl
  have sz : (sizeOf (Try.prog.elem 27)).run Try.prog W = .ok 1 W := by
    rw [show Try.prog.elem 27 = 5 from by kernel_rfl]
    exact Try.sizeOf5 W
  rw [e2, e, run_sliceAt_slice _ _ _ _ _ _ u27, run_slice_lh _ _ _ _ _ u27 .i64 .i64 _ _ (by omega) (by omega) (by omega), sz]
  simp [Result.andThen, sliced, Addr.add]
  have t1 : (256 * (i : Int)).toNat = 256 * i := by omega
  have t2 : (256 * (i : Int) + 256).toNat = 256 * i + 256 := by omega
  rw [t1, t2, if_neg (by omega)]
  refine ⟨?_, by omega, rfl⟩
  split
  · have : i = 0 := by omega
    subst this
    rfl
  · rfl

set_option maxRecDepth 100000 in
set_option maxHeartbeats 1000000 in
theorem rread_in (h : Rf w lo hi r n S C) (i : Nat) (hi' : i < n) :
    Calls Try.prog 21 #[.pointer (some ⟨r, 0, none⟩), .int .i64 (i : Int)] w fun e w' => ∃ v, e = .returned (.tuple #[v, .int .i64 0]) ∧ w'.ownsRow w.heap.size 5 1 v 256 (bcs (rd S C i)) ∧ Below w.heap.size w w' := by
  have hS := rsize_any h
  obtain ⟨bb, bc, cs, h, -⟩ := h
  obtain ⟨i0, hi0, hq0, hq1, hq2⟩ := info_parts info5
  have d0 := h.d0
  have d1 := h.d1
  obtain ⟨u, _, hu, hslot⟩ := h.slot hi'
  have hn2 := h.n2
  have h0 : ¬ ((i : Int) < 0) := by omega
  have h1 : (i : Int) < (n : Int) := by omega
  have hnn := neq_nil27
  have hsl := slice_sec bb n i hi' hn2
  have hsS := h.sok i hi'
  have hsec : Src w (fun b => b = bb) (some ⟨bb, 256 * i, none⟩) 256 (bcs (S i)) := ⟨by rw [bcs_len, hsS], fun _ => ⟨bb, 256 * i, rfl, rfl, (fun k hk => by
    rw [cell_of_row w bb _ _ _ _ h.hb, bcs_get]
    have := flat_byte h.sok hi' hk
    simp [bcs, this])⟩⟩
  have hsec2 := hsec.alloc (fun b hb => by rw [hb]; exact h.lts.2.1) (.cells #[] 5)
  have HSEC := Lib.hid hsec2
  have d0a := (World.cell?_alloc_lt w (.cells #[] 5) ⟨r, 0, none⟩ h.lts.1).trans d0
  clear hsec hsec2
  have HLT := Lib.hid h.lts
  clear h
  unfold rd
  cases hc : C i with
  | none =>
    rw [hc] at hslot
    obtain rfl : u = .slice none 0 0 := hslot
    simp only [Option.getD_none]
    have hw1 : IntKind.i64.wrap ((i : Int) * 256) = (i : Int) * 256 := IntWalk.i64_in _ (by omega)
    have hw2 : IntKind.i64.wrap ((i : Int) + 1) = (i : Int) + 1 := IntWalk.i64_in _ (by omega)
    have hw3 : IntKind.i64.wrap (((i : Int) + 1) * 256) = ((i : Int) + 1) * 256 := IntWalk.i64_in _ (by omega)
    clear hc
    go_enter Try.func21, Try.ntmps21
    go_wp2_with (first | (go_at_call 42; refine hS.mono ?_; rintro e w' ⟨rfl, rfl⟩) | (at_builtin; go_must (refine wpList_app _ rfl _ _ 27 rfl w'.heap.size 5 i0 (.int .u8 0) 1 under27 hi0 hq0 hq1 hq2 rfl _ 0 [] rfl (World.ownsRow_made w' #[] 0 (Nat.le_refl _) (Nat.zero_le _) (by simp)) _ _ 256 _ (bcs (S i)) rfl HSEC.out (bcs_one _) (by unfold maxLen; omega) (by omega) (by simp) ?_; intro v2 w2 hown hg _)))
    all_goals
      go_ret2
      refine ⟨v2, rfl, by simpa using hown, ((Below.refl _ w').alloc (Nat.le_refl _) _).grown hg (by simp) (by intro k hk; have hk2 : some w'.heap.size = some k := hk; injection hk2 with hk2; omega)⟩
  | some s =>
    rw [hc] at hslot
    obtain ⟨g, c, rfl, hg1, hg2, hg3, hg4, hgs⟩ := hslot
    simp only [Option.getD_some]
    have hss := hgs.alloc (fun b hb => by rw [hb]; exact hg2) (.cells #[] 5)
    have HSS := Lib.hid hss
    have hu2 := (World.cell?_alloc_lt w (.cells #[] 5) ⟨bc, i, none⟩ HLT.out.2.2).trans hu
    have d1a := (World.cell?_alloc_lt w (.cells #[] 5) ⟨r, 1, none⟩ HLT.out.1).trans d1
    clear hc hgs hss hsl HSEC
    go_enter Try.func21, Try.ntmps21
    go_wp2_with (first | (go_at_call 42; refine hS.mono ?_; rintro e w' ⟨rfl, rfl⟩) | (at_builtin; go_must (refine wpList_app _ rfl _ _ 27 rfl w'.heap.size 5 i0 (.int .u8 0) 1 under27 hi0 hq0 hq1 hq2 rfl _ 0 [] rfl (World.ownsRow_made w' #[] 0 (Nat.le_refl _) (Nat.zero_le _) (by simp)) _ _ 256 _ (bcs s) rfl HSS.out (bcs_one _) (by unfold maxLen; omega) (by omega) (by simp) ?_; intro v2 w2 hown hg _)))
    all_goals
      go_ret2
      refine ⟨v2, rfl, by simpa using hown, ((Below.refl _ w').alloc (Nat.le_refl _) _).grown hg (by simp) (by intro k hk; have hk2 : some w'.heap.size = some k := hk; injection hk2 with hk2; omega)⟩
set_option maxHeartbeats 600000 in
theorem rread_out (h : Rf w lo hi r n S C) (z : Int) (hz : z < 0 ∨ (n : Int) ≤ z) :
    Calls Try.prog 21 #[.pointer (some ⟨r, 0, none⟩), .int .i64 z] w fun e w' => e = .returned (.tuple #[.slice none 0 0, .int .i64 2]) ∧ w' = w := by
  have hS := rsize_any h
  clear h
  by_cases h0 : z < 0
  · go_enter Try.func21, Try.ntmps21
    go_wp2_with (go_at_call 42; refine hS.mono ?_; rintro e w' ⟨rfl, rfl⟩)
    go_ret2
    exact ⟨rfl, rfl⟩
  · have h1 : (n : Int) ≤ z := by omega
    have h2 : ¬ (z < (n : Int)) := by omega
    go_enter Try.func21, Try.ntmps21
    go_wp2_with (go_at_call 42; refine hS.mono ?_; rintro e w' ⟨rfl, rfl⟩)
    go_ret2
    exact ⟨rfl, rfl⟩
end
end Go.Proofs.Ytfhjcfoecmbhkaa
