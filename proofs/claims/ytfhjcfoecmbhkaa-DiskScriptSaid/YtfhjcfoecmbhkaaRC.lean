/- The document's own disk: what a flush and a crash do in memory. No statement is proved here. -/
import Derived.Test.YtfhjcfoecmbhkaaRB
import Derived.Laws.CopyOwn
namespace Go.Proofs.Ytfhjcfoecmbhkaa
open Go.RowKit Go.Maps
set_option linter.unusedVariables false
set_option linter.unusedSimpArgs false

theorem rsize5 : (Try.prog.info? 5).map (·.size) = some 1 := by kernel_rfl
section
variable {w w' : World} {lo up r n bb bc : Nat} {S T : Nat → List UInt8} {C D : Nat → Option (List UInt8)} {cs : List Value}
theorem RfB.congr (h : RfB w lo r n S C bb bc cs) (hS : ∀ i, i < n → T i = S i) (hC : ∀ i, i < n → D i = C i) : RfB w lo r n T D bb bc cs :=
  ⟨h.hr, by rw [flat_congr hS]; exact h.hb, h.hc, h.cl, fun i u hu => by rw [hC i (by have := (List.getElem?_eq_some_iff.1 hu).1; have := h.cl; omega)]; exact h.sl i u hu, h.r1, h.b1, h.c1, h.rb, h.rc, h.n1, h.n2, fun i hi => by rw [hS i hi]; exact h.sok i hi, fun i hi s hs => h.cok i hi s (by rw [← hC i hi]; exact hs)⟩
theorem Rf.congr (h : Rf w lo up r n S C) (hS : ∀ i, i < n → T i = S i) (hC : ∀ i, i < n → D i = C i) : Rf w lo up r n T D := by
  obtain ⟨bb, bc, cs, h, hup⟩ := h
  exact ⟨bb, bc, cs, h.congr hS hC, hup⟩
theorem RfB.bbc (h : RfB w lo r n S C bb bc cs) : bb ≠ bc := by
  intro e
  have := h.hb
  rw [e, h.hc] at this
  cases this
/-- A place is no longer cached. -/
theorem RfB.gone (h : RfB w lo r n S C bb bc cs) (i : Nat) (hi : i < n) (w3 : World)
    (hh : w3.heap[bc]? = some (.cells (cs.toArray.setIfInBounds i (.slice none 0 0)) 27 (0, 0))) (hg : w.grownBy w3 (some bc)) :
    RfB w3 lo r n S (upd C i none) bb bc (cs.set i (.slice none 0 0)) := by
  obtain ⟨l1, l2, l3⟩ := h.lts
  have hk : Keeps (fun b => b = bc) w w3 := Keeps.of_grown hg (fun q hq => by injection hq with hq; exact hq.symm)
  refine ⟨(hk.block r l1 h.rc).trans h.hr, (hk.block bb l2 h.bbc).trans h.hb, by simpa using hh, by rw [List.length_set, h.cl], ?_, h.r1, h.b1, h.c1, h.rb, h.rc, h.n1, h.n2, h.sok, ?_⟩
  · intro j u hu
    rw [List.getElem?_set] at hu
    by_cases hj : i = j
    · subst hj
      rw [if_pos rfl, if_pos (by rw [h.cl]; exact hi)] at hu
      cases hu
      rw [upd_same]
      rfl
    · rw [if_neg hj] at hu
      rw [upd_ne _ _ (fun e => hj e.symm)]
      exact (h.sl j u hu).keeps hk (fun b _ _ _ hb => hb)
  · intro j hj t ht
    by_cases e : j = i
    · subst e; rw [upd_same] at ht; cases ht
    · rw [upd_ne _ _ e] at ht
      exact h.cok j hj t ht
/-- Bytes of the cache get onto the disk. -/
theorem RfB.copied (h : RfB w lo r n S C bb bc cs) (i : Nat) (hi : i < n) (s : List UInt8) (hs : s.length = 256) (w3 : World)
    (hh : w3.heap[bb]? = some (.cells ((bcs (flat n S)).toArray.toList.take (256 * i) ++ (bcs s ++ (bcs (flat n S)).toArray.toList.drop (256 * i + (bcs s).length))).toArray 5 (0, 0))) (hg : w.grownBy w3 (some bb)) :
    RfB w3 lo r n (upd S i s) C bb bc cs := by
  obtain ⟨l1, l2, l3⟩ := h.lts
  have hk : Keeps (fun b => b = bb) w w3 := Keeps.of_grown hg (fun q hq => by injection hq with hq; exact hq.symm)
  refine ⟨(hk.block r l1 h.rb).trans h.hr, ?_, (hk.block bc l3 (fun e => h.bbc e.symm)).trans h.hc, h.cl, fun j u hu => (h.sl j u hu).keeps hk (fun b _ _ hb _ hb2 => hb hb2), h.r1, h.b1, h.c1, h.rb, h.rc, h.n1, h.n2, h.sok.upd hs, h.cok⟩
  rw [hh, ← flat_put h.sok hi s]
  congr 2
  simp [bcs, hs, List.map_take, List.map_drop]
theorem RfB.copiedK (h : RfB w lo r n S C bb bc cs) (hup : r < up ∧ bb < up ∧ bc < up) (i : Nat) (hi : i < n) (s : List UInt8) (hs : s.length = 256) :
    ∃ w4, w4 = w.setRow bb ((bcs (flat n S)).toArray.toList.take (256 * i) ++ (bcs s ++ (bcs (flat n S)).toArray.toList.drop (256 * i + (bcs s).length))).toArray ∧ RfB w4 lo r n (upd S i s) C bb bc cs ∧ Keeps (fun b => lo ≤ b ∧ b < up) w w4 :=
  ⟨_, rfl, h.copied i hi s hs _ (setRow_heap w bb _ _ 5 _ h.hb) (setRow_grown w bb _), Keeps.of_grown (setRow_grown w bb _) (fun q hq => by injection hq with hq; rw [← hq]; exact ⟨h.b1, hup.2.1⟩)⟩
end
theorem slice_on (b n i : Nat) (hi : i < n) (hn : n ≤ 16384) (W : World) :
    (Instr.sliceAt 27 (.slice (some ⟨b, 0, none⟩) (256 * n) (256 * n)) (some (.int .i64 ((i : Int) * 256))) none none).run Try.prog W = .ok (.slice (some ⟨b, 256 * i, none⟩) (256 * n - 256 * i) (256 * n - 256 * i)) W := by
  have e : ((i : Int) * 256) = ((256 * i : Nat) : Int) := by omega
  have u27 : Try.prog.underlying 27 = some (.slice (Try.prog.elem 27)) := by kernel_rfl
  have sz : (sizeOf (Try.prog.elem 27)).run Try.prog W = .ok 1 W := by
    rw [show Try.prog.elem 27 = 5 from by kernel_rfl]
    exact Try.sizeOf5 W
  rw [e, run_sliceAt_slice _ _ _ _ _ _ u27]
  rw [run_slice_l _ _ _ _ _ u27 .i64 _ (by omega) (by omega), sz]
  simp [Result.andThen, sliced, Addr.add]
  have t1 : (256 * (i : Int)).toNat = 256 * i := by omega
  rw [t1, if_neg (by omega)]
  refine ⟨?_, rfl⟩
  split
  · have : i = 0 := by omega
    subst this
    rfl
  · rfl

section
variable {w : World} {lo up r n : Nat} {S : Nat → List UInt8} {C : Nat → Option (List UInt8)}
/-- The sectors, and what is cached, once the places below i are through. -/
def doneS (C : Nat → Option (List UInt8)) (kf : Nat → Bool) (S : Nat → List UInt8) (i : Nat) : Nat → List UInt8 := fun j => if j < i then crash C kf S j else S j
def doneC (C : Nat → Option (List UInt8)) (i : Nat) : Nat → Option (List UInt8) := fun j => if j < i then none else C j
theorem doneC_next (C : Nat → Option (List UInt8)) (i j : Nat) : doneC C (i + 1) j = upd (doneC C i) i none j := by
  unfold doneC upd
  by_cases h : j = i
  · subst h; rw [if_pos (by omega), if_pos rfl]
  · rw [if_neg h]
    show _ = if j < i then none else C j
    by_cases h2 : j < i
    · rw [if_pos h2, if_pos (by omega)]
    · rw [if_neg h2, if_neg (by omega)]
theorem doneC_skip {C : Nat → Option (List UInt8)} {i : Nat} (h : C i = none) (j : Nat) : doneC C (i + 1) j = doneC C i j := by
  rw [doneC_next]
  by_cases e : j = i
  · subst e; rw [upd_same]; unfold doneC; rw [if_neg (by omega), h]
  · rw [upd_ne _ _ e]
theorem doneS_next {C : Nat → Option (List UInt8)} {kf : Nat → Bool} {S : Nat → List UInt8} {i : Nat} {s : List UInt8} (h : crash C kf S i = s) (j : Nat) : doneS C kf S (i + 1) j = upd (doneS C kf S i) i s j := by
  unfold doneS upd
  by_cases e : j = i
  · subst e; rw [if_pos (by omega), if_pos rfl, h]
  · rw [if_neg e]
    show _ = if j < i then crash C kf S j else S j
    by_cases h2 : j < i
    · rw [if_pos h2, if_pos (by omega)]
    · rw [if_neg h2, if_neg (by omega)]
theorem doneS_skip {C : Nat → Option (List UInt8)} {kf : Nat → Bool} {S : Nat → List UInt8} {i : Nat} (h : crash C kf S i = S i) (j : Nat) : doneS C kf S (i + 1) j = doneS C kf S i j := by
  rw [doneS_next h]
  by_cases e : j = i
  · subst e; rw [upd_same]; unfold doneS; rw [if_neg (by omega)]
  · rw [upd_ne _ _ e]
set_option maxRecDepth 100000 in
set_option maxHeartbeats 2000000 in
theorem rput_any (h : Rf w lo up r n S C) (kf : Nat → Bool) (all : Bool) (A : Option Addr) (c : Nat) (ks : List Bool) (SK : Nat → Prop) (hs : Src w SK A ks.length (ks.map Value.bool)) (hSK : ∀ b, SK b → b < w.heap.size ∧ ¬ lo ≤ b) (hm : ks.length ≤ 1000000000)
    (hkf : ∀ k, kf k = (all || ks.getD k false)) :
    Calls Try.prog 43 #[.pointer (some ⟨r, 0, none⟩), .slice A ks.length c, .bool all] w fun e w' => e = .returned (.tuple #[]) ∧ Rf w' lo up r n (crash C kf S) (fun _ => none) ∧ Keeps (fun b => lo ≤ b ∧ b < up) w w' := by
  have HR := Lib.hid h
  have HKS := Lib.hid hs
  have HSK := Lib.hid hSK
  have hnn := eq_nil27
  have hn2 : n ≤ 16384 := by obtain ⟨bb, bc, cs, h, -⟩ := h; exact h.n2
  clear h hs hSK
  go_enter Try.func43, Try.ntmps43
  go_wp2
  go_loopw [6, 7] (fun v6 v7 wr => ∃ i : Nat, i ≤ n ∧ v7 = .int .i64 (i : Int) ∧ v6 = .int .i64 (rank C i : Int) ∧ Rf wr lo up r n (doneS C kf S i) (doneC C i) ∧ Keeps (fun b => lo ≤ b ∧ b < up) w wr) (fun _ v7 _ => n - (valOf v7).toNat)
  case atStart => exact ⟨0, by omega, rfl, rfl, HR.out.congr (fun j _ => by unfold doneS; rw [if_neg (by omega)]) (fun j _ => by unfold doneC; rw [if_neg (by omega)]), Keeps.refl _ _⟩
  case round =>
    obtain ⟨i, hi, rfl, rfl, hr, hk⟩ := hrel
    have hS := rsize_any hr
    have HK := Lib.hid hk
    have HRR := Lib.hid hr
    clear HR hk hr
    by_cases h1 : i < n
    · have h1' : (i : Int) < (n : Int) := by omega
      have hrk := rank_succ C i
      have hrl : rank C i ≤ i := cks_len i C
      have hCi : doneC C i i = C i := by unfold doneC; rw [if_neg (by omega)]
      obtain ⟨bb, bc, cs, h, hup⟩ := HRR.out
      have HUP := Lib.hid hup
      clear hup
      have d0 := h.d0
      have d1 := h.d1
      obtain ⟨u, hcu, hu, hslot⟩ := h.slot h1
      have HH := Lib.hid h
      have HCU := Lib.hid hcu
      rw [hCi] at hslot
      clear h hcu
      cases hc : C i with
      | none =>
        rw [hc] at hslot hrk
        obtain rfl : u = .slice none 0 0 := hslot
        have hcr : crash C kf S i = S i := by unfold crash; rw [hc]
        have HNX := Lib.hid (HRR.out.congr (fun j _ => doneS_skip hcr j) (fun j _ => doneC_skip hc j))
        have hrk2 : rank C (i + 1) = rank C i := by simpa using hrk
        clear hrk HRR HH HCU hcr
        go_wp2_with (go_at_call 42; refine hS.mono ?_; rintro e w' ⟨rfl, rfl⟩)
        exact ⟨⟨i + 1, by omega, by go_num, by rw [hrk2], HNX.out, HK.out⟩, by simp [valOf]; omega⟩
      | some s =>
        rw [hc] at hslot hrk
        have hsl : s.length = 256 := by
          have := HH.out.cok i h1 s (by rw [hCi]; exact hc)
          exact this
        obtain ⟨g, c2, rfl, hg1, hg2, hg3, hg4, hgs⟩ := hslot
        have hrk2 : rank C (i + 1) = rank C i + 1 := by simpa using hrk
        have hcr : crash C kf S i = if kf (rank C i) = true then s else S i := by unfold crash; rw [hc]
        have HSL := Lib.hid hsl
        have HGS := Lib.hid hgs
        have hkk := hkf (rank C i)
        have hk16 : (rank C i : Int) ≤ 16384 := by omega
        have HC0 := Lib.hid HH.out.hc
        have HCL := Lib.hid HH.out.cl
        have hCs : doneC C i i = some s := by rw [hCi]; exact hc
        have HNC := Lib.hid (doneC_next C i)
        have HRK2 := Lib.hid hrk2
        have HCS := Lib.hid hCs
        have HDR := Lib.hid (HH.out.keeps (Keeps.drew (fun _ => False) wr) (fun _ _ => id))
        cases hkv : kf (rank C i)
        · rw [hkv] at hcr hkk
          have HNX := Lib.hid (doneS_skip (C := C) (kf := kf) (S := S) (i := i) (by simpa using hcr))
          clear hrk hgs hsl hcr HRR
          cases all
          · by_cases h2 : rank C i < ks.length
            · obtain ⟨b, o, rfl, _, hcell⟩ := (HKS.out.keeps HK.out (fun b hb => ⟨(HSK.out b hb).1, fun h9 => (HSK.out b hb).2 h9.1⟩)).lies (by omega)
              have h3 : wr.cell? ⟨b, o + rank C i, none⟩ = some (.bool false) := by
                rw [hcell _ h2, List.getElem?_map, List.getElem?_eq_getElem h2]
                rw [List.getD_eq_getElem?_getD, List.getElem?_eq_getElem h2] at hkk
                simp only [Option.map_some]
                simpa using hkk.symm
              have h2' : (rank C i : Int) < (ks.length : Int) := by omega
              clear hcell HKS hkk hkf hkv hCi hCs hc hrk2
              go_wp2_with (first | (go_at_call 42; refine hS.mono ?_; rintro e w' ⟨rfl, rfl⟩) | ((with_reducible show wpList _ _ _ (⟨none, .store 27 _ _, _, _, _, _⟩ :: _) _ _); go_must (refine wpList_store_sl rfl 27 _ _ rfl bc i rfl none 0 0 rfl 27 cs.toArray HC0.out size27 (by rw [List.size_toArray, HCL.out]; exact h1) ?_; intro w3 hh3 hg3 hz3; have HR3 := Lib.hid (HH.out.gone i h1 w3 hh3 hg3); have HK3 := Lib.hid (Keeps.of_grown (G := fun b => lo ≤ b ∧ b < up) hg3 (fun q hq => by injection hq with hq; rw [← hq]; exact ⟨HH.out.c1, HUP.out.2.2⟩)); clear hh3 hg3 hz3)))
              exact ⟨⟨i + 1, by omega, by go_num, by rw [HRK2.out]; go_num, ⟨bb, bc, _, HR3.out.congr (fun j _ => HNX.out j) (fun j _ => HNC.out j), HUP.out⟩, HK.out.trans HK3.out⟩, by simp [valOf]; omega⟩
            · have h2' : ¬ ((rank C i : Int) < (ks.length : Int)) := by omega
              clear HKS hkk hkf hkv hCi hCs hc hrk2
              go_wp2_with (first | (go_at_call 42; refine hS.mono ?_; rintro e w' ⟨rfl, rfl⟩) | ((with_reducible show wpList _ _ _ (⟨none, .store 27 _ _, _, _, _, _⟩ :: _) _ _); go_must (refine wpList_store_sl rfl 27 _ _ rfl bc i rfl none 0 0 rfl 27 cs.toArray HC0.out size27 (by rw [List.size_toArray, HCL.out]; exact h1) ?_; intro w3 hh3 hg3 hz3; have HR3 := Lib.hid (HH.out.gone i h1 w3 hh3 hg3); have HK3 := Lib.hid (Keeps.of_grown (G := fun b => lo ≤ b ∧ b < up) hg3 (fun q hq => by injection hq with hq; rw [← hq]; exact ⟨HH.out.c1, HUP.out.2.2⟩)); clear hh3 hg3 hz3)))
              exact ⟨⟨i + 1, by omega, by go_num, by rw [HRK2.out]; go_num, ⟨bb, bc, _, HR3.out.congr (fun j _ => HNX.out j) (fun j _ => HNC.out j), HUP.out⟩, HK.out.trans HK3.out⟩, by simp [valOf]; omega⟩
          · simp at hkk
        · rw [hkv] at hcr hkk
          have hsi := slice_on bb n i h1 hn2
          have hw1 : IntKind.i64.wrap ((i : Int) * 256) = (i : Int) * 256 := IntWalk.i64_in _ (by omega)
          have HNX := Lib.hid (doneS_next (C := C) (kf := kf) (S := S) (i := i) (s := s) (by simpa using hcr))
          clear hrk hgs hsl hcr HRR
          cases all
          · have h2 : rank C i < ks.length := by
              rcases Nat.lt_or_ge (rank C i) ks.length with h | h
              · exact h
              · rw [List.getD_eq_getElem?_getD, List.getElem?_eq_none h] at hkk
                simp at hkk
            obtain ⟨b, o, rfl, _, hcell⟩ := (HKS.out.keeps HK.out (fun b hb => ⟨(HSK.out b hb).1, fun h9 => (HSK.out b hb).2 h9.1⟩)).lies (by omega)
            have h3 : wr.cell? ⟨b, o + rank C i, none⟩ = some (.bool true) := by
              rw [hcell _ h2, List.getElem?_map, List.getElem?_eq_getElem h2]
              rw [List.getD_eq_getElem?_getD, List.getElem?_eq_getElem h2] at hkk
              simp only [Option.map_some]
              simpa using hkk.symm
            have h2' : (rank C i : Int) < (ks.length : Int) := by omega
            clear hcell HKS hkk hkf hkv hCi hCs hc hrk2
            go_wp2_with (go_at_call 42; refine hS.mono ?_; rintro e w' ⟨rfl, rfl⟩)
            have d0' : ({ heap := w'.heap, tape := w'.tape, drawn := w'.drawn + 1, os := w'.os, output := w'.output } : World).cell? ⟨r, 0, none⟩ = some (.slice (some ⟨bb, 0, none⟩) (256 * n) (256 * n)) := d0
            have d1' : ({ heap := w'.heap, tape := w'.tape, drawn := w'.drawn + 1, os := w'.os, output := w'.output } : World).cell? ⟨r, 1, none⟩ = some (.slice (some ⟨bc, 0, none⟩) n n) := d1
            have hu' : ({ heap := w'.heap, tape := w'.tape, drawn := w'.drawn + 1, os := w'.os, output := w'.output } : World).cell? ⟨bc, i, none⟩ = some (.slice (some ⟨g, 0, none⟩) 256 c2) := hu
            refine wp_region_still_tail 14 (by kernel_rfl) (by kernel_rfl) ?_
            simp only [List.take_succ_cons, List.take_zero, List.drop_succ_cons, List.drop_zero]
            repeat still_step
            refine wpStill_nil ?_
            have HD1 : Hid (RfB ({ heap := w'.heap, tape := w'.tape, drawn := w'.drawn + 1, os := w'.os, output := w'.output } : World) lo r n (doneS C kf S i) (doneC C i) bb bc cs) := Lib.hid (HH.out.keeps (Keeps.drew (fun _ => False) w') (fun _ _ => id))
            have HK1 : Hid (Keeps (fun b => lo ≤ b ∧ b < up) w ({ heap := w'.heap, tape := w'.tape, drawn := w'.drawn + 1, os := w'.os, output := w'.output } : World)) := Lib.hid (HK.out.trans (Keeps.drew _ w'))
            have HG1 : Hid (Src ({ heap := w'.heap, tape := w'.tape, drawn := w'.drawn + 1, os := w'.os, output := w'.output } : World) (fun b => b = g) (some ⟨g, 0, none⟩) 256 (bcs s)) := Lib.hid (HGS.out.keeps (Keeps.drew (fun _ => False) w') (fun b hb => ⟨by rw [hb]; exact hg2, id⟩))
            generalize ({ heap := w'.heap, tape := w'.tape, drawn := w'.drawn + 1, os := w'.os, output := w'.output } : World) = wd at *
            refine wpList_copy_own rfl _ _ 27 27 rfl 5 under27 rsize5 bb (256 * i) (256 * n - 256 * i) (256 * n - 256 * i) ⟨g, 0, none⟩ 256 c2 rfl rfl (bcs (flat n (doneS C kf S i))).toArray 5 HD1.out.hb (bcs s) (by rw [bcs_len, HSL.out]; exact (Nat.min_eq_left (by omega)).symm) (fun j v hv => HG1.out.cells j v hv) (by simp only [List.size_toArray, bcs_len, HSL.out]; rw [flat_len HD1.out.sok]; omega) (bcs_one s) ?_
            obtain ⟨w4, e4, hc4, hk4⟩ := HD1.out.copiedK HUP.out i h1 s HSL.out
            rw [← e4]
            have HC4 := Lib.hid hc4
            have HK4 := Lib.hid (HK1.out.trans hk4)
            clear e4 hc4 hk4
            have HC0 := Lib.hid HC4.out.hc
            have d0 := HC4.out.d0
            have d1 := HC4.out.d1
            clear HD1 HK1 HG1 HH HK hsi hw1 hS
            go_wp2_with ((with_reducible show wpList _ _ _ (⟨none, .store 27 _ _, _, _, _, _⟩ :: _) _ _); go_must (refine wpList_store_sl rfl 27 _ _ rfl bc i rfl none 0 0 rfl 27 cs.toArray HC0.out size27 (by rw [List.size_toArray, HCL.out]; exact h1) ?_; intro w3 hh3 hg3 hz3; have HR3 := Lib.hid (HC4.out.gone i h1 w3 hh3 hg3); have HK3 := Lib.hid (Keeps.of_grown (G := fun b => lo ≤ b ∧ b < up) hg3 (fun q hq => by injection hq with hq; rw [← hq]; exact ⟨HC4.out.c1, HUP.out.2.2⟩)); clear hh3 hg3 hz3))
            exact ⟨⟨i + 1, by omega, by go_num, by rw [HRK2.out]; go_num, ⟨bb, bc, _, HR3.out.congr (fun j _ => HNX.out j) (fun j _ => HNC.out j), HUP.out⟩, HK4.out.trans HK3.out⟩, by simp [valOf]; omega⟩
          · clear HKS hkk hkf hkv hCi hCs hc hrk2
            go_wp2_with (go_at_call 42; refine hS.mono ?_; rintro e w' ⟨rfl, rfl⟩)
            have d0' : ({ heap := w'.heap, tape := w'.tape, drawn := w'.drawn + 1, os := w'.os, output := w'.output } : World).cell? ⟨r, 0, none⟩ = some (.slice (some ⟨bb, 0, none⟩) (256 * n) (256 * n)) := d0
            have d1' : ({ heap := w'.heap, tape := w'.tape, drawn := w'.drawn + 1, os := w'.os, output := w'.output } : World).cell? ⟨r, 1, none⟩ = some (.slice (some ⟨bc, 0, none⟩) n n) := d1
            have hu' : ({ heap := w'.heap, tape := w'.tape, drawn := w'.drawn + 1, os := w'.os, output := w'.output } : World).cell? ⟨bc, i, none⟩ = some (.slice (some ⟨g, 0, none⟩) 256 c2) := hu
            refine wp_region_still_tail 14 (by kernel_rfl) (by kernel_rfl) ?_
            simp only [List.take_succ_cons, List.take_zero, List.drop_succ_cons, List.drop_zero]
            repeat still_step
            refine wpStill_nil ?_
            have HD1 : Hid (RfB ({ heap := w'.heap, tape := w'.tape, drawn := w'.drawn + 1, os := w'.os, output := w'.output } : World) lo r n (doneS C kf S i) (doneC C i) bb bc cs) := Lib.hid (HH.out.keeps (Keeps.drew (fun _ => False) w') (fun _ _ => id))
            have HK1 : Hid (Keeps (fun b => lo ≤ b ∧ b < up) w ({ heap := w'.heap, tape := w'.tape, drawn := w'.drawn + 1, os := w'.os, output := w'.output } : World)) := Lib.hid (HK.out.trans (Keeps.drew _ w'))
            have HG1 : Hid (Src ({ heap := w'.heap, tape := w'.tape, drawn := w'.drawn + 1, os := w'.os, output := w'.output } : World) (fun b => b = g) (some ⟨g, 0, none⟩) 256 (bcs s)) := Lib.hid (HGS.out.keeps (Keeps.drew (fun _ => False) w') (fun b hb => ⟨by rw [hb]; exact hg2, id⟩))
            generalize ({ heap := w'.heap, tape := w'.tape, drawn := w'.drawn + 1, os := w'.os, output := w'.output } : World) = wd at *
            refine wpList_copy_own rfl _ _ 27 27 rfl 5 under27 rsize5 bb (256 * i) (256 * n - 256 * i) (256 * n - 256 * i) ⟨g, 0, none⟩ 256 c2 rfl rfl (bcs (flat n (doneS C kf S i))).toArray 5 HD1.out.hb (bcs s) (by rw [bcs_len, HSL.out]; exact (Nat.min_eq_left (by omega)).symm) (fun j v hv => HG1.out.cells j v hv) (by simp only [List.size_toArray, bcs_len, HSL.out]; rw [flat_len HD1.out.sok]; omega) (bcs_one s) ?_
            obtain ⟨w4, e4, hc4, hk4⟩ := HD1.out.copiedK HUP.out i h1 s HSL.out
            rw [← e4]
            have HC4 := Lib.hid hc4
            have HK4 := Lib.hid (HK1.out.trans hk4)
            clear e4 hc4 hk4
            have HC0 := Lib.hid HC4.out.hc
            have d0 := HC4.out.d0
            have d1 := HC4.out.d1
            clear HD1 HK1 HG1 HH HK hsi hw1 hS
            go_wp2_with ((with_reducible show wpList _ _ _ (⟨none, .store 27 _ _, _, _, _, _⟩ :: _) _ _); go_must (refine wpList_store_sl rfl 27 _ _ rfl bc i rfl none 0 0 rfl 27 cs.toArray HC0.out size27 (by rw [List.size_toArray, HCL.out]; exact h1) ?_; intro w3 hh3 hg3 hz3; have HR3 := Lib.hid (HC4.out.gone i h1 w3 hh3 hg3); have HK3 := Lib.hid (Keeps.of_grown (G := fun b => lo ≤ b ∧ b < up) hg3 (fun q hq => by injection hq with hq; rw [← hq]; exact ⟨HC4.out.c1, HUP.out.2.2⟩)); clear hh3 hg3 hz3))
            exact ⟨⟨i + 1, by omega, by go_num, by rw [HRK2.out]; go_num, ⟨bb, bc, _, HR3.out.congr (fun j _ => HNX.out j) (fun j _ => HNC.out j), HUP.out⟩, HK4.out.trans HK3.out⟩, by simp [valOf]; omega⟩
    · obtain rfl : i = n := by omega
      have HNX := Lib.hid (HRR.out.congr (T := crash C kf S) (D := fun _ => none) (fun j hj => by unfold doneS; rw [if_pos hj]) (fun j hj => by unfold doneC; rw [if_pos hj]))
      clear HRR
      go_wp2_with (go_at_call 42; refine hS.mono ?_; rintro e w' ⟨rfl, rfl⟩)
      go_end0
      exact ⟨rfl, HNX.out, HK.out⟩
end
end Go.Proofs.Ytfhjcfoecmbhkaa
