/- It is proved that DiskScript returns true for all numbers and all lists of calls: a disk behind these calls answers as the document's own does. Conditions: none. -/
import Derived.Test.YtfhjcfoecmbhkaaRows
import Derived.Test.YtfhjcfoecmbhkaaLH
import Derived.ProofKit
import Derived.OpenShut
import Derived.ChangeOld
namespace Go.Proofs.Ytfhjcfoecmbhkaa.diskScript
open Go.ChangeShapes Go.WideShapes Go.ChangeAt Go.RowKit
set_option linter.unusedVariables false
set_option linter.unusedSimpArgs false

theorem own : ownKnob Try.prog.godebug = none := by kernel_rfl
theorem laidOut : laidOutB Try.prog = true := by kernel_rfl

theorem wp_empty44 {o : Oper} {a : Act} {w : World} {K : Act → World → Prop} {Q : Exit → Act → World → Prop} (ho : o.op = .buildSlice 44 0 #[]) (h : K (a.put o.dst (.slice (some ⟨w.heap.size, 0, none⟩) 0 0)) (w.alloc (.cells #[] 4))) : o.wp Try.prog a w K Q := by
  have hs := Try.sizeOf4 w
  unfold Oper.wp execOp
  simp [ho, Instr.buildSlice, run_underlying under44, hs, newRow, Instr.fill, Result.andThen]
  rw [show Array.map (fun _ : Nat => (default : Value)) (Array.range 0) = #[] from Array.eq_empty_of_size_eq_zero (by simp)]
  exact h
theorem rcrash_at {w : World} {lo up r n : Nat} {S : Nat → List UInt8} {C : Nat → Option (List UInt8)} (h : Rf w lo up r n S C) (A : Option Addr) (c : Nat) (ks : List Bool) (m : Nat) (he : ks.length = m) (SK : Nat → Prop) (hs : Src w SK A m (ks.map Value.bool)) (hSK : ∀ b, SK b → b < w.heap.size ∧ ¬ lo ≤ b) (hm : m ≤ 1000000000) :
    Calls Try.prog 24 #[.pointer (some ⟨r, 0, none⟩), .slice A m c] w fun e w' => e = .returned (.int .i64 0) ∧ Rf w' lo up r n (crash C (fun k => ks.getD k false) S) (fun _ => none) ∧ Keeps (fun b => lo ≤ b ∧ b < up) w w' := by
  subst he
  exact rcrash_any h A c ks SK hs hSK hm
theorem Keeps.mono {G G' : Nat → Prop} {w w' : World} (h : Keeps G w w') (hG : ∀ b, G b → G' b) : Keeps G' w w' := ⟨h.1, h.2, h.3, h.4, fun k h1 h2 => h.5 k h1 (fun h3 => h2 (hG k h3))⟩

theorem own_src2 {w : World} {B : Nat} {e : TypeId} {v : Value} {n : Nat} {xs : List Value} (h : w.ownsRow B e 1 v n xs) (hn : 0 < n) : ∃ A c, v = .slice A n c ∧ Src w (fun g => B ≤ g ∧ g < w.heap.size) A n xs ∧ n ≤ c ∧ c ≤ maxLen := by
  rcases h.2 with ⟨_, h0⟩ | ⟨g, cap, cur, hv, hb, hg, hnc, hcm, hcs, ht⟩
  · omega
  · obtain ⟨A, c, e, hs⟩ := own_src h
    rw [hv] at e
    injection e with e1 e2 e3
    exact ⟨A, c, by rw [hv, e1, e3], hs, by omega, by omega⟩
theorem rf_bytes {w : World} {lo up r n : Nat} {S : Nat → List UInt8} {C : Nat → Option (List UInt8)} (h : Rf w lo up r n S C) : ∃ bb, w.cell? ⟨r, 0, none⟩ = some (.slice (some ⟨bb, 0, none⟩) (256 * n) (256 * n)) ∧ r < w.heap.size ∧ bb < w.heap.size ∧ Src w (fun b => b = bb) (some ⟨bb, 0, none⟩) (256 * n) (bcs (flat n S)) := by
  obtain ⟨bb, bc, cs, h, -⟩ := h
  refine ⟨bb, h.d0, h.lts.1, h.lts.2.1, ⟨by rw [bcs_len, flat_len h.sok], fun _ => ⟨bb, 0, rfl, rfl, fun k hk => ?_⟩⟩⟩
  rw [cell_of_row w bb _ _ _ _ h.hb, Nat.zero_add]
  simp
theorem cks_no (n : Nat) : cks n (fun _ => none) = [] := by simp [cks]

set_option maxRecDepth 100000 in
set_option maxHeartbeats 8000000 in
theorem walk (w : World) (z : Int) (A1 : Option Addr) (n1 c1 : Nat) (l : List ActV) (h1 : Acts w A1 n1 l) :
    Calls Try.prog 4 #[.int .i64 z, .slice A1 n1 c1] w fun e w' => e = .returned (.bool true) ∧ Below w.heap.size w w' := by
  have H1 := Lib.hid h1
  have hl1 := h1.len
  clear h1
  subst hl1
  go_enter Try.func4, Try.ntmps4
  go_wp2_with fail
  refine (lives_any w).mono ?_
  rintro e1 w1 ⟨rfl, hb1⟩
  have HB1 := Lib.hid hb1
  clear hb1
  go_wp2_with fail
  refine (small_any w1 A1 l.length c1 l (H1.out.below HB1.out)).mono ?_
  rintro e2 w2 ⟨r1, rfl, hw2, hr1⟩
  subst hw2
  cases r1
  · go_wp2
    go_ret
    exact ⟨rfl, HB1.out⟩
  obtain ⟨hn1, hk1⟩ := hr1 rfl
  have HK1 := Lib.hid hk1
  clear hr1 hk1
  go_wp2_with fail
  refine (pick_any w2 z 40 (by omega) (by omega)).mono ?_
  rintro e4 w4 ⟨rfl, hw4⟩
  subst hw4
  have hp := pk_lt z 40 (by omega)
  generalize pk z 40 = k0 at *
  obtain ⟨N, hN⟩ : ∃ N : Nat, N = 1 + k0 := ⟨_, rfl⟩
  have HN := Lib.hid hN
  have hk0 : (k0 : Int) < 40 := by omega
  have hN2 : N ≤ 40 := by omega
  have hN1 : 1 ≤ N := by omega
  clear hN hp
  go_wp2_with fail
  refine (new_at w4 _ N (by have := HN.out; omega) (by have := HN.out; omega) (by omega)).mono ?_
  rintro e5 w5 ⟨p, rfl, hd5, hb5⟩
  have HD5 := Lib.hid hd5
  have HB5 := Lib.hid hb5
  clear hd5 hb5
  go_wp2_with fail
  refine (rnew_at w5 _ N (by have := HN.out; omega) (by have := HN.out; omega) (by omega)).mono ?_
  rintro e6 w6 ⟨r, rfl, hf6, hb6⟩
  obtain ⟨s0, hs0⟩ : ∃ s : (Nat → List UInt8) × (Nat → Option (List UInt8)), s = (fun _ => zs 256, fun _ => none) := ⟨_, rfl⟩
  have HL5 : Hid (Lr w w6 w4.heap.size w5.heap.size p w5.heap.size w6.heap.size r N s0 s0) := Lib.hid ⟨by rw [hs0]; exact HD5.out.below hb6, by rw [hs0]; exact hf6, HB1.out.trans ((HB5.out.mono HB1.out.size).trans (hb6.mono (Nat.le_trans HB1.out.size HB5.out.size))), HB1.out.size, Nat.le_refl _⟩
  have HUP := Lib.hid (Nat.le_refl w6.heap.size)
  have HHI : Hid (w5.heap.size ≤ w6.heap.size) := Lib.hid hb6.size
  have HNV : Hid ((1 : Int) + (k0 : Int) = (N : Int)) := Lib.hid (by have := HN.out; omega)
  clear hf6 hb6 HD5 HB5 HB1 hs0 HN
  generalize w4.heap.size = lo at *
  generalize w5.heap.size = hi at *
  obtain ⟨up, hup⟩ : ∃ up : Nat, up = w6.heap.size := ⟨_, rfl⟩
  rw [← hup] at HL5
  have HUQ : Hid (up ≤ w6.heap.size) := Lib.hid (by omega)
  have HIU : Hid (hi ≤ up) := Lib.hid (by rw [hup]; exact HHI.out)
  clear hup HUP
  go_wp2_with fail
  go_loopw [9] (fun v wr => ∃ i : Nat, i ≤ l.length ∧ v = .int .i64 i ∧ Lr w wr lo hi p hi up r N (runA N (l.take i) s0) (runA N (l.take i) s0) ∧ up ≤ wr.heap.size) (fun v _ => l.length - (valOf v).toNat)
  case atStart => exact ⟨0, by omega, rfl, HL5.out, HUQ.out⟩
  case round =>
    obtain ⟨i, hi1, rfl, hL, hu⟩ := hrel
    have HL := Lib.hid hL
    have HU := Lib.hid hu
    clear hL HL5 hu HUQ
    by_cases hlt : i < l.length
    · obtain ⟨b, o, rfl, hb, hc⟩ := (H1.out.below HL.out.b).lies (by omega)
      have hv : l[i]? = some l[i] := List.getElem?_eq_getElem hlt
      have HC := Lib.hid (hc i _ hv)
      have HR := Lib.hid (runA_succ (n := N) s0 hv)
      have HO := Lib.hid (H1.out.ok _ (List.getElem_mem hlt))
      have hkn := HK1.out _ (List.getElem_mem hlt)
      have h1' : (i : Int) < (l.length : Int) := by omega
      have h2' : (i : Int) ≤ 80 := by omega
      generalize l[i] = v at *
      generalize runA N (l.take i) s0 = s at *
      clear hc hv hb
      go_wp2_with (first | ((with_reducible show wpList _ _ _ (⟨some 51, .load 46 _, _, _, _, _⟩ :: _) _ _); go_must (refine wpList_load46 rfl _ rfl b (o + i * 5) rfl v HC.out ?_)) | ((with_reducible show wpList _ _ _ (⟨some 10, .alloc 46, _, _, _, _⟩ :: _) _ _); go_must (refine wpList_al46 rfl rfl ?_; intro wa hha hza hga; have HHA := Lib.hid hha; have HGA := Lib.hid hga; have HZA := Lib.hid hza; clear hha hza hga)) | ((with_reducible show wpList _ _ _ (⟨none, .store 46 _ _, _, _, _, _⟩ :: _) _ _); go_must (refine wpList_store_all rfl 46 _ _ rfl wr.heap.size rfl _ rfl 46 _ HHA.out (by rw [size46]; rfl) rfl (by simpa using cells46_one v) ?_; intro wb hhb hgb hzb; have HXB := Lib.hid (Bx.of hhb); have HBB : Hid (Below wr.heap.size wr wb) := Lib.hid ((below_of_grownBy HGA.out).grown hgb (by have := HZA.out; omega) (fun q hq => by cases hq; omega)); have HZB : Hid (wb.heap.size = wr.heap.size + 1) := Lib.hid (by rw [hzb]; exact HZA.out); have c0 := HXB.out.c0; clear hhb hgb hzb)))
      have HLB := Lib.hid (HL.out.below HBB.out)
      have HG : Hid (up ≤ wr.heap.size) := HU
      clear HL HHA HGA HZA HC HU
      refine (pick_any wb v.kind 5 (by omega) (by omega)).mono ?_
      rintro e7 w7 ⟨rfl, hw7⟩
      subst hw7
      have hpk := pk_lt v.kind 5 (by omega)
      have hst := stepA_def N v s.1 s.2
      have c1 := HXB.out.c1
      have HVO := Lib.hid (HO.out.below (HLB.out.b))
      generalize pk v.kind 5 = q at *
      have hq : q = 0 ∨ q = 1 ∨ q = 2 ∨ q = 3 ∨ q = 4 := by omega
      clear hpk
      have hg := HZB.out
      generalize wr.heap.size = g at *
      rcases hq with rfl | hq
      · simp only [if_true] at hst
        have HS := Lib.hid hst
        clear hst
        go_wp2_with (first | (go_at_call 11; go_must (refine (read_z HLB.out.d v.at_).mono ?_; rintro e8 w8 ⟨v8, rfl, ho8, hb8⟩; obtain ⟨A8, c8, rfl, hs8⟩ := own_src ho8; have HL8 := Lib.hid (HLB.out.below hb8); have HX8 := Lib.hid (HXB.out.keeps (Keeps.of_below (G := fun _ => False) hb8) (by omega) id); have HS8 := Lib.hid hs8; have c18 := HX8.out.c1; clear ho8 hs8)) | (go_at_call 21; go_must (refine (rread_z HL8.out.f v.at_).mono ?_; rintro e9 w9 ⟨v9, rfl, ho9, hb9⟩; obtain ⟨A9, c9, rfl, hs9⟩ := own_src ho9; have HL9 := Lib.hid (HL8.out.below hb9); have HS9 := Lib.hid (HS8.out.below' hb9 (fun b hb => hb.2)); have HT9 := Lib.hid hs9; clear ho9 hs9)) | ((with_reducible show wpList _ _ _ (⟨some 102, .convert 27 9 _, _, _, _, _⟩ :: _) _ _); go_must (refine wpList_exec rfl _ (w' := w9) (exec_convert rfl (conv_src HS9.out)) ?_)) | ((with_reducible show wpList _ _ _ (⟨some 104, .convert 27 9 _, _, _, _, _⟩ :: _) _ _); go_must (refine wpList_exec rfl _ (w' := w9) (exec_convert rfl (conv_src HT9.out)) ?_)) | (go_at_call 13; go_must (refine (cached_any HL9.out.d).mono ?_; rintro e12 w12 ⟨v12, rfl, ho12, hb12⟩; obtain ⟨A12, c12, rfl, hs12⟩ := own_src ho12; have HL12 := Lib.hid (HL9.out.below hb12); have HS12 := Lib.hid hs12; clear ho12 hs12)) | (go_at_call 28; go_must (refine (rcached_any HL12.out.f).mono ?_; rintro e13 w13 ⟨v13, rfl, ho13, hb13⟩; obtain ⟨A13, c13, rfl, hs13⟩ := own_src ho13; have HL13 := Lib.hid (HL12.out.below hb13); have HE13 := Lib.hid (ints_eq w13 A12 A13 c12 c13 (cks N s.2) _ _ (HS12.out.below' hb13 (fun b hb => hb.2)) hs13 (by have := cks_len N s.2; omega) (fun b hb => Nat.lt_of_lt_of_le hb.2 hb13.size) (fun b hb => hb.2)); have HB13 := Lib.hid (hb12.trans (hb13.mono hb12.size)); clear ho13 hs13)) | (go_at_call 27; go_must (refine HE13.out.mono ?_; rintro e14 w14 ⟨rfl, hb14⟩; have HL14 := Lib.hid (HL13.out.below hb14); have HB14 := Lib.hid (HB13.out.trans (hb14.mono HB13.out.size)))))
        refine ⟨⟨i + 1, by omega, by go_num, ?_, ?_⟩, by simp [valOf]; omega⟩
        · rw [HR.out, HS.out]; exact HL14.out
        · have := HB14.out.size; have := hb8.size; have := hb9.size; have := HG.out; omega
      · rcases hq with rfl | rfl | rfl | rfl
        rotate_left 2
        · simp only [show ¬ (3 = 0) from by omega, if_true, if_false] at hst
          have HS := Lib.hid hst
          clear hst
          have HN9 : ∀ W : World, Src W (fun _ => False) none 0 (bcs []) := fun W => Src.nil_ _ _ _
          go_wp2_with (first | (go_at_call 17; go_must (refine (flush_any HLB.out.d).mono ?_; rintro e8 w8 ⟨rfl, hd8, hk8⟩; have HL8 := Lib.hid (HLB.out.dk (s' := (crash s.2 (fun _ => true) s.1, fun _ => none)) hd8 hk8); have HZ8 := Lib.hid hk8.size; clear hd8 hk8)) | (go_at_call 22; go_must (refine (rflush_any HL8.out.f).mono ?_; rintro e9 w9 ⟨rfl, hd9, hk9⟩; have HL9 := Lib.hid (HL8.out.rf (t' := (crash s.2 (fun _ => true) s.1, fun _ => none)) hd9 hk9); have HZ9 := Lib.hid hk9.size; have HS9 := Lib.hid (HN9 w9); clear hd9 hk9)) | ((with_reducible show wpList _ _ _ (⟨some 102, .convert 27 9 _, _, _, _, _⟩ :: _) _ _); go_must (refine wpList_exec rfl _ (w' := w9) (exec_convert rfl (conv_src HS9.out)) ?_)) | ((with_reducible show wpList _ _ _ (⟨some 104, .convert 27 9 _, _, _, _, _⟩ :: _) _ _); go_must (refine wpList_exec rfl _ (w' := w9) (exec_convert rfl (conv_src HS9.out)) ?_)) | (go_at_call 13; go_must (refine (cached_any HL9.out.d).mono ?_; rintro e12 w12 ⟨v12, rfl, ho12, hb12⟩; obtain ⟨A12, c12, rfl, hs12⟩ := own_src ho12; have HL12 := Lib.hid (HL9.out.below hb12); have HS12 := Lib.hid hs12; clear ho12 hs12)) | (go_at_call 28; go_must (refine (rcached_any HL12.out.f).mono ?_; rintro e13 w13 ⟨v13, rfl, ho13, hb13⟩; obtain ⟨A13, c13, rfl, hs13⟩ := own_src ho13; have HL13 := Lib.hid (HL12.out.below hb13); have HE13 := Lib.hid (ints_eq w13 A12 A13 c12 c13 (cks N ((crash s.2 (fun _ => true) s.1, fun _ => none) : (Nat → List UInt8) × (Nat → Option (List UInt8))).2) _ _ (HS12.out.below' hb13 (fun b hb => hb.2)) hs13 (by have := cks_len N ((crash s.2 (fun _ => true) s.1, fun _ => none) : (Nat → List UInt8) × (Nat → Option (List UInt8))).2; omega) (fun b hb => Nat.lt_of_lt_of_le hb.2 hb13.size) (fun b hb => hb.2)); have HB13 := Lib.hid (hb12.trans (hb13.mono hb12.size)); clear ho13 hs13)) | (go_at_call 27; go_must (refine HE13.out.mono ?_; rintro e14 w14 ⟨rfl, hb14⟩; have HL14 := Lib.hid (HL13.out.below hb14); have HB14 := Lib.hid (HB13.out.trans (hb14.mono HB13.out.size)))))
          refine ⟨⟨i + 1, by omega, by go_num, ?_, ?_⟩, by simp [valOf]; omega⟩
          · rw [HR.out, HS.out]; exact HL14.out
          · have := HB14.out.size; have := HZ8.out; have := HZ9.out; have := HG.out; omega
        · simp only [show ¬ (4 = 0) from by omega, show ¬ (4 = 3) from by omega, if_true, if_false] at hst
          have HS := Lib.hid hst
          clear hst
          obtain ⟨i0, hi0, hq0, hq1, hq2⟩ := info_parts info4
          have hkl : v.ks.length = v.kn := by have := HO.out.keep.len; simpa using this
          have HXK : ∀ w', Keeps (fun b => (lo ≤ b ∧ b < up) ∨ w7.heap.size ≤ b) w7.drew w' → Bx w' g v := fun w' hk => HXB.out.keeps ((Keeps.drew _ w7).trans hk) (by omega) (by have := HLB.out.d.lo_hi; have := HG.out; omega)
          go_wp2_with fail
          refine anyStart (fun b => (lo ≤ b ∧ b < up) ∨ w7.heap.size ≤ b) (by kernel_rfl) ?_
          refine anyTakeE (i := 0) (oi := { dst := some 91, op := Op.move (Operand.tmp 5), type := 22, pos := "law.go:110", after := #[], guard := none }) rfl (by kernel_rfl) (by kernel_rfl) (by kernel_rfl) (fun _ _ _ _ h => h) (by rfl) ?_
          apply Exists.intro
          refine ⟨fun w' hk => ?_, ?_⟩
          · go_simp <;> with_reducible rfl
          simp only [Act.put, List.setIfInBounds_toArray, List.set_cons_zero, List.set_cons_succ]
          refine anyTakeE (i := 2) (oi := { dst := some 93, op := Op.fieldAddr 46 (Operand.tmp 10) 4, type := 0, pos := "law.go:110", after := #[], guard := none }) rfl (by kernel_rfl) (by kernel_rfl) (by kernel_rfl) (fun _ _ _ _ h => h) (by rfl) ?_
          apply Exists.intro
          refine ⟨fun w' hk => ?_, ?_⟩
          · go_simp <;> with_reducible rfl
          simp only [Act.put, List.setIfInBounds_toArray, List.set_cons_zero, List.set_cons_succ]
          refine anyTakeE (i := 3) (oi := { dst := some 94, op := Op.load 44 (Operand.tmp 93), type := 44, pos := "law.go:110", after := #[{ on := 2, ground := Ground.data }], guard := none }) rfl (by kernel_rfl) (by kernel_rfl) (by kernel_rfl) (fun _ _ _ _ h => h) (by rfl) ?_
          apply Exists.intro
          refine ⟨fun w' hk => ?_, ?_⟩
          · have c9 := (HXK w' hk).c4; go_simp <;> with_reducible rfl
          simp only [Act.put, List.setIfInBounds_toArray, List.set_cons_zero, List.set_cons_succ]
          refine anyTakeE (i := 6) (oi := { dst := some 97, op := Op.move (Operand.tmp 7), type := 41, pos := "law.go:110", after := #[], guard := none }) rfl (by kernel_rfl) (by kernel_rfl) (by kernel_rfl) (fun _ _ _ _ h => h) (by rfl) ?_
          apply Exists.intro
          refine ⟨fun w' hk => ?_, ?_⟩
          · go_simp <;> with_reducible rfl
          simp only [Act.put, List.setIfInBounds_toArray, List.set_cons_zero, List.set_cons_succ]
          refine anyTakeE (i := 7) (oi := { dst := some 98, op := Op.fieldAddr 46 (Operand.tmp 10) 4, type := 0, pos := "law.go:110", after := #[], guard := none }) rfl (by kernel_rfl) (by kernel_rfl) (by kernel_rfl) (fun _ _ _ _ h => h) (by rfl) ?_
          apply Exists.intro
          refine ⟨fun w' hk => ?_, ?_⟩
          · go_simp <;> with_reducible rfl
          simp only [Act.put, List.setIfInBounds_toArray, List.set_cons_zero, List.set_cons_succ]
          refine anyTakeE (i := 8) (oi := { dst := some 99, op := Op.load 44 (Operand.tmp 98), type := 44, pos := "law.go:110", after := #[{ on := 7, ground := Ground.data }], guard := none }) rfl (by kernel_rfl) (by kernel_rfl) (by kernel_rfl) (fun _ _ _ _ h => h) (by rfl) ?_
          apply Exists.intro
          refine ⟨fun w' hk => ?_, ?_⟩
          · have c9 := (HXK w' hk).c4; go_simp <;> with_reducible rfl
          simp only [Act.put, List.setIfInBounds_toArray, List.set_cons_zero, List.set_cons_succ]
          refine anyOp (i := 1) (oi := { dst := some 92, op := Op.buildSlice 44 0 #[], type := 44, pos := "law.go:110", after := #[], guard := none }) rfl (by kernel_rfl) (by kernel_rfl) ?_
          refine wp_empty44 rfl ?_
          refine ⟨Keeps.of_below (below_alloc _ _), ?_⟩
          simp only [Act.put, List.setIfInBounds_toArray, List.set_cons_zero, List.set_cons_succ]
          have hkp := (HVO.out.keep.drewN 1).alloc (fun _ h => h) (.cells #[] 4)
          have HKP := Lib.hid hkp
          refine anyOp (i := 4) (oi := { dst := some 95, op := Op.call { callee := Callee.builtin Builtin.append, args := #[Operand.tmp 92, Operand.tmp 94], argTypes := #[44, 44] }, type := 44, pos := "law.go:110", after := #[{ on := 1, ground := Ground.data }, { on := 3, ground := Ground.data }], guard := none }) rfl (by kernel_rfl) (by kernel_rfl) ?_
          refine wp_app _ _ 44 rfl w7.heap.size 4 i0 (.bool false) 1 under44 hi0 hq0 hq1 hq2 rfl _ 0 [] rfl (World.ownsRow_made w7.drew #[] 0 (Nat.le_refl _) (Nat.zero_le _) (by simp)) _ v.A v.kn v.kc (v.ks.map Value.bool) rfl HKP.out (bools_one _) (by unfold maxLen; omega) (by omega) (by simp) ?_
          intro u8 w8 ho8 hg8
          have hzd : (w7.drewN 1).heap.size = w7.heap.size := rfl
          have hB8 : Below w7.heap.size w7 w8 := ((below_drewN' (Below.refl _ w7) 1).alloc (Nat.le_refl _) _).grown hg8 (by simp) (by intro k hk; have hk2 : some w7.heap.size = some k := hk; injection hk2 with hk2; omega)
          refine ⟨Keeps.of_grown hg8 (by intro k hk; have hk2 : some w7.heap.size = some k := hk; injection hk2 with hk2; exact .inr (by omega)), ?_⟩
          simp only [Act.put, List.setIfInBounds_toArray, List.set_cons_zero, List.set_cons_succ]
          obtain ⟨A8, c8, rfl, hs8⟩ := own_src ho8
          have HL8 := Lib.hid (HLB.out.below hB8)
          have HZ8 := Lib.hid hB8.size
          refine anyCall (i := 5) (oi := { dst := some 96, op := Op.call { callee := Callee.value (Operand.func 23), args := #[Operand.tmp 91, Operand.tmp 95], argTypes := #[22, 44] }, type := 23, pos := "law.go:110", after := #[{ on := 0, ground := Ground.data }, { on := 4, ground := Ground.data }, { on := 4, ground := Ground.chain }], guard := none }) rfl (by kernel_rfl) (by rfl) ?_ (((crash_any HL8.out.d A8 (0 + v.kn) c8 v.ks (fun q => w7.heap.size ≤ q ∧ q < w8.heap.size) (by simpa using hs8) (fun b hb => ⟨hb.2, by have := HLB.out.d.hle; omega⟩) (by omega))).mono ?_)
          · go_simp
          rintro e9 w9 ⟨rfl, hd9, hk9⟩
          have HL9 := Lib.hid (HL8.out.dk (s' := ((crash s.2 (fun k => v.ks.getD k false) s.1, fun _ => none) : (Nat → List UInt8) × (Nat → Option (List UInt8)))) hd9 hk9)
          have HZ9 := Lib.hid hk9.size
          refine ⟨_, rfl, Keeps.mono hk9 (fun b hb => .inl ⟨hb.1, by have := HLB.out.h2; have := HIU.out; omega⟩), ?_⟩
          simp only [Act.put, List.setIfInBounds_toArray, List.set_cons_zero, List.set_cons_succ]
          refine anyCall (i := 9) (oi := { dst := some 100, op := Op.call { callee := Callee.value (Operand.func 24), args := #[Operand.tmp 97, Operand.tmp 99], argTypes := #[41, 44] }, type := 23, pos := "law.go:110", after := #[{ on := 6, ground := Ground.data }, { on := 8, ground := Ground.data }, { on := 5, ground := Ground.chain }], guard := none }) rfl (by kernel_rfl) (by rfl) ?_ (((rcrash_at HL9.out.f v.A v.kc v.ks v.kn hkl (· < w.heap.size) (HO.out.keep.below HL9.out.b (fun _ h => h)) (fun b hb => ⟨Nat.lt_of_lt_of_le hb HL9.out.b.size, by have := HL9.out.lo; have := HL9.out.d.lo_hi; have := HL9.out.h2; omega⟩) (by omega))).mono ?_)
          · go_simp
          rintro e10 w10 ⟨rfl, hd10, hk10⟩
          have HL10 := Lib.hid (HL9.out.rf (t' := ((crash s.2 (fun k => v.ks.getD k false) s.1, fun _ => none) : (Nat → List UInt8) × (Nat → Option (List UInt8)))) hd10 hk10)
          have HZ10 := Lib.hid hk10.size
          have HS10 : Hid (Src w10 (fun _ => False) none 0 (bcs [])) := Lib.hid (Src.nil_ _ _ _)
          refine ⟨_, rfl, Keeps.mono hk10 (fun b hb => .inl ⟨by have := HLB.out.d.lo_hi; omega, hb.2⟩), ?_⟩
          simp only [Act.put, List.setIfInBounds_toArray, List.set_cons_zero, List.set_cons_succ]
          refine anyTakeE (i := 10) (oi := { dst := some 6, op := Op.assign (Operand.tmp 96), type := 23, pos := "law.go:110", after := #[{ on := 5, ground := Ground.data }, { on := 9, ground := Ground.chain }, { on := 0, ground := Ground.phase }, { on := 1, ground := Ground.phase }, { on := 2, ground := Ground.phase }, { on := 3, ground := Ground.phase }, { on := 4, ground := Ground.phase }, { on := 5, ground := Ground.phase }, { on := 6, ground := Ground.textOnly Departure.lateStores }, { on := 7, ground := Ground.textOnly Departure.lateStores }, { on := 8, ground := Ground.textOnly Departure.lateStores }, { on := 9, ground := Ground.textOnly Departure.lateStoresUnsure }], guard := none }) rfl (by kernel_rfl) (by kernel_rfl) (by kernel_rfl) (fun _ _ _ _ h => h) (by rfl) ?_
          apply Exists.intro
          refine ⟨fun w' hk => ?_, ?_⟩
          · go_simp <;> with_reducible rfl
          simp only [Act.put, List.setIfInBounds_toArray, List.set_cons_zero, List.set_cons_succ]
          refine anyTakeE (i := 11) (oi := { dst := some 8, op := Op.assign (Operand.tmp 100), type := 23, pos := "law.go:110", after := #[{ on := 9, ground := Ground.data }, { on := 10, ground := Ground.chain }, { on := 0, ground := Ground.phase }, { on := 1, ground := Ground.phase }, { on := 2, ground := Ground.phase }, { on := 3, ground := Ground.phase }, { on := 4, ground := Ground.phase }, { on := 5, ground := Ground.phase }, { on := 6, ground := Ground.phase }, { on := 7, ground := Ground.phase }, { on := 8, ground := Ground.phase }, { on := 9, ground := Ground.phase }, { on := 10, ground := Ground.phase }], guard := none }) rfl (by kernel_rfl) (by kernel_rfl) (by kernel_rfl) (fun _ _ _ _ h => h) (by rfl) ?_
          apply Exists.intro
          refine ⟨fun w' hk => ?_, ?_⟩
          · go_simp <;> with_reducible rfl
          simp only [Act.put, List.setIfInBounds_toArray, List.set_cons_zero, List.set_cons_succ]
          refine anyDone (by kernel_rfl) ?_ _
          go_wp2_with (first | ((with_reducible show wpList _ _ _ (⟨some 102, .convert 27 9 _, _, _, _, _⟩ :: _) _ _); go_must (refine wpList_exec rfl _ (w' := w10) (exec_convert rfl (conv_src HS10.out)) ?_)) | ((with_reducible show wpList _ _ _ (⟨some 104, .convert 27 9 _, _, _, _, _⟩ :: _) _ _); go_must (refine wpList_exec rfl _ (w' := w10) (exec_convert rfl (conv_src HS10.out)) ?_)) | (go_at_call 13; go_must (refine (cached_any HL10.out.d).mono ?_; rintro e12 w12 ⟨v12, rfl, ho12, hb12⟩; obtain ⟨A12, c12, rfl, hs12⟩ := own_src ho12; have HL12 := Lib.hid (HL10.out.below hb12); have HS12 := Lib.hid hs12; clear ho12 hs12)) | (go_at_call 28; go_must (refine (rcached_any HL12.out.f).mono ?_; rintro e13 w13 ⟨v13, rfl, ho13, hb13⟩; obtain ⟨A13, c13, rfl, hs13⟩ := own_src ho13; have HL13 := Lib.hid (HL12.out.below hb13); have HE13 := Lib.hid (ints_eq w13 A12 A13 c12 c13 (cks N ((crash s.2 (fun k => v.ks.getD k false) s.1, fun _ => none) : (Nat → List UInt8) × (Nat → Option (List UInt8))).2) _ _ (HS12.out.below' hb13 (fun b hb => hb.2)) hs13 (by have := cks_len N ((crash s.2 (fun k => v.ks.getD k false) s.1, fun _ => none) : (Nat → List UInt8) × (Nat → Option (List UInt8))).2; omega) (fun b hb => Nat.lt_of_lt_of_le hb.2 hb13.size) (fun b hb => hb.2)); have HB13 := Lib.hid (hb12.trans (hb13.mono hb12.size)); clear ho13 hs13)) | (go_at_call 27; go_must (refine HE13.out.mono ?_; rintro e14 w14 ⟨rfl, hb14⟩; have HL14 := Lib.hid (HL13.out.below hb14); have HB14 := Lib.hid (HB13.out.trans (hb14.mono HB13.out.size)))))
          refine ⟨⟨i + 1, by omega, by go_num, ?_, ?_⟩, by simp [valOf]; omega⟩
          · rw [HR.out, HS.out]; exact HL14.out
          · have := HB14.out.size; have := HZ8.out; have := HZ9.out; have := HZ10.out; have := HG.out; omega
        all_goals (
          simp only [show ¬ (1 = 0) from by omega, show ¬ (2 = 0) from by omega, show ¬ (1 = 3) from by omega, show ¬ (2 = 3) from by omega, show ¬ (1 = 4) from by omega, show ¬ (2 = 4) from by omega, if_false] at hst
          have HS : Hid (stepA N v s = ((s.1, if okW N v = true then upd s.2 v.at_.toNat (some (actB v.b false)) else s.2) : (Nat → List UInt8) × (Nat → Option (List UInt8)))) := Lib.hid (by refine Eq.trans hst ?_; by_cases hok : okW N v = true <;> simp [hok])
          clear hst
          obtain ⟨E, hE⟩ : ∃ E : Int, (if okW N v = true then 0 else 2) = E := ⟨_, rfl⟩
          have HXK : ∀ w', Keeps (fun b => (lo ≤ b ∧ b < up) ∨ w7.heap.size ≤ b) w7.drew w' → Bx w' g v := fun w' hk => HXB.out.keeps ((Keeps.drew _ w7).trans hk) (by omega) (by have := HLB.out.d.lo_hi; have := HG.out; omega)
          go_wp2_with fail
          refine anyStart (fun b => (lo ≤ b ∧ b < up) ∨ w7.heap.size ≤ b) (by kernel_rfl) ?_
          refine anyTakeE (i := 0) (oi := { dst := some 55, op := Op.move (Operand.tmp 5), type := 22, pos := "law.go:112", after := #[], guard := none }) rfl (by kernel_rfl) (by kernel_rfl) (by kernel_rfl) (fun _ _ _ _ h => h) (by rfl) ?_
          apply Exists.intro
          refine ⟨fun w' hk => ?_, ?_⟩
          · go_simp <;> with_reducible rfl
          simp only [Act.put, List.setIfInBounds_toArray, List.set_cons_zero, List.set_cons_succ]
          refine anyTakeE (i := 1) (oi := { dst := some 56, op := Op.fieldAddr 46 (Operand.tmp 10) 1, type := 0, pos := "law.go:112", after := #[], guard := none }) rfl (by kernel_rfl) (by kernel_rfl) (by kernel_rfl) (fun _ _ _ _ h => h) (by rfl) ?_
          apply Exists.intro
          refine ⟨fun w' hk => ?_, ?_⟩
          · go_simp <;> with_reducible rfl
          simp only [Act.put, List.setIfInBounds_toArray, List.set_cons_zero, List.set_cons_succ]
          refine anyTakeE (i := 2) (oi := { dst := some 57, op := Op.load 3 (Operand.tmp 56), type := 3, pos := "law.go:112", after := #[{ on := 1, ground := Ground.data }], guard := none }) rfl (by kernel_rfl) (by kernel_rfl) (by kernel_rfl) (fun _ _ _ _ h => h) (by rfl) ?_
          apply Exists.intro
          refine ⟨fun w' hk => ?_, ?_⟩
          · have c9 := (HXK w' hk).c1; go_simp <;> with_reducible rfl
          simp only [Act.put, List.setIfInBounds_toArray, List.set_cons_zero, List.set_cons_succ]
          refine anyTake (i := 3) (oi := { dst := some 58, op := Op.load 46 (Operand.tmp 10), type := 46, pos := "law.go:112", after := #[], guard := none }) rfl (by kernel_rfl) (by kernel_rfl) (by kernel_rfl) (fun _ _ _ h => h) (by rfl) (fun w' hk => exec_load 46 (.tmp 10) rfl g 0 rfl v.cells (fun j u hj => by rw [Nat.zero_add]; exact (HXK w' hk).cells j u hj) _ Try.underlying46 rfl (by rw [size46]; rfl)) ?_
          simp only [Act.put, List.setIfInBounds_toArray, List.set_cons_zero, List.set_cons_succ]
          refine anyTakeE (i := 6) (oi := { dst := some 61, op := Op.move (Operand.tmp 7), type := 41, pos := "law.go:112", after := #[], guard := none }) rfl (by kernel_rfl) (by kernel_rfl) (by kernel_rfl) (fun _ _ _ _ h => h) (by rfl) ?_
          apply Exists.intro
          refine ⟨fun w' hk => ?_, ?_⟩
          · go_simp <;> with_reducible rfl
          simp only [Act.put, List.setIfInBounds_toArray, List.set_cons_zero, List.set_cons_succ]
          refine anyTakeE (i := 7) (oi := { dst := some 62, op := Op.fieldAddr 46 (Operand.tmp 10) 1, type := 0, pos := "law.go:112", after := #[], guard := none }) rfl (by kernel_rfl) (by kernel_rfl) (by kernel_rfl) (fun _ _ _ _ h => h) (by rfl) ?_
          apply Exists.intro
          refine ⟨fun w' hk => ?_, ?_⟩
          · go_simp <;> with_reducible rfl
          simp only [Act.put, List.setIfInBounds_toArray, List.set_cons_zero, List.set_cons_succ]
          refine anyTakeE (i := 8) (oi := { dst := some 63, op := Op.load 3 (Operand.tmp 62), type := 3, pos := "law.go:112", after := #[{ on := 7, ground := Ground.data }], guard := none }) rfl (by kernel_rfl) (by kernel_rfl) (by kernel_rfl) (fun _ _ _ _ h => h) (by rfl) ?_
          apply Exists.intro
          refine ⟨fun w' hk => ?_, ?_⟩
          · have c9 := (HXK w' hk).c1; go_simp <;> with_reducible rfl
          simp only [Act.put, List.setIfInBounds_toArray, List.set_cons_zero, List.set_cons_succ]
          refine anyTake (i := 9) (oi := { dst := some 64, op := Op.load 46 (Operand.tmp 10), type := 46, pos := "law.go:112", after := #[], guard := none }) rfl (by kernel_rfl) (by kernel_rfl) (by kernel_rfl) (fun _ _ _ h => h) (by rfl) (fun w' hk => exec_load 46 (.tmp 10) rfl g 0 rfl v.cells (fun j u hj => by rw [Nat.zero_add]; exact (HXK w' hk).cells j u hj) _ Try.underlying46 rfl (by rw [size46]; rfl)) ?_
          simp only [Act.put, List.setIfInBounds_toArray, List.set_cons_zero, List.set_cons_succ]
          refine anyCall (i := 4) (oi := { dst := some 59, op := Op.call { callee := Callee.value (Operand.func 25), args := #[Operand.tmp 58], argTypes := #[46] }, type := 27, pos := "law.go:112", after := #[{ on := 3, ground := Ground.data }], guard := none }) rfl (by kernel_rfl) (by rfl) ?_ (((bytes_any w7.drew v)).mono ?_)
          · go_simp
          rintro e8 w8 ⟨u8, rfl, ho8, hb8⟩
          have hb8w : Below w7.heap.size w7 w8 := ⟨hb8.os, hb8.tape, hb8.output, hb8.size, hb8.block⟩
          have HL8 := Lib.hid (HLB.out.below hb8w)
          have HZ8 := Lib.hid hb8w.size
          refine ⟨_, rfl, Keeps.of_below hb8, ?_⟩
          simp only [Act.put, List.setIfInBounds_toArray, List.set_cons_zero, List.set_cons_succ]
          have hw8 := write_act HL8.out.d v u8 _ ho8
          rw [hE] at hw8
          refine anyCall (i := 5) (oi := { dst := some 60, op := Op.call { callee := Callee.value (Operand.func 12), args := #[Operand.tmp 55, Operand.tmp 57, Operand.tmp 59], argTypes := #[22, 3, 27] }, type := 23, pos := "law.go:112", after := #[{ on := 0, ground := Ground.data }, { on := 2, ground := Ground.data }, { on := 4, ground := Ground.data }, { on := 4, ground := Ground.chain }], guard := none }) rfl (by kernel_rfl) (by rfl) ?_ ((hw8).mono ?_)
          · go_simp
          rintro e9 w9 ⟨rfl, hd9, hk9⟩
          have HL9 := Lib.hid (HL8.out.dk (s' := ((s.1, if okW N v = true then upd s.2 v.at_.toNat (some (actB v.b false)) else s.2) : (Nat → List UInt8) × (Nat → Option (List UInt8)))) hd9 hk9)
          have HZ9 := Lib.hid hk9.size
          refine ⟨_, rfl, Keeps.mono hk9 (fun b hb => .inl ⟨hb.1, by have := HLB.out.h2; have := HIU.out; omega⟩), ?_⟩
          simp only [Act.put, List.setIfInBounds_toArray, List.set_cons_zero, List.set_cons_succ]
          refine anyCall (i := 10) (oi := { dst := some 65, op := Op.call { callee := Callee.value (Operand.func 25), args := #[Operand.tmp 64], argTypes := #[46] }, type := 27, pos := "law.go:112", after := #[{ on := 9, ground := Ground.data }, { on := 5, ground := Ground.chain }], guard := none }) rfl (by kernel_rfl) (by rfl) ?_ (((bytes_any w9 v)).mono ?_)
          · go_simp
          rintro e10 w10 ⟨u10, rfl, ho10, hb10⟩
          have HL10 := Lib.hid (HL9.out.below hb10)
          have HZ10 := Lib.hid hb10.size
          refine ⟨_, rfl, Keeps.of_below hb10, ?_⟩
          simp only [Act.put, List.setIfInBounds_toArray, List.set_cons_zero, List.set_cons_succ]
          have hw10 := rwrite_act HL10.out.f v u10 _ ho10
          rw [hE] at hw10
          refine anyCall (i := 11) (oi := { dst := some 66, op := Op.call { callee := Callee.value (Operand.func 26), args := #[Operand.tmp 61, Operand.tmp 63, Operand.tmp 65], argTypes := #[41, 3, 27] }, type := 23, pos := "law.go:112", after := #[{ on := 6, ground := Ground.data }, { on := 8, ground := Ground.data }, { on := 10, ground := Ground.data }, { on := 10, ground := Ground.chain }], guard := none }) rfl (by kernel_rfl) (by rfl) ?_ ((hw10).mono ?_)
          · go_simp
          rintro e11 w11 ⟨rfl, hd11, hk11⟩
          have HL11 := Lib.hid (HL10.out.rf (t' := ((s.1, if okW N v = true then upd s.2 v.at_.toNat (some (actB v.b false)) else s.2) : (Nat → List UInt8) × (Nat → Option (List UInt8)))) hd11 hk11)
          have HZ11 := Lib.hid hk11.size
          have HS11 : Hid (Src w11 (fun _ => False) none 0 (bcs [])) := Lib.hid (Src.nil_ _ _ _)
          refine ⟨_, rfl, Keeps.mono hk11 (fun b hb => .inl ⟨by have := HLB.out.d.lo_hi; omega, hb.2⟩), ?_⟩
          simp only [Act.put, List.setIfInBounds_toArray, List.set_cons_zero, List.set_cons_succ]
          refine anyTakeE (i := 12) (oi := { dst := some 6, op := Op.assign (Operand.tmp 60), type := 23, pos := "law.go:112", after := #[{ on := 5, ground := Ground.data }, { on := 11, ground := Ground.chain }, { on := 0, ground := Ground.phase }, { on := 1, ground := Ground.phase }, { on := 2, ground := Ground.phase }, { on := 3, ground := Ground.phase }, { on := 4, ground := Ground.phase }, { on := 5, ground := Ground.phase }, { on := 6, ground := Ground.textOnly Departure.lateStores }, { on := 7, ground := Ground.textOnly Departure.lateStores }, { on := 8, ground := Ground.textOnly Departure.lateStores }, { on := 9, ground := Ground.textOnly Departure.lateStores }, { on := 10, ground := Ground.textOnly Departure.lateStoresUnsure }, { on := 11, ground := Ground.textOnly Departure.lateStoresUnsure }], guard := none }) rfl (by kernel_rfl) (by kernel_rfl) (by kernel_rfl) (fun _ _ _ _ h => h) (by rfl) ?_
          apply Exists.intro
          refine ⟨fun w' hk => ?_, ?_⟩
          · go_simp <;> with_reducible rfl
          simp only [Act.put, List.setIfInBounds_toArray, List.set_cons_zero, List.set_cons_succ]
          refine anyTakeE (i := 13) (oi := { dst := some 8, op := Op.assign (Operand.tmp 66), type := 23, pos := "law.go:112", after := #[{ on := 11, ground := Ground.data }, { on := 12, ground := Ground.chain }, { on := 0, ground := Ground.phase }, { on := 1, ground := Ground.phase }, { on := 2, ground := Ground.phase }, { on := 3, ground := Ground.phase }, { on := 4, ground := Ground.phase }, { on := 5, ground := Ground.phase }, { on := 6, ground := Ground.phase }, { on := 7, ground := Ground.phase }, { on := 8, ground := Ground.phase }, { on := 9, ground := Ground.phase }, { on := 10, ground := Ground.phase }, { on := 11, ground := Ground.phase }, { on := 12, ground := Ground.phase }], guard := none }) rfl (by kernel_rfl) (by kernel_rfl) (by kernel_rfl) (fun _ _ _ _ h => h) (by rfl) ?_
          apply Exists.intro
          refine ⟨fun w' hk => ?_, ?_⟩
          · go_simp <;> with_reducible rfl
          simp only [Act.put, List.setIfInBounds_toArray, List.set_cons_zero, List.set_cons_succ]
          refine anyDone (by kernel_rfl) ?_ _
          go_wp2_with (first | ((with_reducible show wpList _ _ _ (⟨some 102, .convert 27 9 _, _, _, _, _⟩ :: _) _ _); go_must (refine wpList_exec rfl _ (w' := w11) (exec_convert rfl (conv_src HS11.out)) ?_)) | ((with_reducible show wpList _ _ _ (⟨some 104, .convert 27 9 _, _, _, _, _⟩ :: _) _ _); go_must (refine wpList_exec rfl _ (w' := w11) (exec_convert rfl (conv_src HS11.out)) ?_)) | (go_at_call 13; go_must (refine (cached_any HL11.out.d).mono ?_; rintro e12 w12 ⟨v12, rfl, ho12, hb12⟩; obtain ⟨A12, c12, rfl, hs12⟩ := own_src ho12; have HL12 := Lib.hid (HL11.out.below hb12); have HS12 := Lib.hid hs12; clear ho12 hs12)) | (go_at_call 28; go_must (refine (rcached_any HL12.out.f).mono ?_; rintro e13 w13 ⟨v13, rfl, ho13, hb13⟩; obtain ⟨A13, c13, rfl, hs13⟩ := own_src ho13; have HL13 := Lib.hid (HL12.out.below hb13); have HE13 := Lib.hid (ints_eq w13 A12 A13 c12 c13 (cks N ((s.1, if okW N v = true then upd s.2 v.at_.toNat (some (actB v.b false)) else s.2) : (Nat → List UInt8) × (Nat → Option (List UInt8))).2) _ _ (HS12.out.below' hb13 (fun b hb => hb.2)) hs13 (by have := cks_len N ((s.1, if okW N v = true then upd s.2 v.at_.toNat (some (actB v.b false)) else s.2) : (Nat → List UInt8) × (Nat → Option (List UInt8))).2; omega) (fun b hb => Nat.lt_of_lt_of_le hb.2 hb13.size) (fun b hb => hb.2)); have HB13 := Lib.hid (hb12.trans (hb13.mono hb12.size)); clear ho13 hs13)) | (go_at_call 27; go_must (refine HE13.out.mono ?_; rintro e14 w14 ⟨rfl, hb14⟩; have HL14 := Lib.hid (HL13.out.below hb14); have HB14 := Lib.hid (HB13.out.trans (hb14.mono HB13.out.size)))))
          refine ⟨⟨i + 1, by omega, by go_num, ?_, ?_⟩, by simp [valOf]; omega⟩
          · rw [HR.out, HS.out]; exact HL14.out
          · have := HB14.out.size; have := HZ8.out; have := HZ9.out; have := HZ10.out; have := HZ11.out; have := HG.out; omega)
    · obtain rfl : i = l.length := by omega
      rename World => wa
      have HLd : Hid (Lr w wa lo hi p hi up r N (runA N l s0) (runA N l s0)) := Lib.hid (by have := HL.out; rw [runA_all] at this; exact this)
      clear HL H1 HK1 HU
      generalize runA N l s0 = s at *
      have HFL : Hid ((flat N s.1).length = 256 * N) := Lib.hid (flat_len HLd.out.d.oks.1)
      go_wp2_with (first | (go_at_call 29; go_must (refine (image_any HLd.out.d).mono ?_; rintro e7 w7 ⟨v7, rfl, ho7, hb7⟩; obtain ⟨A7, c7, rfl, hs7, hc7, hm7⟩ := own_src2 ho7 (by omega); have HL7 := Lib.hid (HLd.out.below hb7); have HOF := Lib.hid (of_any w7 _ A7 N c7 (flat N s.1) hs7 (fun b hb => hb.2) hc7 hm7 hN1 (by omega)); clear ho7 hs7 HLd)) | (go_at_call 9; go_must (refine HOF.out.mono ?_; rintro e8 w8 ⟨q, rfl, hq8, hb8⟩; have HL8 := Lib.hid (HL7.out.below hb8); have HQ8 := Lib.hid hq8; clear hq8 HOF HL7)))
      obtain ⟨bb, rd0, rlt, blt, rs⟩ := rf_bytes (HL8.out.f.below (w' := w8.drew) (below_drewN' (Below.refl _ w8) 1))
      have HRB := Lib.hid rs
      clear rs
      refine anyStart (fun _ => False) (by kernel_rfl) ?_
      refine anyTakeE (i := 0) (oi := { dst := some 125, op := Op.move (Operand.tmp 6), type := 23, pos := "law.go:119", after := #[], guard := none }) rfl (by kernel_rfl) (by kernel_rfl) (by kernel_rfl) (fun _ _ _ _ h => h) (by rfl) ?_
      apply Exists.intro
      refine ⟨fun w' hk => ?_, ?_⟩
      · go_simp <;> with_reducible rfl
      simp only [Act.put, List.setIfInBounds_toArray, List.set_cons_zero, List.set_cons_succ]
      refine anyTakeE (i := 1) (oi := { dst := some 126, op := Op.binOp BinOp.eql 23 (Operand.tmp 125) (Operand.const (Value.int IntKind.i64 0)) 23, type := 4, pos := "law.go:119", after := #[{ on := 0, ground := Ground.data }], guard := none }) rfl (by kernel_rfl) (by kernel_rfl) (by kernel_rfl) (fun _ _ _ _ h => h) (by rfl) ?_
      apply Exists.intro
      refine ⟨fun w' hk => ?_, ?_⟩
      · go_simp <;> with_reducible rfl
      simp only [Act.put, List.setIfInBounds_toArray, List.set_cons_zero, List.set_cons_succ]
      refine anyTakeE (i := 2) (oi := { dst := some 127, op := Op.move (Operand.tmp 126), type := 4, pos := "law.go:119", after := #[{ on := 1, ground := Ground.data }], guard := none }) rfl (by kernel_rfl) (by kernel_rfl) (by kernel_rfl) (fun _ _ _ _ h => h) (by rfl) ?_
      apply Exists.intro
      refine ⟨fun w' hk => ?_, ?_⟩
      · go_simp <;> with_reducible rfl
      simp only [Act.put, List.setIfInBounds_toArray, List.set_cons_zero, List.set_cons_succ]
      refine anyTakeE (i := 3) (oi := { dst := some 128, op := Op.move (Operand.tmp 5), type := 22, pos := "law.go:119", after := #[{ on := 2, ground := Ground.guard }], guard := some (2, true) }) rfl (by kernel_rfl) (by kernel_rfl) (by kernel_rfl) (fun _ _ _ _ h => h) (by rfl) ?_
      apply Exists.intro
      refine ⟨fun w' hk => ?_, ?_⟩
      · go_simp <;> with_reducible rfl
      simp only [Act.put, List.setIfInBounds_toArray, List.set_cons_zero, List.set_cons_succ]
      refine anyTakeE (i := 6) (oi := { dst := some 131, op := Op.move (Operand.tmp 7), type := 41, pos := "law.go:119", after := #[{ on := 2, ground := Ground.guard }], guard := some (2, true) }) rfl (by kernel_rfl) (by kernel_rfl) (by kernel_rfl) (fun _ _ _ _ h => h) (by rfl) ?_
      apply Exists.intro
      refine ⟨fun w' hk => ?_, ?_⟩
      · go_simp <;> with_reducible rfl
      simp only [Act.put, List.setIfInBounds_toArray, List.set_cons_zero, List.set_cons_succ]
      refine anyTakeE (i := 7) (oi := { dst := some 132, op := Op.nilCheck (Operand.tmp 131), type := 0, pos := "law.go:119", after := #[{ on := 6, ground := Ground.data }, { on := 2, ground := Ground.guard }], guard := some (2, true) }) rfl (by kernel_rfl) (by kernel_rfl) (by kernel_rfl) (fun _ _ _ _ h => h) (by rfl) ?_
      apply Exists.intro
      refine ⟨fun w' hk => ?_, ?_⟩
      · go_simp <;> with_reducible rfl
      simp only [Act.put, List.setIfInBounds_toArray, List.set_cons_zero, List.set_cons_succ]
      refine anyTakeE (i := 8) (oi := { dst := some 133, op := Op.fieldAddr 52 (Operand.tmp 132) 0, type := 0, pos := "law.go:119", after := #[{ on := 7, ground := Ground.data }, { on := 2, ground := Ground.guard }], guard := some (2, true) }) rfl (by kernel_rfl) (by kernel_rfl) (by kernel_rfl) (fun _ _ _ _ h => h) (by rfl) ?_
      apply Exists.intro
      refine ⟨fun w' hk => ?_, ?_⟩
      · go_simp <;> with_reducible rfl
      simp only [Act.put, List.setIfInBounds_toArray, List.set_cons_zero, List.set_cons_succ]
      refine anyTakeE (i := 9) (oi := { dst := some 134, op := Op.load 27 (Operand.tmp 133), type := 27, pos := "law.go:119", after := #[{ on := 8, ground := Ground.data }, { on := 2, ground := Ground.guard }], guard := some (2, true) }) rfl (by kernel_rfl) (by kernel_rfl) (by kernel_rfl) (fun _ _ _ _ h => h) (by rfl) ?_
      apply Exists.intro
      refine ⟨fun w' hk => ?_, ?_⟩
      · have c9 := (hk.cell (b := r) (o := 0) rlt id).trans rd0; go_simp <;> with_reducible rfl
      simp only [Act.put, List.setIfInBounds_toArray, List.set_cons_zero, List.set_cons_succ]
      refine anyTake (i := 10) (oi := { dst := some 135, op := Op.convert 27 9 (Operand.tmp 134), type := 9, pos := "law.go:119", after := #[{ on := 9, ground := Ground.data }, { on := 2, ground := Ground.guard }], guard := some (2, true) }) rfl (by kernel_rfl) (by kernel_rfl) (by kernel_rfl) (fun _ _ _ h => h) (by rfl) (fun w' hk => exec_convert rfl (conv_src (HRB.out.keeps hk (fun b hb => ⟨by rw [hb]; exact blt, id⟩)))) ?_
      simp only [Act.put, List.setIfInBounds_toArray, List.set_cons_zero, List.set_cons_succ]
      refine anyCall (i := 4) (oi := { dst := some 129, op := Op.call { callee := Callee.value (Operand.func 29), args := #[Operand.tmp 128], argTypes := #[22] }, type := 27, pos := "law.go:119", after := #[{ on := 3, ground := Ground.data }, { on := 2, ground := Ground.chain }, { on := 2, ground := Ground.guard }], guard := some (2, true) }) rfl (by kernel_rfl) (by rfl) ?_ (((image_any (HL8.out.d.below (w' := w8.drew) (below_drewN' (Below.refl _ w8) 1)))).mono ?_)
      · go_simp
      rintro e9 w9 ⟨v9, rfl, ho9, hb9⟩
      obtain ⟨A9, c9, rfl, hs9⟩ := own_src ho9
      have hb9w : Below w8.heap.size w8 w9 := ⟨hb9.os, hb9.tape, hb9.output, hb9.size, hb9.block⟩
      have HL9 := Lib.hid (HL8.out.below hb9w)
      have HQ9 := Lib.hid (HQ8.out.below hb9w)
      have HS9 := Lib.hid hs9
      have HB9 := Lib.hid hb9
      clear ho9 hs9 hb9w
      refine ⟨_, rfl, Keeps.of_below hb9, ?_⟩
      simp only [Act.put, List.setIfInBounds_toArray, List.set_cons_zero, List.set_cons_succ]
      refine anyTake (i := 5) (oi := { dst := some 130, op := Op.convert 27 9 (Operand.tmp 129), type := 9, pos := "law.go:119", after := #[{ on := 4, ground := Ground.data }, { on := 2, ground := Ground.guard }], guard := some (2, true) }) rfl (by kernel_rfl) (by kernel_rfl) (by kernel_rfl) (fun _ _ _ h => h) (by rfl) (fun w' hk => exec_convert rfl (conv_src (HS9.out.keeps hk (fun b hb => ⟨hb.2, id⟩)))) ?_
      simp only [Act.put, List.setIfInBounds_toArray, List.set_cons_zero, List.set_cons_succ]
      refine anyTakeE (i := 11) (oi := { dst := some 136, op := Op.binOp BinOp.eql 9 (Operand.tmp 130) (Operand.tmp 135) 9, type := 4, pos := "law.go:119", after := #[{ on := 5, ground := Ground.data }, { on := 10, ground := Ground.data }, { on := 2, ground := Ground.guard }], guard := some (2, true) }) rfl (by kernel_rfl) (by kernel_rfl) (by kernel_rfl) (fun _ _ _ _ h => h) (by rfl) ?_
      apply Exists.intro
      refine ⟨fun w' hk => ?_, ?_⟩
      · go_simp <;> with_reducible rfl
      simp only [Act.put, List.setIfInBounds_toArray, List.set_cons_zero, List.set_cons_succ]
      refine anyTakeE (i := 12) (oi := { dst := some 137, op := Op.pick (Operand.tmp 127) (Operand.tmp 136) (Operand.const (Value.bool false)), type := 4, pos := "law.go:119", after := #[{ on := 2, ground := Ground.data }, { on := 11, ground := Ground.data }], guard := none }) rfl (by kernel_rfl) (by kernel_rfl) (by kernel_rfl) (fun _ _ _ _ h => h) (by rfl) ?_
      apply Exists.intro
      refine ⟨fun w' hk => ?_, ?_⟩
      · go_simp <;> with_reducible rfl
      simp only [Act.put, List.setIfInBounds_toArray, List.set_cons_zero, List.set_cons_succ]
      refine anyTakeE (i := 13) (oi := { dst := some 138, op := Op.move (Operand.tmp 137), type := 4, pos := "law.go:119", after := #[{ on := 12, ground := Ground.data }, { on := 4, ground := Ground.chain }], guard := none }) rfl (by kernel_rfl) (by kernel_rfl) (by kernel_rfl) (fun _ _ _ _ h => h) (by rfl) ?_
      apply Exists.intro
      refine ⟨fun w' hk => ?_, ?_⟩
      · go_simp <;> with_reducible rfl
      simp only [Act.put, List.setIfInBounds_toArray, List.set_cons_zero, List.set_cons_succ]
      refine anyTakeE (i := 14) (oi := { dst := some 139, op := Op.move (Operand.tmp 5), type := 22, pos := "law.go:119", after := #[{ on := 13, ground := Ground.guard }], guard := some (13, true) }) rfl (by kernel_rfl) (by kernel_rfl) (by kernel_rfl) (fun _ _ _ _ h => h) (by rfl) ?_
      apply Exists.intro
      refine ⟨fun w' hk => ?_, ?_⟩
      · go_simp <;> with_reducible rfl
      simp only [Act.put, List.setIfInBounds_toArray, List.set_cons_zero, List.set_cons_succ]
      refine anyTakeE (i := 16) (oi := { dst := some 141, op := Op.move (Operand.tmp 0), type := 3, pos := "law.go:119", after := #[{ on := 13, ground := Ground.guard }], guard := some (13, true) }) rfl (by kernel_rfl) (by kernel_rfl) (by kernel_rfl) (fun _ _ _ _ h => h) (by rfl) ?_
      apply Exists.intro
      refine ⟨fun w' hk => ?_, ?_⟩
      · go_simp <;> with_reducible rfl
      simp only [Act.put, List.setIfInBounds_toArray, List.set_cons_zero, List.set_cons_succ]
      refine anyCall (i := 15) (oi := { dst := some 140, op := Op.call { callee := Callee.value (Operand.func 15), args := #[Operand.tmp 139], argTypes := #[22] }, type := 3, pos := "law.go:119", after := #[{ on := 14, ground := Ground.data }, { on := 13, ground := Ground.chain }, { on := 13, ground := Ground.guard }], guard := some (13, true) }) rfl (by kernel_rfl) (by rfl) ?_ (((size_any HL9.out.d)).mono ?_)
      · go_simp
      rintro e10 w10 ⟨rfl, hw10⟩
      subst hw10
      refine ⟨_, rfl, Keeps.refl _ _, ?_⟩
      simp only [Act.put, List.setIfInBounds_toArray, List.set_cons_zero, List.set_cons_succ]
      refine anyTakeE (i := 17) (oi := { dst := some 142, op := Op.binOp BinOp.eql 3 (Operand.tmp 140) (Operand.tmp 141) 3, type := 4, pos := "law.go:119", after := #[{ on := 15, ground := Ground.data }, { on := 16, ground := Ground.data }, { on := 13, ground := Ground.guard }], guard := some (13, true) }) rfl (by kernel_rfl) (by kernel_rfl) (by kernel_rfl) (fun _ _ _ _ h => h) (by rfl) ?_
      apply Exists.intro
      refine ⟨fun w' hk => ?_, ?_⟩
      · have hnv := HNV.out; go_simp <;> with_reducible rfl
      simp only [Act.put, List.setIfInBounds_toArray, List.set_cons_zero, List.set_cons_succ]
      refine anyTakeE (i := 18) (oi := { dst := some 143, op := Op.pick (Operand.tmp 138) (Operand.tmp 142) (Operand.const (Value.bool false)), type := 4, pos := "law.go:119", after := #[{ on := 13, ground := Ground.data }, { on := 17, ground := Ground.data }], guard := none }) rfl (by kernel_rfl) (by kernel_rfl) (by kernel_rfl) (fun _ _ _ _ h => h) (by rfl) ?_
      apply Exists.intro
      refine ⟨fun w' hk => ?_, ?_⟩
      · go_simp <;> with_reducible rfl
      simp only [Act.put, List.setIfInBounds_toArray, List.set_cons_zero, List.set_cons_succ]
      refine anyTakeE (i := 19) (oi := { dst := some 144, op := Op.move (Operand.tmp 143), type := 4, pos := "law.go:119", after := #[{ on := 18, ground := Ground.data }, { on := 15, ground := Ground.chain }], guard := none }) rfl (by kernel_rfl) (by kernel_rfl) (by kernel_rfl) (fun _ _ _ _ h => h) (by rfl) ?_
      apply Exists.intro
      refine ⟨fun w' hk => ?_, ?_⟩
      · go_simp <;> with_reducible rfl
      simp only [Act.put, List.setIfInBounds_toArray, List.set_cons_zero, List.set_cons_succ]
      refine anyTakeE (i := 20) (oi := { dst := some 145, op := Op.move (Operand.tmp 13), type := 22, pos := "law.go:119", after := #[{ on := 19, ground := Ground.guard }], guard := some (19, true) }) rfl (by kernel_rfl) (by kernel_rfl) (by kernel_rfl) (fun _ _ _ _ h => h) (by rfl) ?_
      apply Exists.intro
      refine ⟨fun w' hk => ?_, ?_⟩
      · go_simp <;> with_reducible rfl
      simp only [Act.put, List.setIfInBounds_toArray, List.set_cons_zero, List.set_cons_succ]
      refine anyTakeE (i := 23) (oi := { dst := some 148, op := Op.move (Operand.tmp 7), type := 41, pos := "law.go:119", after := #[{ on := 19, ground := Ground.guard }], guard := some (19, true) }) rfl (by kernel_rfl) (by kernel_rfl) (by kernel_rfl) (fun _ _ _ _ h => h) (by rfl) ?_
      apply Exists.intro
      refine ⟨fun w' hk => ?_, ?_⟩
      · go_simp <;> with_reducible rfl
      simp only [Act.put, List.setIfInBounds_toArray, List.set_cons_zero, List.set_cons_succ]
      refine anyTakeE (i := 24) (oi := { dst := some 149, op := Op.nilCheck (Operand.tmp 148), type := 0, pos := "law.go:119", after := #[{ on := 23, ground := Ground.data }, { on := 19, ground := Ground.guard }], guard := some (19, true) }) rfl (by kernel_rfl) (by kernel_rfl) (by kernel_rfl) (fun _ _ _ _ h => h) (by rfl) ?_
      apply Exists.intro
      refine ⟨fun w' hk => ?_, ?_⟩
      · go_simp <;> with_reducible rfl
      simp only [Act.put, List.setIfInBounds_toArray, List.set_cons_zero, List.set_cons_succ]
      refine anyTakeE (i := 25) (oi := { dst := some 150, op := Op.fieldAddr 52 (Operand.tmp 149) 0, type := 0, pos := "law.go:119", after := #[{ on := 24, ground := Ground.data }, { on := 19, ground := Ground.guard }], guard := some (19, true) }) rfl (by kernel_rfl) (by kernel_rfl) (by kernel_rfl) (fun _ _ _ _ h => h) (by rfl) ?_
      apply Exists.intro
      refine ⟨fun w' hk => ?_, ?_⟩
      · go_simp <;> with_reducible rfl
      simp only [Act.put, List.setIfInBounds_toArray, List.set_cons_zero, List.set_cons_succ]
      refine anyTakeE (i := 26) (oi := { dst := some 151, op := Op.load 27 (Operand.tmp 150), type := 27, pos := "law.go:119", after := #[{ on := 25, ground := Ground.data }, { on := 19, ground := Ground.guard }], guard := some (19, true) }) rfl (by kernel_rfl) (by kernel_rfl) (by kernel_rfl) (fun _ _ _ _ h => h) (by rfl) ?_
      apply Exists.intro
      refine ⟨fun w' hk => ?_, ?_⟩
      · have c9 := (((Keeps.of_below (G := fun _ => False) HB9.out).trans hk).cell (b := r) (o := 0) rlt id).trans rd0; go_simp <;> with_reducible rfl
      simp only [Act.put, List.setIfInBounds_toArray, List.set_cons_zero, List.set_cons_succ]
      refine anyTake (i := 27) (oi := { dst := some 152, op := Op.convert 27 9 (Operand.tmp 151), type := 9, pos := "law.go:119", after := #[{ on := 26, ground := Ground.data }, { on := 19, ground := Ground.guard }], guard := some (19, true) }) rfl (by kernel_rfl) (by kernel_rfl) (by kernel_rfl) (fun _ _ _ h => h) (by rfl) (fun w' hk => exec_convert rfl (conv_src (HRB.out.keeps ((Keeps.of_below (G := fun _ => False) HB9.out).trans hk) (fun b hb => ⟨by rw [hb]; exact blt, id⟩)))) ?_
      simp only [Act.put, List.setIfInBounds_toArray, List.set_cons_zero, List.set_cons_succ]
      refine anyCall (i := 21) (oi := { dst := some 146, op := Op.call { callee := Callee.value (Operand.func 29), args := #[Operand.tmp 145], argTypes := #[22] }, type := 27, pos := "law.go:119", after := #[{ on := 20, ground := Ground.data }, { on := 19, ground := Ground.chain }, { on := 19, ground := Ground.guard }], guard := some (19, true) }) rfl (by kernel_rfl) (by rfl) ?_ (((image_any HQ9.out)).mono ?_)
      · go_simp
      rintro e11 w11 ⟨v11, rfl, ho11, hb11⟩
      rw [flat_secs_all HFL.out] at ho11
      obtain ⟨A11, c11, rfl, hs11⟩ := own_src ho11
      have HL11 := Lib.hid (HL9.out.below hb11)
      have HQ11 := Lib.hid (HQ9.out.below hb11)
      have HS11 := Lib.hid hs11
      clear ho11 hs11
      refine ⟨_, rfl, Keeps.of_below hb11, ?_⟩
      simp only [Act.put, List.setIfInBounds_toArray, List.set_cons_zero, List.set_cons_succ]
      refine anyTake (i := 22) (oi := { dst := some 147, op := Op.convert 27 9 (Operand.tmp 146), type := 9, pos := "law.go:119", after := #[{ on := 21, ground := Ground.data }, { on := 19, ground := Ground.guard }], guard := some (19, true) }) rfl (by kernel_rfl) (by kernel_rfl) (by kernel_rfl) (fun _ _ _ h => h) (by rfl) (fun w' hk => exec_convert rfl (conv_src (HS11.out.keeps hk (fun b hb => ⟨hb.2, id⟩)))) ?_
      simp only [Act.put, List.setIfInBounds_toArray, List.set_cons_zero, List.set_cons_succ]
      refine anyTakeE (i := 28) (oi := { dst := some 153, op := Op.binOp BinOp.eql 9 (Operand.tmp 147) (Operand.tmp 152) 9, type := 4, pos := "law.go:119", after := #[{ on := 22, ground := Ground.data }, { on := 27, ground := Ground.data }, { on := 19, ground := Ground.guard }], guard := some (19, true) }) rfl (by kernel_rfl) (by kernel_rfl) (by kernel_rfl) (fun _ _ _ _ h => h) (by rfl) ?_
      apply Exists.intro
      refine ⟨fun w' hk => ?_, ?_⟩
      · go_simp <;> with_reducible rfl
      simp only [Act.put, List.setIfInBounds_toArray, List.set_cons_zero, List.set_cons_succ]
      refine anyTakeE (i := 29) (oi := { dst := some 154, op := Op.pick (Operand.tmp 144) (Operand.tmp 153) (Operand.const (Value.bool false)), type := 4, pos := "law.go:119", after := #[{ on := 19, ground := Ground.data }, { on := 28, ground := Ground.data }], guard := none }) rfl (by kernel_rfl) (by kernel_rfl) (by kernel_rfl) (fun _ _ _ _ h => h) (by rfl) ?_
      apply Exists.intro
      refine ⟨fun w' hk => ?_, ?_⟩
      · go_simp <;> with_reducible rfl
      simp only [Act.put, List.setIfInBounds_toArray, List.set_cons_zero, List.set_cons_succ]
      refine anyTakeE (i := 30) (oi := { dst := some 155, op := Op.move (Operand.tmp 154), type := 4, pos := "law.go:119", after := #[{ on := 29, ground := Ground.data }, { on := 21, ground := Ground.chain }], guard := none }) rfl (by kernel_rfl) (by kernel_rfl) (by kernel_rfl) (fun _ _ _ _ h => h) (by rfl) ?_
      apply Exists.intro
      refine ⟨fun w' hk => ?_, ?_⟩
      · go_simp <;> with_reducible rfl
      simp only [Act.put, List.setIfInBounds_toArray, List.set_cons_zero, List.set_cons_succ]
      refine anyTakeE (i := 31) (oi := { dst := some 156, op := Op.move (Operand.tmp 13), type := 22, pos := "law.go:119", after := #[{ on := 30, ground := Ground.guard }], guard := some (30, true) }) rfl (by kernel_rfl) (by kernel_rfl) (by kernel_rfl) (fun _ _ _ _ h => h) (by rfl) ?_
      apply Exists.intro
      refine ⟨fun w' hk => ?_, ?_⟩
      · go_simp <;> with_reducible rfl
      simp only [Act.put, List.setIfInBounds_toArray, List.set_cons_zero, List.set_cons_succ]
      refine anyCall (i := 32) (oi := { dst := some 157, op := Op.call { callee := Callee.value (Operand.func 13), args := #[Operand.tmp 156], argTypes := #[22] }, type := 32, pos := "law.go:119", after := #[{ on := 31, ground := Ground.data }, { on := 30, ground := Ground.chain }, { on := 30, ground := Ground.guard }], guard := some (30, true) }) rfl (by kernel_rfl) (by rfl) ?_ (((cached_any HQ11.out)).mono ?_)
      · go_simp
      rintro e12 w12 ⟨v12, rfl, ho12, hb12⟩
      rw [cks_no] at ho12
      obtain ⟨A12, c12, rfl, -⟩ := own_src ho12
      have HL12 := Lib.hid (HL11.out.below hb12)
      clear ho12
      refine ⟨_, rfl, Keeps.of_below hb12, ?_⟩
      simp only [Act.put, List.setIfInBounds_toArray, List.set_cons_zero, List.set_cons_succ]
      refine anyTakeE (i := 33) (oi := { dst := some 158, op := Op.call { callee := Callee.builtin Builtin.len, args := #[Operand.tmp 157], argTypes := #[32] }, type := 3, pos := "law.go:119", after := #[{ on := 32, ground := Ground.data }, { on := 30, ground := Ground.guard }], guard := some (30, true) }) rfl (by kernel_rfl) (by kernel_rfl) (by kernel_rfl) (fun _ _ _ _ h => h) (by rfl) ?_
      apply Exists.intro
      refine ⟨fun w' hk => ?_, ?_⟩
      · go_simp <;> with_reducible rfl
      simp only [Act.put, List.setIfInBounds_toArray, List.set_cons_zero, List.set_cons_succ]
      refine anyTakeE (i := 34) (oi := { dst := some 159, op := Op.binOp BinOp.eql 3 (Operand.tmp 158) (Operand.const (Value.int IntKind.i64 0)) 3, type := 4, pos := "law.go:119", after := #[{ on := 33, ground := Ground.data }, { on := 30, ground := Ground.guard }], guard := some (30, true) }) rfl (by kernel_rfl) (by kernel_rfl) (by kernel_rfl) (fun _ _ _ _ h => h) (by rfl) ?_
      apply Exists.intro
      refine ⟨fun w' hk => ?_, ?_⟩
      · go_simp <;> with_reducible rfl
      simp only [Act.put, List.setIfInBounds_toArray, List.set_cons_zero, List.set_cons_succ]
      refine anyTakeE (i := 35) (oi := { dst := some 160, op := Op.pick (Operand.tmp 155) (Operand.tmp 159) (Operand.const (Value.bool false)), type := 4, pos := "law.go:119", after := #[{ on := 30, ground := Ground.data }, { on := 34, ground := Ground.data }], guard := none }) rfl (by kernel_rfl) (by kernel_rfl) (by kernel_rfl) (fun _ _ _ _ h => h) (by rfl) ?_
      apply Exists.intro
      refine ⟨fun w' hk => ?_, ?_⟩
      · go_simp <;> with_reducible rfl
      simp only [Act.put, List.setIfInBounds_toArray, List.set_cons_zero, List.set_cons_succ]
      refine anyTakeE (i := 36) (oi := { dst := some 4, op := Op.assign (Operand.tmp 160), type := 4, pos := "law.go:119", after := #[{ on := 35, ground := Ground.data }, { on := 32, ground := Ground.chain }, { on := 0, ground := Ground.phase }, { on := 1, ground := Ground.phase }, { on := 2, ground := Ground.phase }, { on := 3, ground := Ground.phase }, { on := 4, ground := Ground.phase }, { on := 5, ground := Ground.phase }, { on := 6, ground := Ground.phase }, { on := 7, ground := Ground.phase }, { on := 8, ground := Ground.phase }, { on := 9, ground := Ground.phase }, { on := 10, ground := Ground.phase }, { on := 11, ground := Ground.phase }, { on := 12, ground := Ground.phase }, { on := 13, ground := Ground.phase }, { on := 14, ground := Ground.phase }, { on := 15, ground := Ground.phase }, { on := 16, ground := Ground.phase }, { on := 17, ground := Ground.phase }, { on := 18, ground := Ground.phase }, { on := 19, ground := Ground.phase }, { on := 20, ground := Ground.phase }, { on := 21, ground := Ground.phase }, { on := 22, ground := Ground.phase }, { on := 23, ground := Ground.phase }, { on := 24, ground := Ground.phase }, { on := 25, ground := Ground.phase }, { on := 26, ground := Ground.phase }, { on := 27, ground := Ground.phase }, { on := 28, ground := Ground.phase }, { on := 29, ground := Ground.phase }, { on := 30, ground := Ground.phase }, { on := 31, ground := Ground.phase }, { on := 32, ground := Ground.phase }, { on := 33, ground := Ground.phase }, { on := 34, ground := Ground.phase }, { on := 35, ground := Ground.phase }], guard := none }) rfl (by kernel_rfl) (by kernel_rfl) (by kernel_rfl) (fun _ _ _ _ h => h) (by rfl) ?_
      apply Exists.intro
      refine ⟨fun w' hk => ?_, ?_⟩
      · go_simp <;> with_reducible rfl
      simp only [Act.put, List.setIfInBounds_toArray, List.set_cons_zero, List.set_cons_succ]
      refine anyDone (by kernel_rfl) ?_ _
      go_wp2
      go_ret
      exact ⟨rfl, HL12.out.b⟩

set_option maxRecDepth 100000 in
theorem lifted (os : Os) (started : os.Started) (H : Type) (enc : TypeId × Value → H) :
    ReturnsInHanded {} Try.checked os 4 .any (Rows.diskScriptSpec.pre6 enc Try.prog Try.f4 Rows.diskScriptRow.domain false) (Rows.diskScriptSpec.post enc Try.prog Try.f4 false true false false) := by
  refine returnsInHanded_of_change (C := Try.checked) own started (by kernel_rfl) Try.func4
    (ChangeSpec.witness6 (enc := enc) (C := Try.checked) false ⟨#[], #[.int .i64 0, .slice none 0 0], []⟩ 8 (by kernel_rfl) (by kernel_rfl) (by kernel_rfl) (by kernel_rfl)) ?_
  intro W base args ds gs before hval0 hW hcnd _
  have hval : ∀ (j : Nat) t v, Try.f4.params[j]? = some t → args[j]? = some v → Value.okWide Try.prog W .any base t v := hval0
  have hW' := hW
  obtain ⟨p, q, hA0, hV, rfl, hfz, hnd⟩ := hW
  have hA : DataW.TrodAll enc Try.prog W 0 (fun _ => true) true Try.f4.params.toList args.toList ds p := hA0
  rw [Try.params4] at hA hval
  obtain ⟨v0, vs0, d0, ds0, p0, q0, hargs, rfl, rfl, h0, r0⟩ := trodAll_cons hA
  obtain ⟨v1, vs1, d1, ds1, p1, q1, rfl, rfl, rfl, h1, r1⟩ := trodAll_cons r0
  obtain ⟨rfl, rfl, rfl⟩ := trodAll_nil r1
  obtain rfl : args = #[v0, v1] := by cases args; simp_all
  obtain ⟨rfl, rfl⟩ := trodVars_none hV
  obtain ⟨a0, rfl, rfl, rfl, w0⟩ := open_int Try.underlying3 (hval 0 3 v0 rfl rfl) h0
  have k1 := h1
  have lt1 : ∀ x ∈ p1, x.block < W.heap.size := by obtain ⟨m, hm⟩ := k1; exact DataW.trod_lt m _ _ _ hm
  obtain ⟨fuel1, hf1⟩ := h1
  obtain ⟨A1, n1, c1, l1, hcs1, _, _, hacts1⟩ := open_acts hf1
  obtain ⟨x1, y1, z1, rfl⟩ := okWide_slice Try.underlying38 (hval 1 38 v1 rfl rfl)
  simp [Value.cells] at hcs1
  obtain ⟨rfl, rfl, rfl⟩ := hcs1
  clear hA0 hval0
  refine (walk W a0 x1 y1 z1 l1 hacts1).mono fun e W' ⟨he, bel⟩ => ?_
  subst he
  exact ⟨_, rfl, _, _, _, [], _, [], hW', trodAll_mk1 (shut_bool Try.underlying4 _), (trodAll_cons_mk (shut_int Try.underlying3 w0) (trodAll_cons_mk (Below.trod laidOut (by kernel_rfl) (of_decide_eq_true (by kernel_rfl)) k1 bel lt1) trodAll_mk0)), rfl, bel.frame _, fun h => by cases h⟩

theorem over : Rows.diskScriptRow.holds Try.pinned (OpenSpec.ofChange Rows.diskScriptSpec) :=
  OpenClaim.holds_of_wide 4 Try.f4 rfl rfl rfl rfl rfl rfl rfl ⟨rfl, rfl, rfl, rfl, rfl⟩ rfl rfl rfl rfl rfl (by kernel_rfl) Try.func4 (by kernel_rfl)
    (of_decide_eq_true (by kernel_rfl)) (by unfold Func.isWrapper; first | (rw [if_pos (by decide +kernel)]; kernel_rfl) | (rw [if_neg (by decide +kernel)]; exact ⟨rfl, rfl⟩))
    (fun os started H enc _ => lifted os started H enc)

/-- The statement. -/
theorem proved : Rows.DiskScriptSaid := over
#print axioms proved
end Go.Proofs.Ytfhjcfoecmbhkaa.diskScript
