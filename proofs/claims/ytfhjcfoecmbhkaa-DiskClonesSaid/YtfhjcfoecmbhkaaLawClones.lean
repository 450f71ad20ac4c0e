/- It is proved that DiskClones returns true for all numbers and all lists of calls: a clone is the disk as it is, and from then on both are independent. Conditions: none. -/
import Derived.Test.YtfhjcfoecmbhkaaRows
import Derived.Test.YtfhjcfoecmbhkaaLG
import Derived.ProofKit
import Derived.OpenShut
import Derived.ChangeOld
namespace Go.Proofs.Ytfhjcfoecmbhkaa.diskClones
open Go.ChangeShapes Go.WideShapes Go.ChangeAt Go.RowKit
set_option linter.unusedVariables false
set_option linter.unusedSimpArgs false

theorem own : ownKnob Try.prog.godebug = none := by kernel_rfl
theorem laidOut : laidOutB Try.prog = true := by kernel_rfl

set_option maxRecDepth 100000 in
set_option maxHeartbeats 4000000 in
theorem walk (w : World) (z : Int) (A1 A2 : Option Addr) (n1 n2 c1 c2 : Nat) (l m : List ActV) (h1 : Acts w A1 n1 l) (h2 : Acts w A2 n2 m) :
    Calls Try.prog 7 #[.int .i64 z, .slice A1 n1 c1, .slice A2 n2 c2] w fun e w' => e = .returned (.bool true) ∧ Below w.heap.size w w' := by
  have H1 := Lib.hid h1
  have H2 := Lib.hid h2
  have hl1 := h1.len
  have hl2 := h2.len
  clear h1 h2
  subst hl1; subst hl2
  go_enter Try.func7, Try.ntmps7
  go_wp2_with fail
  refine (lives_any w).mono ?_
  rintro e1 w1 ⟨rfl, hb1⟩
  have HB1 := Lib.hid hb1
  clear hb1
  go_wp2_with fail
  refine (small_any w1 A1 l.length c1 l (H1.out.below HB1.out)).mono ?_
  rintro e2 w2 ⟨r1, rfl, hw2, hr1⟩
  subst hw2
  cases r1
  · go_wp2
    go_ret
    exact ⟨rfl, HB1.out⟩
  go_wp2_with fail
  refine (small_any w2 A2 m.length c2 m (H2.out.below HB1.out)).mono ?_
  rintro e3 w3 ⟨r2, rfl, hw3, hr2⟩
  subst hw3
  cases r2
  · go_wp2
    go_ret
    exact ⟨rfl, HB1.out⟩
  obtain ⟨hn1, hk1⟩ := hr1 trivial
  obtain ⟨hn2, hk2⟩ := hr2 rfl
  have HK1 := Lib.hid hk1
  have HK2 := Lib.hid hk2
  clear hr1 hr2 hk1 hk2
  go_wp2_with fail
  refine (pick_any w3 z 40 (by omega) (by omega)).mono ?_
  rintro e4 w4 ⟨rfl, hw4⟩
  subst hw4
  have hp := pk_lt z 40 (by omega)
  generalize pk z 40 = k0 at *
  obtain ⟨N, hN⟩ : ∃ N : Nat, N = 1 + k0 := ⟨_, rfl⟩
  have HN := Lib.hid hN
  have hk0 : (k0 : Int) < 40 := by omega
  have hN2 : N ≤ 40 := by omega
  clear hN hp
  go_wp2_with fail
  refine (new_at w4 _ N (by have := HN.out; omega) (by have := HN.out; omega) (by omega)).mono ?_
  rintro e5 w5 ⟨p, rfl, hd5, hb5⟩
  obtain ⟨s0, hs0⟩ : ∃ s : (Nat → List UInt8) × (Nat → Option (List UInt8)), s = (fun _ => zs 256, fun _ => none) := ⟨_, rfl⟩
  have HL5 : Hid (Lp w w5 w4.heap.size w5.heap.size p N s0) := Lib.hid ⟨by rw [hs0]; exact hd5, HB1.out.trans (hb5.mono HB1.out.size), HB1.out.size⟩
  have HB14 := Lib.hid HB1.out.size
  clear hd5 hb5 HB1 hs0 HN hk0
  generalize w4.heap.size = lo at *
  generalize w5.heap.size = hi at *
  go_wp2_with fail
  go_loopw [9] (fun v wr => ∃ i : Nat, i ≤ l.length ∧ v = .int .i64 i ∧ Lp w wr lo hi p N (runA N (l.take i) s0)) (fun v _ => l.length - (valOf v).toNat)
  case atStart => exact ⟨0, by omega, rfl, HL5.out⟩
  case round =>
    obtain ⟨i, hi1, rfl, hL⟩ := hrel
    have HL := Lib.hid hL
    clear hL HL5
    by_cases hlt : i < l.length
    · obtain ⟨b, o, rfl, hb, hc⟩ := (H1.out.below HL.out.b).lies (by omega)
      have hv : l[i]? = some l[i] := List.getElem?_eq_getElem hlt
      have HC := Lib.hid (hc i _ hv)
      have HR := Lib.hid (runA_succ (n := N) s0 hv)
      have HO := Lib.hid (H1.out.ok _ (List.getElem_mem hlt))
      have HKN := Lib.hid (HK1.out _ (List.getElem_mem hlt))
      have h1' : (i : Int) < (l.length : Int) := by omega
      have h2' : (i : Int) ≤ 80 := by omega
      generalize l[i] = v at *
      clear hc hv hb
      go_wp2_with (first | ((with_reducible show wpList _ _ _ (⟨some 44, .load 46 _, _, _, _, _⟩ :: _) _ _); go_must (refine wpList_load46 rfl _ rfl b (o + i * 5) rfl v HC.out ?_)) | (go_at_call 30; go_must (refine (HL.out.do_ v HO.out HKN.out).mono ?_; rintro e6 w6 ⟨rfl, hL6, -⟩)))
      refine ⟨⟨i + 1, by omega, by go_num, ?_⟩, by simp [valOf]; omega⟩
      rw [HR.out]
      exact hL6
    · obtain rfl : i = l.length := by omega
      rename World => wa
      have HLd : Hid (Lp w wa lo hi p N (runA N l s0)) := Lib.hid (by have := HL.out; rw [runA_all] at this; exact this)
      clear HL H1 HK1
      generalize runA N l s0 = s at *
      go_wp2_with fail
      refine anyStart (fun _ => False) (by kernel_rfl) ?_
      refine anyTakeE (i := 0) (oi := { dst := some 46, op := Op.move (Operand.tmp 7), type := 22, pos := "law.go:221", after := #[], guard := none }) rfl (by kernel_rfl) (by kernel_rfl) (by kernel_rfl) (fun _ _ _ _ h => h) (by rfl) ?_
      apply Exists.intro
      refine ⟨fun w' hk => ?_, ?_⟩
      · go_simp <;> with_reducible rfl
      simp only [Act.put, List.setIfInBounds_toArray, List.set_cons_zero, List.set_cons_succ]
      refine anyTakeE (i := 3) (oi := { dst := some 49, op := Op.move (Operand.tmp 7), type := 22, pos := "law.go:221", after := #[], guard := none }) rfl (by kernel_rfl) (by kernel_rfl) (by kernel_rfl) (fun _ _ _ _ h => h) (by rfl) ?_
      apply Exists.intro
      refine ⟨fun w' hk => ?_, ?_⟩
      · go_simp <;> with_reducible rfl
      simp only [Act.put, List.setIfInBounds_toArray, List.set_cons_zero, List.set_cons_succ]
      refine anyCall (i := 1) (oi := { dst := some 47, op := Op.call { callee := Callee.value (Operand.func 29), args := #[Operand.tmp 46], argTypes := #[22] }, type := 27, pos := "law.go:221", after := #[{ on := 0, ground := Ground.data }], guard := none }) rfl (by kernel_rfl) (by rfl) ?_ (((image_any (HLd.out.d.below (w' := wa.drew) (below_drewN' (Below.refl _ wa) 1)))).mono ?_)
      · go_simp
      rintro e6 w6 ⟨v6, rfl, ho6, hb6⟩
      obtain ⟨A6, c6, rfl, hs6⟩ := own_src ho6
      have hb6w : Below wa.heap.size wa w6 := ⟨hb6.os, hb6.tape, hb6.output, hb6.size, hb6.block⟩
      have HL6 := Lib.hid (HLd.out.below hb6w)
      have HS6 := Lib.hid hs6
      clear ho6 hs6
      refine ⟨_, rfl, Keeps.of_below hb6, ?_⟩
      simp only [Act.put, List.setIfInBounds_toArray, List.set_cons_zero, List.set_cons_succ]
      refine anyTake (i := 2) (oi := { dst := some 48, op := Op.convert 27 9 (Operand.tmp 47), type := 9, pos := "law.go:221", after := #[{ on := 1, ground := Ground.data }], guard := none }) rfl (by kernel_rfl) (by kernel_rfl) (by kernel_rfl) (fun _ _ _ h => h) (by rfl) (fun w' hk => exec_convert rfl (conv_src (HS6.out.keeps hk (fun b hb => ⟨hb.2, id⟩)))) ?_
      simp only [Act.put, List.setIfInBounds_toArray, List.set_cons_zero, List.set_cons_succ]
      refine anyCall (i := 4) (oi := { dst := some 50, op := Op.call { callee := Callee.value (Operand.func 13), args := #[Operand.tmp 49], argTypes := #[22] }, type := 32, pos := "law.go:221", after := #[{ on := 3, ground := Ground.data }, { on := 1, ground := Ground.chain }], guard := none }) rfl (by kernel_rfl) (by rfl) ?_ (((cached_any HL6.out.d)).mono ?_)
      · go_simp
      rintro e7 w7 ⟨v7, rfl, ho7, hb7⟩
      obtain ⟨A7, c7, rfl, hs7⟩ := own_src ho7
      have HL7 := Lib.hid (HL6.out.below hb7)
      have HS7 := Lib.hid hs7
      clear ho7 hs7
      refine ⟨_, rfl, Keeps.of_below hb7, ?_⟩
      simp only [Act.put, List.setIfInBounds_toArray, List.set_cons_zero, List.set_cons_succ]
      refine anyTakeE (i := 5) (oi := { dst := some 10, op := Op.assign (Operand.tmp 48), type := 9, pos := "law.go:221", after := #[{ on := 2, ground := Ground.data }, { on := 4, ground := Ground.chain }, { on := 0, ground := Ground.phase }, { on := 1, ground := Ground.phase }, { on := 2, ground := Ground.phase }, { on := 3, ground := Ground.textOnly Departure.lateStores }, { on := 4, ground := Ground.textOnly Departure.lateStoresUnsure }], guard := none }) rfl (by kernel_rfl) (by kernel_rfl) (by kernel_rfl) (fun _ _ _ _ h => h) (by rfl) ?_
      apply Exists.intro
      refine ⟨fun w' hk => ?_, ?_⟩
      · go_simp <;> with_reducible rfl
      simp only [Act.put, List.setIfInBounds_toArray, List.set_cons_zero, List.set_cons_succ]
      refine anyTakeE (i := 6) (oi := { dst := some 11, op := Op.assign (Operand.tmp 50), type := 32, pos := "law.go:221", after := #[{ on := 4, ground := Ground.data }, { on := 5, ground := Ground.chain }, { on := 0, ground := Ground.phase }, { on := 1, ground := Ground.phase }, { on := 2, ground := Ground.phase }, { on := 3, ground := Ground.phase }, { on := 4, ground := Ground.phase }, { on := 5, ground := Ground.phase }], guard := none }) rfl (by kernel_rfl) (by kernel_rfl) (by kernel_rfl) (fun _ _ _ _ h => h) (by rfl) ?_
      apply Exists.intro
      refine ⟨fun w' hk => ?_, ?_⟩
      · go_simp <;> with_reducible rfl
      simp only [Act.put, List.setIfInBounds_toArray, List.set_cons_zero, List.set_cons_succ]
      refine anyDone (by kernel_rfl) ?_ _
      have HH6 := Lib.hid (show hi ≤ w6.heap.size from HL6.out.d.hle)
      have HLO : Hid (hi ≤ w7.heap.size) := Lib.hid HL7.out.d.hle
      have HSS : Hid (Src w7 (fun g => hi ≤ g ∧ g < w7.heap.size) A7 (cks N s.2).length (ics (cks N s.2))) := Lib.hid (HS7.out.weak (fun g hg => ⟨by have := HH6.out; omega, hg.2⟩))
      clear HS7 HH6 HL6 HS6 HLd
      go_wp2_with fail
      refine (clone_dk HL7.out.d).mono ?_
      rintro e8 w8 ⟨q, rfl, hd8, hb8⟩
      have HC8 : Hid (Lp w w8 w7.heap.size w8.heap.size q N s) := Lib.hid ⟨hd8, HL7.out.b.trans (hb8.mono HL7.out.b.size), HL7.out.b.size⟩
      have HD8 := Lib.hid (HL7.out.below hb8)
      have HS8 := Lib.hid (HSS.out.below' hb8 (fun b hb => hb.2))
      clear hd8 hb8 HL7 HSS
      generalize w7.heap.size = lo2 at *
      generalize w8.heap.size = hi2 at *
      go_wp2_with fail
      go_loopw [13] (fun v wr => ∃ i : Nat, i ≤ m.length ∧ v = .int .i64 i ∧ Lp w wr lo hi p N s ∧ Lp w wr lo2 hi2 q N (runA N (m.take i) s) ∧ Src wr (fun g => hi ≤ g ∧ g < lo2) A7 (cks N s.2).length (ics (cks N s.2))) (fun v _ => m.length - (valOf v).toNat)
      case atStart => exact ⟨0, by omega, rfl, HD8.out, HC8.out, HS8.out⟩
      case round =>
        obtain ⟨i, hi1, rfl, hL, hC, hS⟩ := hrel
        have HL := Lib.hid hL
        have HCC := Lib.hid hC
        have HSS := Lib.hid hS
        clear hL hC hS HD8 HC8 HS8
        by_cases hlt : i < m.length
        · obtain ⟨b, o, rfl, hb, hc⟩ := (H2.out.below HL.out.b).lies (by omega)
          have hv : m[i]? = some m[i] := List.getElem?_eq_getElem hlt
          have HC := Lib.hid (hc i _ hv)
          have HR := Lib.hid (runA_succ (n := N) s hv)
          have HO := Lib.hid (H2.out.ok _ (List.getElem_mem hlt))
          have HKN := Lib.hid (HK2.out _ (List.getElem_mem hlt))
          have h1' : (i : Int) < (m.length : Int) := by omega
          have h2' : (i : Int) ≤ 80 := by omega
          generalize m[i] = v at *
          clear hc hv hb
          go_wp2_with (first | ((with_reducible show wpList _ _ _ (⟨some 63, .load 46 _, _, _, _, _⟩ :: _) _ _); go_must (refine wpList_load46 rfl _ rfl b (o + i * 5) rfl v HC.out ?_)) | (go_at_call 30; go_must (refine (HCC.out.do_ v HO.out HKN.out).mono ?_; rintro e9 w9 ⟨rfl, hL9, hk9⟩)))
          refine ⟨⟨i + 1, by omega, by go_num, ⟨HL.out.d.keeps hk9 (fun b h1 h2 h3 => by have := HLO.out; omega), hL9.b, HL.out.lo⟩, ?_, HSS.out.keeps hk9 (fun b hb => ⟨by have := HCC.out.d.hle; have := HCC.out.d.lo_hi; omega, by omega⟩)⟩, by simp [valOf]; omega⟩
          rw [HR.out]
          exact hL9
        · obtain rfl : i = m.length := by omega
          rename World => wb
          have HCd : Hid (Lp w wb lo2 hi2 q N (runA N m s)) := Lib.hid (by have := HCC.out; rw [runA_all] at this; exact this)
          clear HCC
          obtain ⟨sc, hsc⟩ : ∃ sc, sc = runA N m s := ⟨_, rfl⟩
          have HSC := Lib.hid hsc
          rw [← hsc] at HCd
          clear hsc
          have HCK := Lib.hid (cks_len N s.2)
          go_wp2_with fail
          refine (image_any HL.out.d).mono ?_
          rintro e10 w10 ⟨v10, rfl, ho10, hb10⟩
          obtain ⟨A10, c10, rfl, hs10⟩ := own_src ho10
          have hcv := conv_src (c := c10) hs10
          have HL10 := Lib.hid (HL.out.below hb10)
          have HC10 := Lib.hid (HCd.out.below hb10)
          have HS10 := Lib.hid (HSS.out.below' hb10 (fun b hb => by have := HCd.out.d.hle; have := HCd.out.d.lo_hi; omega))
          clear ho10 hs10 hb10 HL HCd HSS
          go_wp2_with fail
          refine (cached_any HL10.out.d).mono ?_
          rintro e11 w11 ⟨v11, rfl, ho11, hb11⟩
          obtain ⟨A11, c11, rfl, hs11⟩ := own_src ho11
          have HL11 := Lib.hid (HL10.out.below hb11)
          have HC11 := Lib.hid (HC10.out.below hb11)
          have HE11 := Lib.hid (ints_eq w11 A11 A7 c11 c7 (cks N s.2) _ _ hs11 (HS10.out.below' hb11 (fun b hb => by have := HC10.out.d.hle; have := HC10.out.d.lo_hi; omega)) (by have := HCK.out; omega) (fun b hb => hb.2) (fun b hb => by have := HC11.out.d.hle; have := HC11.out.d.lo_hi; omega))
          clear ho11 hs11 hb11 HL10 HC10 HS10 hcv
          go_wp2_with fail
          refine HE11.out.mono ?_
          rintro e12 w12 ⟨rfl, hb12⟩
          have HL12 := Lib.hid (HL11.out.below hb12)
          have HC12 := Lib.hid (HC11.out.below hb12)
          clear hb12 HL11 HC11 HE11
          go_wp2_with fail
          go_loopw [14] (fun v wr => ∃ i : Nat, i ≤ m.length ∧ v = .int .i64 i ∧ Lp w wr lo hi p N (runA N (m.take i) s) ∧ Lp w wr lo2 hi2 q N sc) (fun v _ => m.length - (valOf v).toNat)
          case atStart => exact ⟨0, by omega, rfl, HL12.out, HC12.out⟩
          case round =>
            obtain ⟨i, hi1, rfl, hL, hC⟩ := hrel
            have HL := Lib.hid hL
            have HCC := Lib.hid hC
            clear hL hC HL12 HC12
            by_cases hlt : i < m.length
            · obtain ⟨b, o, rfl, hb, hc⟩ := (H2.out.below HL.out.b).lies (by omega)
              have hv : m[i]? = some m[i] := List.getElem?_eq_getElem hlt
              have HC := Lib.hid (hc i _ hv)
              have HR := Lib.hid (runA_succ (n := N) s hv)
              have HO := Lib.hid (H2.out.ok _ (List.getElem_mem hlt))
              have HKN := Lib.hid (HK2.out _ (List.getElem_mem hlt))
              have h1' : (i : Int) < (m.length : Int) := by omega
              have h2' : (i : Int) ≤ 80 := by omega
              generalize m[i] = v at *
              clear hc hv hb
              go_wp2_with (first | ((with_reducible show wpList _ _ _ (⟨some 87, .load 46 _, _, _, _, _⟩ :: _) _ _); go_must (refine wpList_load46 rfl _ rfl b (o + i * 5) rfl v HC.out ?_)) | (go_at_call 30; go_must (refine (HL.out.do_ v HO.out HKN.out).mono ?_; rintro e13 w13 ⟨rfl, hL13, hk13⟩)))
              refine ⟨⟨i + 1, by omega, by go_num, ?_, ⟨HCC.out.d.keeps hk13 (fun b h1 h2 h3 => by have := HLO.out; omega), hL13.b, HCC.out.lo⟩⟩, by simp [valOf]; omega⟩
              rw [HR.out]
              exact hL13
            · obtain rfl : i = m.length := by omega
              rename World => wc
              have HLd : Hid (Lp w wc lo hi p N sc) := Lib.hid (by have := HL.out; rw [runA_all, ← HSC.out] at this; exact this)
              clear HL HSC H2 HK2
              have HCK2 := Lib.hid (cks_len N sc.2)
              go_wp2_with fail
              refine anyStart (fun _ => False) (by kernel_rfl) ?_
              refine anyTakeE (i := 0) (oi := { dst := some 89, op := Op.move (Operand.tmp 7), type := 22, pos := "law.go:232", after := #[], guard := none }) rfl (by kernel_rfl) (by kernel_rfl) (by kernel_rfl) (fun _ _ _ _ h => h) (by rfl) ?_
              apply Exists.intro
              refine ⟨fun w' hk => ?_, ?_⟩
              · go_simp <;> with_reducible rfl
              simp only [Act.put, List.setIfInBounds_toArray, List.set_cons_zero, List.set_cons_succ]
              refine anyTakeE (i := 3) (oi := { dst := some 92, op := Op.move (Operand.tmp 12), type := 22, pos := "law.go:232", after := #[], guard := none }) rfl (by kernel_rfl) (by kernel_rfl) (by kernel_rfl) (fun _ _ _ _ h => h) (by rfl) ?_
              apply Exists.intro
              refine ⟨fun w' hk => ?_, ?_⟩
              · go_simp <;> with_reducible rfl
              simp only [Act.put, List.setIfInBounds_toArray, List.set_cons_zero, List.set_cons_succ]
              refine anyCall (i := 1) (oi := { dst := some 90, op := Op.call { callee := Callee.value (Operand.func 29), args := #[Operand.tmp 89], argTypes := #[22] }, type := 27, pos := "law.go:232", after := #[{ on := 0, ground := Ground.data }], guard := none }) rfl (by kernel_rfl) (by rfl) ?_ (((image_any (HLd.out.d.below (w' := wc.drew) (below_drewN' (Below.refl _ wc) 1)))).mono ?_)
              · go_simp
              rintro e14 w14 ⟨v14, rfl, ho14, hb14⟩
              obtain ⟨A14, c14, rfl, hs14⟩ := own_src ho14
              have hb14w : Below wc.heap.size wc w14 := ⟨hb14.os, hb14.tape, hb14.output, hb14.size, hb14.block⟩
              have HL14 := Lib.hid (HLd.out.below hb14w)
              have HC14 := Lib.hid (HCC.out.below hb14w)
              have HS14 := Lib.hid hs14
              clear ho14 hs14 hb14w HLd HCC
              refine ⟨_, rfl, Keeps.of_below hb14, ?_⟩
              simp only [Act.put, List.setIfInBounds_toArray, List.set_cons_zero, List.set_cons_succ]
              refine anyTake (i := 2) (oi := { dst := some 91, op := Op.convert 27 9 (Operand.tmp 90), type := 9, pos := "law.go:232", after := #[{ on := 1, ground := Ground.data }], guard := none }) rfl (by kernel_rfl) (by kernel_rfl) (by kernel_rfl) (fun _ _ _ h => h) (by rfl) (fun w' hk => exec_convert rfl (conv_src (HS14.out.keeps hk (fun b hb => ⟨hb.2, id⟩)))) ?_
              simp only [Act.put, List.setIfInBounds_toArray, List.set_cons_zero, List.set_cons_succ]
              refine anyCall (i := 4) (oi := { dst := some 93, op := Op.call { callee := Callee.value (Operand.func 29), args := #[Operand.tmp 92], argTypes := #[22] }, type := 27, pos := "law.go:232", after := #[{ on := 3, ground := Ground.data }, { on := 1, ground := Ground.chain }], guard := none }) rfl (by kernel_rfl) (by rfl) ?_ (((image_any HC14.out.d)).mono ?_)
              · go_simp
              rintro e15 w15 ⟨v15, rfl, ho15, hb15⟩
              obtain ⟨A15, c15, rfl, hs15⟩ := own_src ho15
              have HL15 := Lib.hid (HL14.out.below hb15)
              have HC15 := Lib.hid (HC14.out.below hb15)
              have HS15 := Lib.hid hs15
              clear ho15 hs15 HL14 HC14
              refine ⟨_, rfl, Keeps.of_below hb15, ?_⟩
              simp only [Act.put, List.setIfInBounds_toArray, List.set_cons_zero, List.set_cons_succ]
              refine anyTake (i := 5) (oi := { dst := some 94, op := Op.convert 27 9 (Operand.tmp 93), type := 9, pos := "law.go:232", after := #[{ on := 4, ground := Ground.data }], guard := none }) rfl (by kernel_rfl) (by kernel_rfl) (by kernel_rfl) (fun _ _ _ h => h) (by rfl) (fun w' hk => exec_convert rfl (conv_src (HS15.out.keeps hk (fun b hb => ⟨hb.2, id⟩)))) ?_
              simp only [Act.put, List.setIfInBounds_toArray, List.set_cons_zero, List.set_cons_succ]
              refine anyTakeE (i := 6) (oi := { dst := some 95, op := Op.binOp BinOp.eql 9 (Operand.tmp 91) (Operand.tmp 94) 9, type := 4, pos := "law.go:232", after := #[{ on := 2, ground := Ground.data }, { on := 5, ground := Ground.data }], guard := none }) rfl (by kernel_rfl) (by kernel_rfl) (by kernel_rfl) (fun _ _ _ _ h => h) (by rfl) ?_
              apply Exists.intro
              refine ⟨fun w' hk => ?_, ?_⟩
              · go_simp <;> with_reducible rfl
              simp only [Act.put, List.setIfInBounds_toArray, List.set_cons_zero, List.set_cons_succ]
              refine anyTakeE (i := 7) (oi := { dst := some 96, op := Op.move (Operand.tmp 95), type := 4, pos := "law.go:232", after := #[{ on := 6, ground := Ground.data }, { on := 4, ground := Ground.chain }], guard := none }) rfl (by kernel_rfl) (by kernel_rfl) (by kernel_rfl) (fun _ _ _ _ h => h) (by rfl) ?_
              apply Exists.intro
              refine ⟨fun w' hk => ?_, ?_⟩
              · go_simp <;> with_reducible rfl
              simp only [Act.put, List.setIfInBounds_toArray, List.set_cons_zero, List.set_cons_succ]
              refine anyTakeE (i := 8) (oi := { dst := some 97, op := Op.move (Operand.tmp 7), type := 22, pos := "law.go:232", after := #[{ on := 7, ground := Ground.guard }], guard := some (7, true) }) rfl (by kernel_rfl) (by kernel_rfl) (by kernel_rfl) (fun _ _ _ _ h => h) (by rfl) ?_
              apply Exists.intro
              refine ⟨fun w' hk => ?_, ?_⟩
              · go_simp <;> with_reducible rfl
              simp only [Act.put, List.setIfInBounds_toArray, List.set_cons_zero, List.set_cons_succ]
              refine anyTakeE (i := 10) (oi := { dst := some 99, op := Op.move (Operand.tmp 12), type := 22, pos := "law.go:232", after := #[{ on := 7, ground := Ground.guard }], guard := some (7, true) }) rfl (by kernel_rfl) (by kernel_rfl) (by kernel_rfl) (fun _ _ _ _ h => h) (by rfl) ?_
              apply Exists.intro
              refine ⟨fun w' hk => ?_, ?_⟩
              · go_simp <;> with_reducible rfl
              simp only [Act.put, List.setIfInBounds_toArray, List.set_cons_zero, List.set_cons_succ]
              refine anyCall (i := 9) (oi := { dst := some 98, op := Op.call { callee := Callee.value (Operand.func 13), args := #[Operand.tmp 97], argTypes := #[22] }, type := 32, pos := "law.go:232", after := #[{ on := 8, ground := Ground.data }, { on := 7, ground := Ground.chain }, { on := 7, ground := Ground.guard }], guard := some (7, true) }) rfl (by kernel_rfl) (by rfl) ?_ (((cached_any HL15.out.d)).mono ?_)
              · go_simp
              rintro e16 w16 ⟨v16, rfl, ho16, hb16⟩
              obtain ⟨A16, c16, rfl, hs16⟩ := own_src ho16
              have HL16 := Lib.hid (HL15.out.below hb16)
              have HC16 := Lib.hid (HC15.out.below hb16)
              have HS16 := Lib.hid hs16
              clear ho16 hs16 HL15 HC15
              refine ⟨_, rfl, Keeps.of_below hb16, ?_⟩
              simp only [Act.put, List.setIfInBounds_toArray, List.set_cons_zero, List.set_cons_succ]
              refine anyCall (i := 11) (oi := { dst := some 100, op := Op.call { callee := Callee.value (Operand.func 13), args := #[Operand.tmp 99], argTypes := #[22] }, type := 32, pos := "law.go:232", after := #[{ on := 10, ground := Ground.data }, { on := 9, ground := Ground.chain }, { on := 7, ground := Ground.guard }], guard := some (7, true) }) rfl (by kernel_rfl) (by rfl) ?_ (((cached_any HC16.out.d)).mono ?_)
              · go_simp
              rintro e17 w17 ⟨v17, rfl, ho17, hb17⟩
              obtain ⟨A17, c17, rfl, hs17⟩ := own_src ho17
              have HL17 := Lib.hid (HL16.out.below hb17)
              have HC17 := Lib.hid (HC16.out.below hb17)
              have HE17 := Lib.hid (ints_eq w17 A16 A17 c16 c17 (cks N sc.2) _ _ (HS16.out.below' (S := _) hb17 (fun b hb => hb.2)) hs17 (by have := HCK2.out; omega) (fun b hb => Nat.lt_of_lt_of_le hb.2 hb17.size) (fun b hb => hb.2))
              clear ho17 hs17 HL16 HC16 HS16
              refine ⟨_, rfl, Keeps.of_below hb17, ?_⟩
              simp only [Act.put, List.setIfInBounds_toArray, List.set_cons_zero, List.set_cons_succ]
              refine anyCall (i := 12) (oi := { dst := some 101, op := Op.call { callee := Callee.value (Operand.func 27), args := #[Operand.tmp 98, Operand.tmp 100], argTypes := #[32, 32] }, type := 4, pos := "law.go:232", after := #[{ on := 9, ground := Ground.data }, { on := 11, ground := Ground.data }, { on := 11, ground := Ground.chain }, { on := 7, ground := Ground.guard }], guard := some (7, true) }) rfl (by kernel_rfl) (by rfl) ?_ ((HE17.out).mono ?_)
              · go_simp
              rintro e18 w18 ⟨rfl, hb18⟩
              have HL18 := Lib.hid (HL17.out.below hb18)
              have HC18 := Lib.hid (HC17.out.below hb18)
              clear HL17 HC17 HE17
              refine ⟨_, rfl, Keeps.of_below hb18, ?_⟩
              simp only [Act.put, List.setIfInBounds_toArray, List.set_cons_zero, List.set_cons_succ]
              refine anyTakeE (i := 13) (oi := { dst := some 102, op := Op.pick (Operand.tmp 96) (Operand.tmp 101) (Operand.const (Value.bool false)), type := 4, pos := "law.go:232", after := #[{ on := 7, ground := Ground.data }, { on := 12, ground := Ground.data }], guard := none }) rfl (by kernel_rfl) (by kernel_rfl) (by kernel_rfl) (fun _ _ _ _ h => h) (by rfl) ?_
              apply Exists.intro
              refine ⟨fun w' hk => ?_, ?_⟩
              · go_simp <;> with_reducible rfl
              simp only [Act.put, List.setIfInBounds_toArray, List.set_cons_zero, List.set_cons_succ]
              refine anyTakeE (i := 14) (oi := { dst := some 103, op := Op.move (Operand.tmp 102), type := 4, pos := "law.go:232", after := #[{ on := 13, ground := Ground.data }, { on := 12, ground := Ground.chain }], guard := none }) rfl (by kernel_rfl) (by kernel_rfl) (by kernel_rfl) (fun _ _ _ _ h => h) (by rfl) ?_
              apply Exists.intro
              refine ⟨fun w' hk => ?_, ?_⟩
              · go_simp <;> with_reducible rfl
              simp only [Act.put, List.setIfInBounds_toArray, List.set_cons_zero, List.set_cons_succ]
              refine anyTakeE (i := 15) (oi := { dst := some 104, op := Op.move (Operand.tmp 7), type := 22, pos := "law.go:232", after := #[{ on := 14, ground := Ground.guard }], guard := some (14, true) }) rfl (by kernel_rfl) (by kernel_rfl) (by kernel_rfl) (fun _ _ _ _ h => h) (by rfl) ?_
              apply Exists.intro
              refine ⟨fun w' hk => ?_, ?_⟩
              · go_simp <;> with_reducible rfl
              simp only [Act.put, List.setIfInBounds_toArray, List.set_cons_zero, List.set_cons_succ]
              refine anyTakeE (i := 17) (oi := { dst := some 106, op := Op.move (Operand.tmp 12), type := 22, pos := "law.go:232", after := #[{ on := 14, ground := Ground.guard }], guard := some (14, true) }) rfl (by kernel_rfl) (by kernel_rfl) (by kernel_rfl) (fun _ _ _ _ h => h) (by rfl) ?_
              apply Exists.intro
              refine ⟨fun w' hk => ?_, ?_⟩
              · go_simp <;> with_reducible rfl
              simp only [Act.put, List.setIfInBounds_toArray, List.set_cons_zero, List.set_cons_succ]
              refine anyCall (i := 16) (oi := { dst := some 105, op := Op.call { callee := Callee.value (Operand.func 15), args := #[Operand.tmp 104], argTypes := #[22] }, type := 3, pos := "law.go:232", after := #[{ on := 15, ground := Ground.data }, { on := 14, ground := Ground.chain }, { on := 14, ground := Ground.guard }], guard := some (14, true) }) rfl (by kernel_rfl) (by rfl) ?_ (((size_any HL18.out.d)).mono ?_)
              · go_simp
              rintro e19 w19 ⟨rfl, hw19⟩
              subst hw19
              refine ⟨_, rfl, Keeps.refl _ _, ?_⟩
              simp only [Act.put, List.setIfInBounds_toArray, List.set_cons_zero, List.set_cons_succ]
              refine anyCall (i := 18) (oi := { dst := some 107, op := Op.call { callee := Callee.value (Operand.func 15), args := #[Operand.tmp 106], argTypes := #[22] }, type := 3, pos := "law.go:232", after := #[{ on := 17, ground := Ground.data }, { on := 16, ground := Ground.chain }, { on := 14, ground := Ground.guard }], guard := some (14, true) }) rfl (by kernel_rfl) (by rfl) ?_ (((size_any HC18.out.d)).mono ?_)
              · go_simp
              rintro e20 w20 ⟨rfl, hw20⟩
              subst hw20
              refine ⟨_, rfl, Keeps.refl _ _, ?_⟩
              simp only [Act.put, List.setIfInBounds_toArray, List.set_cons_zero, List.set_cons_succ]
              refine anyTakeE (i := 19) (oi := { dst := some 108, op := Op.binOp BinOp.eql 3 (Operand.tmp 105) (Operand.tmp 107) 3, type := 4, pos := "law.go:232", after := #[{ on := 16, ground := Ground.data }, { on := 18, ground := Ground.data }, { on := 14, ground := Ground.guard }], guard := some (14, true) }) rfl (by kernel_rfl) (by kernel_rfl) (by kernel_rfl) (fun _ _ _ _ h => h) (by rfl) ?_
              apply Exists.intro
              refine ⟨fun w' hk => ?_, ?_⟩
              · go_simp <;> with_reducible rfl
              simp only [Act.put, List.setIfInBounds_toArray, List.set_cons_zero, List.set_cons_succ]
              refine anyTakeE (i := 20) (oi := { dst := some 109, op := Op.pick (Operand.tmp 103) (Operand.tmp 108) (Operand.const (Value.bool false)), type := 4, pos := "law.go:232", after := #[{ on := 14, ground := Ground.data }, { on := 19, ground := Ground.data }], guard := none }) rfl (by kernel_rfl) (by kernel_rfl) (by kernel_rfl) (fun _ _ _ _ h => h) (by rfl) ?_
              apply Exists.intro
              refine ⟨fun w' hk => ?_, ?_⟩
              · go_simp <;> with_reducible rfl
              simp only [Act.put, List.setIfInBounds_toArray, List.set_cons_zero, List.set_cons_succ]
              refine anyTakeE (i := 21) (oi := { dst := some 6, op := Op.assign (Operand.tmp 109), type := 4, pos := "law.go:232", after := #[{ on := 20, ground := Ground.data }, { on := 18, ground := Ground.chain }, { on := 0, ground := Ground.phase }, { on := 1, ground := Ground.phase }, { on := 2, ground := Ground.phase }, { on := 3, ground := Ground.phase }, { on := 4, ground := Ground.phase }, { on := 5, ground := Ground.phase }, { on := 6, ground := Ground.phase }, { on := 7, ground := Ground.phase }, { on := 8, ground := Ground.phase }, { on := 9, ground := Ground.phase }, { on := 10, ground := Ground.phase }, { on := 11, ground := Ground.phase }, { on := 12, ground := Ground.phase }, { on := 13, ground := Ground.phase }, { on := 14, ground := Ground.phase }, { on := 15, ground := Ground.phase }, { on := 16, ground := Ground.phase }, { on := 17, ground := Ground.phase }, { on := 18, ground := Ground.phase }, { on := 19, ground := Ground.phase }, { on := 20, ground := Ground.phase }], guard := none }) rfl (by kernel_rfl) (by kernel_rfl) (by kernel_rfl) (fun _ _ _ _ h => h) (by rfl) ?_
              apply Exists.intro
              refine ⟨fun w' hk => ?_, ?_⟩
              · go_simp <;> with_reducible rfl
              simp only [Act.put, List.setIfInBounds_toArray, List.set_cons_zero, List.set_cons_succ]
              refine anyDone (by kernel_rfl) ?_ _
              go_wp2
              go_ret
              exact ⟨rfl, HL18.out.b⟩

set_option maxRecDepth 100000 in
theorem lifted (os : Os) (started : os.Started) (H : Type) (enc : TypeId × Value → H) :
    ReturnsInHanded {} Try.checked os 7 .any (Rows.diskClonesSpec.pre6 enc Try.prog Try.f7 Rows.diskClonesRow.domain false) (Rows.diskClonesSpec.post enc Try.prog Try.f7 false true false false) := by
  refine returnsInHanded_of_change (C := Try.checked) own started (by kernel_rfl) Try.func7
    (ChangeSpec.witness6 (enc := enc) (C := Try.checked) false ⟨#[], #[.int .i64 0, .slice none 0 0, .slice none 0 0], []⟩ 8 (by kernel_rfl) (by kernel_rfl) (by kernel_rfl) (by kernel_rfl)) ?_
  intro W base args ds gs before hval0 hW hcnd _
  have hval : ∀ (j : Nat) t v, Try.f7.params[j]? = some t → args[j]? = some v → Value.okWide Try.prog W .any base t v := hval0
  have hW' := hW
  obtain ⟨p, q, hA0, hV, rfl, hfz, hnd⟩ := hW
  have hA : DataW.TrodAll enc Try.prog W 0 (fun _ => true) true Try.f7.params.toList args.toList ds p := hA0
  rw [Try.params7] at hA hval
  obtain ⟨v0, vs0, d0, ds0, p0, q0, hargs, rfl, rfl, h0, r0⟩ := trodAll_cons hA
  obtain ⟨v1, vs1, d1, ds1, p1, q1, rfl, rfl, rfl, h1, r1⟩ := trodAll_cons r0
  obtain ⟨v2, vs2, d2, ds2, p2, q2, rfl, rfl, rfl, h2, r2⟩ := trodAll_cons r1
  obtain ⟨rfl, rfl, rfl⟩ := trodAll_nil r2
  obtain rfl : args = #[v0, v1, v2] := by cases args; simp_all
  obtain ⟨rfl, rfl⟩ := trodVars_none hV
  obtain ⟨a0, rfl, rfl, rfl, w0⟩ := open_int Try.underlying3 (hval 0 3 v0 rfl rfl) h0
  have k1 := h1
  have lt1 : ∀ x ∈ p1, x.block < W.heap.size := by obtain ⟨m, hm⟩ := k1; exact DataW.trod_lt m _ _ _ hm
  obtain ⟨fuel1, hf1⟩ := h1
  obtain ⟨A1, n1, c1, l1, hcs1, _, _, hacts1⟩ := open_acts hf1
  obtain ⟨x1, y1, z1, rfl⟩ := okWide_slice Try.underlying38 (hval 1 38 v1 rfl rfl)
  simp [Value.cells] at hcs1
  obtain ⟨rfl, rfl, rfl⟩ := hcs1
  have k2 := h2
  have lt2 : ∀ x ∈ p2, x.block < W.heap.size := by obtain ⟨m, hm⟩ := k2; exact DataW.trod_lt m _ _ _ hm
  obtain ⟨fuel2, hf2⟩ := h2
  obtain ⟨A2, n2, c2, l2, hcs2, _, _, hacts2⟩ := open_acts hf2
  obtain ⟨x2, y2, z2, rfl⟩ := okWide_slice Try.underlying38 (hval 2 38 v2 rfl rfl)
  simp [Value.cells] at hcs2
  obtain ⟨rfl, rfl, rfl⟩ := hcs2
  clear hA0 hval0
  refine (walk W a0 x1 x2 y1 y2 z1 z2 l1 l2 hacts1 hacts2).mono fun e W' ⟨he, bel⟩ => ?_
  subst he
  exact ⟨_, rfl, _, _, _, [], _, [], hW', trodAll_mk1 (shut_bool Try.underlying4 _), (trodAll_cons_mk (shut_int Try.underlying3 w0) (trodAll_cons_mk (Below.trod laidOut (by kernel_rfl) (of_decide_eq_true (by kernel_rfl)) k1 bel lt1) (trodAll_cons_mk (Below.trod laidOut (by kernel_rfl) (of_decide_eq_true (by kernel_rfl)) k2 bel lt2) trodAll_mk0))), rfl, bel.frame _, fun h => by cases h⟩

theorem over : Rows.diskClonesRow.holds Try.pinned (OpenSpec.ofChange Rows.diskClonesSpec) :=
  OpenClaim.holds_of_wide 7 Try.f7 rfl rfl rfl rfl rfl rfl rfl ⟨rfl, rfl, rfl, rfl, rfl⟩ rfl rfl rfl rfl rfl (by kernel_rfl) Try.func7 (by kernel_rfl)
    (of_decide_eq_true (by kernel_rfl)) (by unfold Func.isWrapper; first | (rw [if_pos (by decide +kernel)]; kernel_rfl) | (rw [if_neg (by decide +kernel)]; exact ⟨rfl, rfl⟩))
    (fun os started H enc _ => lifted os started H enc)

/-- The statement. -/
theorem proved : Rows.DiskClonesSaid := over
#print axioms proved
end Go.Proofs.Ytfhjcfoecmbhkaa.diskClones
