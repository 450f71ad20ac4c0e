/- Several texts in one. No statement is proved here. -/
import Derived.Test.YtgdimnbdnepbgaaK3
import Derived.Test.YtgdimnbdnepbgaaNU
import Derived.OpenShut
/- The field's functions in numbers. No statement is proved here. -/
namespace Go.Proofs.Ytgdimnbdnepbgaa
open Go.RowKit
set_option linter.unusedVariables false
set_option maxRecDepth 40000

theorem prP : Pr PP := pr_57896044618658097711785492504343953926634992332820282019728792003956564819949
theorem PP_lt : PP < TT := by unfold PP TT; omega
theorem modP (x : Nat) : x % PP < PP := Nat.mod_lt _ (by unfold PP; omega)
theorem modT (x : Nat) : x % PP < TT := Nat.lt_trans (modP x) PP_lt
theorem subT (a : Nat) : PP - a % PP < TT := Nat.lt_of_le_of_lt (Nat.sub_le _ _) PP_lt

theorem Canon_any (a : Nat) (ha : a < TT) (w : World) : Calls Try.prog 15 #[vN a] w (Gives (.bool (decide (a = a % PP))) w) :=
  Canon_core a (a % PP) _ w (Lib.hid fun w => Rest_any a ha w) (Lib.hid fun w => eqN a _ ha (modT a) w)
theorem Neg_any (a : Nat) (ha : a < TT) (w : World) : Calls Try.prog 23 #[vN a] w (Gives (vN ((PP - a % PP) % PP)) w) := by
  have h : ∀ w, Calls Try.prog 21 #[vN 0, vN a] w (Gives (vN ((0 + (PP - a % PP)) % PP)) w) := fun w => Sub_any 0 a (by unfold TT; omega) ha w
  rw [Nat.zero_add] at h
  exact Neg_core a _ w (Lib.hid h)
theorem index_first (r : Nat) (w : World) : (Instr.index 23 (vN r) (.int .i64 0)).run Try.prog w = .ok (.int .u8 ((r % 256 : Nat) : Int)) w := by
  have h : (Instr.index 23 (vN r) (.int .i64 0)).run Try.prog w = .ok (.int .u8 ((UInt8.ofNat (r % 18446744073709551616)).toNat : Int)) w := by kernel_rfl
  rw [h, of_byte, Nat.mod_mod_of_dvd _ ⟨72057594037927936, by decide⟩]
theorem and_one : ∀ x : Nat, x < 256 → (bits .and .u8 (x : Int) 1 == 1) = decide (x % 2 = 1) := by decide +kernel
theorem Odd_any (a : Nat) (ha : a < TT) (w : World) : Calls Try.prog 31 #[vN a] w (Gives (.bool (decide (a % PP % 2 = 1))) w) := by
  refine Odd_core a (a % PP) _ w (Lib.hid fun w => Rest_any a ha w) (Lib.hid fun w => index_first _ w) ?_
  have h := and_one (a % PP % 256) (Nat.mod_lt _ (by omega))
  rw [show a % PP % 256 % 2 = a % PP % 2 from Nat.mod_mod_of_dvd _ ⟨128, by decide⟩] at h
  exact Lib.hid h
theorem Same_any (a b : Nat) (ha : a < TT) (hb : b < TT) (w : World) : Calls Try.prog 33 #[vN a, vN b] w (Gives (.bool (decide (a % PP = b % PP))) w) :=
  Same_core a b (a % PP) (b % PP) _ w (Lib.hid fun w => Rest_any a ha w) (Lib.hid fun w => Rest_any b hb w) (Lib.hid fun w => eqN _ _ (modT a) (modT b) w)
theorem Inv_any (q : Nat) (hq : PP = q + 2) (a : Nat) (ha : a < TT) (w : World) : Calls Try.prog 29 #[vN a] w (Gives (vN (a ^ q % PP)) w) := by
  have h : ∀ w, Calls Try.prog 61 #[.int .u8 235, .int .u8 127] w (Gives (vN q) w) := fun w => by
    have h := ones_inv w
    rw [show PP - 2 = q from by omega] at h
    exact h
  exact Inv_core a q _ w (Lib.hid h) (Lib.hid fun w => Pow_any a q ha (by have := PP_lt; omega) w)
theorem even_any (a : Nat) (ha : a < PP) (w : World) : Calls Try.prog 62 #[vN a] w (Gives (vN (evn PP a)) w) := by
  have hm : a % PP = a := Nat.mod_eq_of_lt ha
  refine even_core a ((PP - a % PP) % PP) _ (decide (a % PP % 2 = 1)) w (Lib.hid fun w => Odd_any a (Nat.lt_trans ha PP_lt) w) (Lib.hid fun w => Neg_any a (Nat.lt_trans ha PP_lt) w) ?_
  rw [hm]
  unfold evn
  by_cases h : a % 2 = 1
  · exact Lib.hid (by simp [h])
  · exact Lib.hid (by simp [h])
theorem quarter_any (k : Nat) (hk : PP = 8 * k + 5) (w : World) : Calls Try.prog 61 #[.int .u8 251, .int .u8 31] w (Gives (vN (2 * k + 1)) w) := by
  have h := ones_quarter w
  rw [show 14474011154664524427946373126085988481658748083205070504932198000989141204987 = 2 * k + 1 from by unfold PP at hk; omega] at h
  exact h
theorem eighth_any (k : Nat) (hk : PP = 8 * k + 5) (w : World) : Calls Try.prog 61 #[.int .u8 254, .int .u8 15] w (Gives (vN (k + 1)) w) := by
  have h := ones_root w
  rw [show 7237005577332262213973186563042994240829374041602535252466099000494570602494 = k + 1 from by unfold PP at hk; omega] at h
  exact h
theorem minusOne_any (k : Nat) (hk : PP = 8 * k + 5) (w : World) : Calls Try.prog 63 #[] w (Gives (vN (2 ^ (2 * k + 1) % PP)) w) :=
  rootOfMinusOne_core (2 * k + 1) _ w (Lib.hid fun w => Of_any 2 (by omega) w) (Lib.hid (quarter_any k hk)) (Lib.hid fun w => Pow_any 2 (2 * k + 1) (by unfold TT; omega) (by have := PP_lt; omega) w)
theorem Root_any (k : Nat) (hk : PP = 8 * k + 5) (a : Nat) (ha : a < TT) (w : World) : Calls Try.prog 11 #[vN a] w (Gives (.tuple #[vN (rt PP k a).1, .bool (rt PP k a).2]) w) := by
  have hO := eighth_any k hk
  have hP : ∀ w, Calls Try.prog 27 #[vN (a % PP), vN (k + 1)] w (Gives (vN ((a % PP) ^ (k + 1) % PP)) w) := fun w => Pow_any (a % PP) (k + 1) (modT a) (by have := PP_lt; omega) w
  have hN : ∀ w, Calls Try.prog 23 #[vN (a % PP)] w (Gives (vN ((PP - a % PP) % PP)) w) := fun w => by
    have h := Neg_any (a % PP) (modT a) w
    rw [Nat.mod_mod] at h
    exact h
  have hX : ((rt PP k a).1, (rt PP k a).2) = (if decide ((a % PP) ^ (k + 1) % PP * ((a % PP) ^ (k + 1) % PP) % PP = a % PP) = true then (evn PP ((a % PP) ^ (k + 1) % PP), true)
      else if decide ((a % PP) ^ (k + 1) % PP * ((a % PP) ^ (k + 1) % PP) % PP = (PP - a % PP) % PP) = true then (evn PP ((a % PP) ^ (k + 1) % PP * (2 ^ (2 * k + 1) % PP) % PP), true) else (0, false)) := by
    simp only [decide_eq_true_eq]
    rfl
  have hr : (a % PP) ^ (k + 1) % PP < PP := modP _
  have hi : 2 ^ (2 * k + 1) % PP < PP := modP _
  have h36 := minusOne_any k hk
  generalize (rt PP k a).1 = x at *
  generalize (rt PP k a).2 = ok at *
  generalize (a % PP) ^ (k + 1) % PP = r at *
  generalize 2 ^ (2 * k + 1) % PP = i at *
  exact Root_core a (a % PP) (k + 1) r (r * r % PP) ((PP - a % PP) % PP) i (r * i % PP) _ _ x _ _ ok w (Lib.hid fun w => Rest_any a ha w) (Lib.hid hO) (Lib.hid hP) (Lib.hid fun w => Mul_any r r (Nat.lt_trans hr PP_lt) (Nat.lt_trans hr PP_lt) w)
    (Lib.hid fun w => eqN _ _ (modT _) (modT _) w) (Lib.hid fun w => even_any r hr w) (Lib.hid hN) (Lib.hid fun w => eqN _ _ (modT _) (modT _) w) (Lib.hid h36)
    (Lib.hid fun w => Mul_any r i (Nat.lt_trans hr PP_lt) (Nat.lt_trans hi PP_lt) w) (Lib.hid fun w => even_any _ (modP _) w) (Lib.hid hX)
theorem htwo (k : Nat) (hk : PP = 8 * k + 5) : 2 ^ (4 * k + 2) % PP = PP - 1 := by
  rw [show 4 * k + 2 = 28948022309329048855892746252171976963317496166410141009864396001978282409974 from by unfold PP at hk; omega]
  have h := pm_eq PP 2 256 28948022309329048855892746252171976963317496166410141009864396001978282409974 (by decide)
  have e : pm PP 2 256 28948022309329048855892746252171976963317496166410141009864396001978282409974 = PP - 1 := by decide +kernel
  exact h.symm.trans e
end Go.Proofs.Ytgdimnbdnepbgaa
/- The chapter's examples. No statement is proved here. -/
namespace Go.Proofs.Ytgdimnbdnepbgaa
open Go.RowKit
set_option linter.unusedVariables false
set_option maxRecDepth 40000

set_option maxHeartbeats 4000000 in
theorem lives_core (l v : Nat) (w : World)
    (HOf0 : Hid (∀ w, Calls Try.prog 17 #[.int .u64 0] w (Gives (vN 0) w))) (HOf1 : Hid (∀ w, Calls Try.prog 17 #[.int .u64 1] w (Gives (vN 1) w))) (HOf2 : Hid (∀ w, Calls Try.prog 17 #[.int .u64 2] w (Gives (vN 2) w))) (HOf4 : Hid (∀ w, Calls Try.prog 17 #[.int .u64 4] w (Gives (vN 4) w)))
    (HSub : Hid (∀ w, Calls Try.prog 21 #[vN 0, vN 1] w (Gives (vN l) w)))
    (HR4 : Hid (∀ w, Calls Try.prog 11 #[vN 4] w (Gives (.tuple #[vN 2, .bool true]) w))) (HR2 : Hid (∀ w, Calls Try.prog 11 #[vN 2] w (Gives (.tuple #[vN 0, .bool false]) w)))
    (HAdd : Hid (∀ w, Calls Try.prog 19 #[vN l, vN 2] w (Gives (vN 1) w))) (HInv : Hid (∀ w, Calls Try.prog 29 #[vN 2] w (Gives (vN v) w))) (HMul : Hid (∀ w, Calls Try.prog 25 #[vN 2, vN v] w (Gives (vN 1) w)))
    (HNeg : Hid (∀ w, Calls Try.prog 23 #[vN 0] w (Gives (vN 0) w))) :
    Calls Try.prog 10 #[] w (Gives (.bool true) w) := by
  go_enter Try.func10, Try.ntmps10
  go_wp2_with fail
  refine (HOf0.out _).mono ?_
  rintro ex x1 ⟨rfl, hb⟩
  have HB_1 : Hid (Below w.heap.size w x1) := hb
  clear hb 
  go_wp2_with fail
  refine (HOf1.out _).mono ?_
  rintro ex x2 ⟨rfl, hb⟩
  have HB_2 := Lib.hid (HB_1.out.trans (hb.mono HB_1.out.size))
  clear hb  HB_1
  go_wp2_with fail
  refine (HSub.out _).mono ?_
  rintro ex x3 ⟨rfl, hb⟩
  have HB_3 := Lib.hid (HB_2.out.trans (hb.mono HB_2.out.size))
  clear hb  HB_2
  go_wp2_with (first | ((with_reducible show wpList _ _ _ (⟨some 1, .alloc 23, _, _, _, _⟩ :: _) _ _); go_must (refine wpList_alloc_row rfl 23 rfl (.agg (zbs 32)) zero23 ?_; intro u4 h1 z1 g1; have H4 := Lib.hid h1; have Z4 := Lib.hid z1; have G4 := Lib.hid g1; clear h1 z1 g1)) | ((with_reducible show wpList _ _ _ (⟨none, .store 23 (.tmp 1) (.tmp 8), _, _, _, _⟩ :: _) _ _); go_must (refine wpList_store_all rfl 23 (.tmp 1) (.tmp 8) rfl (x3.heap.size) rfl (bcs (enc l)).toArray rfl 23 _ H4.out (by rw [List.size_toArray, bcs_enc_len]; exact size23) (by rw [List.size_toArray, bcs_enc_len]; rfl) (bcs_one _) ?_; intro v4 hh hg hz; have HH4 := Lib.hid hh; have HG4 := Lib.hid hg; clear hh hg hz)) | fail)
  have L_4 : Hid (NAt v4 x3.heap.size l) := Lib.hid ⟨23, HH4.out⟩
  have HB_4 : Hid (Below w.heap.size w v4) := Lib.hid ((HB_3.out.grown G4.out HB_3.out.size (by simp)).grown HG4.out (by have := HB_3.out.size; have := Z4.out; omega) (fun r hr => by injection hr with hr; have := HB_3.out.size; omega))
  clear H4 Z4 G4 HH4 HG4 HB_3 
  generalize x3.heap.size = g1 at *
  refine (HOf4.out _).mono ?_
  rintro ex x5 ⟨rfl, hb⟩
  have L_5 := Lib.hid (L_4.out.keep hb)
  have HB_5 := Lib.hid (HB_4.out.trans (hb.mono HB_4.out.size))
  clear hb L_4 HB_4
  go_wp2_with fail
  refine (HR4.out _).mono ?_
  rintro ex x6 ⟨rfl, hb⟩
  have L_6 := Lib.hid (L_5.out.keep hb)
  have HB_6 := Lib.hid (HB_5.out.trans (hb.mono HB_5.out.size))
  clear hb L_5 HB_5
  go_wp2_with (first | ((with_reducible show wpList _ _ _ (⟨some 2, .alloc 23, _, _, _, _⟩ :: _) _ _); go_must (refine wpList_alloc_row rfl 23 rfl (.agg (zbs 32)) zero23 ?_; intro u7 h1 z1 g1; have H7 := Lib.hid h1; have Z7 := Lib.hid z1; have G7 := Lib.hid g1; clear h1 z1 g1)) | ((with_reducible show wpList _ _ _ (⟨none, .store 23 (.tmp 2) (.tmp 12), _, _, _, _⟩ :: _) _ _); go_must (refine wpList_store_all rfl 23 (.tmp 2) (.tmp 12) rfl (x6.heap.size) rfl (bcs (enc 2)).toArray rfl 23 _ H7.out (by rw [List.size_toArray, bcs_enc_len]; exact size23) (by rw [List.size_toArray, bcs_enc_len]; rfl) (bcs_one _) ?_; intro v7 hh hg hz; have HH7 := Lib.hid hh; have HG7 := Lib.hid hg; clear hh hg hz)) | fail)
  have L_7 := Lib.hid ((L_6.out.grown G7.out (by simp)).grown HG7.out (by have := L_6.out.lt; simp; omega))
  have R_7 : Hid (NAt v7 x6.heap.size 2) := Lib.hid ⟨23, HH7.out⟩
  have HB_7 : Hid (Below w.heap.size w v7) := Lib.hid ((HB_6.out.grown G7.out HB_6.out.size (by simp)).grown HG7.out (by have := HB_6.out.size; have := Z7.out; omega) (fun r hr => by injection hr with hr; have := HB_6.out.size; omega))
  clear H7 Z7 G7 HH7 HG7 HB_6 L_6
  generalize x6.heap.size = g2 at *
  refine (HOf2.out _).mono ?_
  rintro ex x8 ⟨rfl, hb⟩
  have L_8 := Lib.hid (L_7.out.keep hb)
  have R_8 := Lib.hid (R_7.out.keep hb)
  have HB_8 := Lib.hid (HB_7.out.trans (hb.mono HB_7.out.size))
  clear hb L_7 R_7 HB_7
  go_wp2_with fail
  refine (HR2.out _).mono ?_
  rintro ex x9 ⟨rfl, hb⟩
  have L_9 := Lib.hid (L_8.out.keep hb)
  have R_9 := Lib.hid (R_8.out.keep hb)
  have HB_9 := Lib.hid (HB_8.out.trans (hb.mono HB_8.out.size))
  clear hb L_8 R_8 HB_8
  go_wp2_with (first | ((with_reducible show wpList _ _ _ (⟨some 4, .alloc 23, _, _, _, _⟩ :: _) _ _); go_must (refine wpList_alloc_row rfl 23 rfl (.agg (zbs 32)) zero23 ?_; intro u10 h1 z1 g1; have H10 := Lib.hid h1; have Z10 := Lib.hid z1; have G10 := Lib.hid g1; clear h1 z1 g1)) | ((with_reducible show wpList _ _ _ (⟨none, .store 23 (.tmp 4) (.tmp 17), _, _, _, _⟩ :: _) _ _); go_must (refine wpList_store_all rfl 23 (.tmp 4) (.tmp 17) rfl (x9.heap.size) rfl (bcs (enc 0)).toArray rfl 23 _ H10.out (by rw [List.size_toArray, bcs_enc_len]; exact size23) (by rw [List.size_toArray, bcs_enc_len]; rfl) (bcs_one _) ?_; intro v10 hh hg hz; have HH10 := Lib.hid hh; have HG10 := Lib.hid hg; clear hh hg hz)) | fail)
  have L_10 := Lib.hid ((L_9.out.grown G10.out (by simp)).grown HG10.out (by have := L_9.out.lt; simp; omega))
  have R_10 := Lib.hid ((R_9.out.grown G10.out (by simp)).grown HG10.out (by have := R_9.out.lt; simp; omega))
  have Q_10 : Hid (NAt v10 x9.heap.size 0) := Lib.hid ⟨23, HH10.out⟩
  have HB_10 : Hid (Below w.heap.size w v10) := Lib.hid ((HB_9.out.grown G10.out HB_9.out.size (by simp)).grown HG10.out (by have := HB_9.out.size; have := Z10.out; omega) (fun r hr => by injection hr with hr; have := HB_9.out.size; omega))
  clear H10 Z10 G10 HH10 HG10 HB_9 L_9 R_9
  generalize x9.heap.size = g3 at *
  refine region_qb (by kernel_rfl) (by kernel_rfl) ?_
  refine qb_load rfl (.tmp 1) rfl (g1) l rfl L_10.out ?_
  simp only [Act.put, List.setIfInBounds_toArray, List.set_cons_zero, List.set_cons_succ]
  refine qb_call rfl 17 [.const (.int .u64 2)] #[24] rfl [.int .u64 2] rfl (CF14 _) (vN 2) HOf2.out ?_
  simp only [Act.put, List.setIfInBounds_toArray, List.set_cons_zero, List.set_cons_succ]
  refine qb_call rfl 19 [.tmp 19, .tmp 20] #[23, 23] rfl [vN l, vN 2] rfl (CF23 _) (vN 1) HAdd.out ?_
  simp only [Act.put, List.setIfInBounds_toArray, List.set_cons_zero, List.set_cons_succ]
  refine qb_call rfl 17 [.const (.int .u64 1)] #[24] rfl [.int .u64 1] rfl (CF14 _) (vN 1) HOf1.out ?_
  simp only [Act.put, List.setIfInBounds_toArray, List.set_cons_zero, List.set_cons_succ]
  refine qb_eq rfl (.tmp 21) (.tmp 22) rfl 1 1 rfl rfl true (eqN_same _) ?_
  simp only [Act.put, List.setIfInBounds_toArray, List.set_cons_zero, List.set_cons_succ]
  refine qb_move rfl (.tmp 23) rfl (.bool true) rfl ?_
  simp only [Act.put, List.setIfInBounds_toArray, List.set_cons_zero, List.set_cons_succ]
  refine qb_call rfl 17 [.const (.int .u64 2)] #[24] rfl [.int .u64 2] rfl (CF14 _) (vN 2) HOf2.out ?_
  simp only [Act.put, List.setIfInBounds_toArray, List.set_cons_zero, List.set_cons_succ]
  refine qb_call rfl 17 [.const (.int .u64 2)] #[24] rfl [.int .u64 2] rfl (CF14 _) (vN 2) HOf2.out ?_
  simp only [Act.put, List.setIfInBounds_toArray, List.set_cons_zero, List.set_cons_succ]
  refine qb_call rfl 29 [.tmp 26] #[23] rfl [vN 2] rfl (CF15 _) (vN v) HInv.out ?_
  simp only [Act.put, List.setIfInBounds_toArray, List.set_cons_zero, List.set_cons_succ]
  refine qb_call rfl 25 [.tmp 25, .tmp 27] #[23, 23] rfl [vN 2, vN v] rfl (CF28 _) (vN 1) HMul.out ?_
  simp only [Act.put, List.setIfInBounds_toArray, List.set_cons_zero, List.set_cons_succ]
  refine qb_call rfl 17 [.const (.int .u64 1)] #[24] rfl [.int .u64 1] rfl (CF14 _) (vN 1) HOf1.out ?_
  simp only [Act.put, List.setIfInBounds_toArray, List.set_cons_zero, List.set_cons_succ]
  refine qb_eq rfl (.tmp 28) (.tmp 29) rfl 1 1 rfl rfl true (eqN_same _) ?_
  simp only [Act.put, List.setIfInBounds_toArray, List.set_cons_zero, List.set_cons_succ]
  refine qb_pick rfl (.tmp 24) (.tmp 30) (.const (.bool false)) rfl true rfl (.bool true) rfl ?_
  simp only [Act.put, List.setIfInBounds_toArray, List.set_cons_zero, List.set_cons_succ]
  refine qb_move rfl (.tmp 31) rfl (.bool true) rfl ?_
  simp only [Act.put, List.setIfInBounds_toArray, List.set_cons_zero, List.set_cons_succ]
  refine qb_zero rfl rfl ?_
  simp only [Act.put, List.setIfInBounds_toArray, List.set_cons_zero, List.set_cons_succ]
  refine qb_call rfl 23 [.tmp 33] #[23] rfl [vN 0] rfl (CF13 _) (vN 0) HNeg.out ?_
  simp only [Act.put, List.setIfInBounds_toArray, List.set_cons_zero, List.set_cons_succ]
  refine qb_zero rfl rfl ?_
  simp only [Act.put, List.setIfInBounds_toArray, List.set_cons_zero, List.set_cons_succ]
  refine qb_eq rfl (.tmp 34) (.tmp 35) rfl 0 0 rfl rfl true (eqN_same _) ?_
  simp only [Act.put, List.setIfInBounds_toArray, List.set_cons_zero, List.set_cons_succ]
  refine qb_pick rfl (.tmp 32) (.tmp 36) (.const (.bool false)) rfl true rfl (.bool true) rfl ?_
  simp only [Act.put, List.setIfInBounds_toArray, List.set_cons_zero, List.set_cons_succ]
  refine qb_move rfl (.tmp 37) rfl (.bool true) rfl ?_
  simp only [Act.put, List.setIfInBounds_toArray, List.set_cons_zero, List.set_cons_succ]
  refine qb_move rfl (.tmp 3) rfl (.bool true) rfl ?_
  simp only [Act.put, List.setIfInBounds_toArray, List.set_cons_zero, List.set_cons_succ]
  refine qb_pick rfl (.tmp 38) (.tmp 39) (.const (.bool false)) rfl true rfl (.bool true) rfl ?_
  simp only [Act.put, List.setIfInBounds_toArray, List.set_cons_zero, List.set_cons_succ]
  refine qb_move rfl (.tmp 40) rfl (.bool true) rfl ?_
  simp only [Act.put, List.setIfInBounds_toArray, List.set_cons_zero, List.set_cons_succ]
  refine qb_load rfl (.tmp 2) rfl (g2) 2 rfl R_10.out ?_
  simp only [Act.put, List.setIfInBounds_toArray, List.set_cons_zero, List.set_cons_succ]
  refine qb_call rfl 17 [.const (.int .u64 2)] #[24] rfl [.int .u64 2] rfl (CF14 _) (vN 2) HOf2.out ?_
  simp only [Act.put, List.setIfInBounds_toArray, List.set_cons_zero, List.set_cons_succ]
  refine qb_eq rfl (.tmp 42) (.tmp 43) rfl 2 2 rfl rfl true (eqN_same _) ?_
  simp only [Act.put, List.setIfInBounds_toArray, List.set_cons_zero, List.set_cons_succ]
  refine qb_pick rfl (.tmp 41) (.tmp 44) (.const (.bool false)) rfl true rfl (.bool true) rfl ?_
  simp only [Act.put, List.setIfInBounds_toArray, List.set_cons_zero, List.set_cons_succ]
  refine qb_move rfl (.tmp 45) rfl (.bool true) rfl ?_
  simp only [Act.put, List.setIfInBounds_toArray, List.set_cons_zero, List.set_cons_succ]
  refine qb_move rfl (.tmp 5) rfl (.bool false) rfl ?_
  simp only [Act.put, List.setIfInBounds_toArray, List.set_cons_zero, List.set_cons_succ]
  refine qb_not rfl 4 (.tmp 47) rfl false rfl ?_
  rw [show (!false) = true from rfl]
  simp only [Act.put, List.setIfInBounds_toArray, List.set_cons_zero, List.set_cons_succ]
  refine qb_pick rfl (.tmp 46) (.tmp 48) (.const (.bool false)) rfl true rfl (.bool true) rfl ?_
  simp only [Act.put, List.setIfInBounds_toArray, List.set_cons_zero, List.set_cons_succ]
  refine qb_assign rfl (.tmp 49) rfl (.bool true) rfl ?_
  simp only [Act.put, List.setIfInBounds_toArray, List.set_cons_zero, List.set_cons_succ]
  refine wpQuiet_nil ?_
  intro W hb
  have HBW : Hid (Below w.heap.size w W) := HB_10.out.trans (hb.mono HB_10.out.size)
  clear hb HB_10 L_10 R_10 Q_10
  go_wp2
  go_ret
  exact ⟨rfl, HBW.out⟩

theorem k_ex : ∃ k, PP = 8 * k + 5 := ⟨7237005577332262213973186563042994240829374041602535252466099000494570602493, by unfold PP; omega⟩
theorem q_ex : ∃ q, PP = q + 2 := ⟨57896044618658097711785492504343953926634992332820282019728792003956564819947, by unfold PP; omega⟩
/-- What is not 0 times its inverse is 1. -/
theorem inv_mul (q : Nat) (hq : PP = q + 2) (a : Nat) (ha : a % PP ≠ 0) : a * (a ^ q % PP) % PP = 1 := by
  have h := fermat1 prP a (fun hd => ha (Nat.mod_eq_zero_of_dvd hd))
  rw [show PP - 1 = q + 1 from by omega, Nat.pow_succ, Nat.mul_comm] at h
  rw [Nat.mul_mod_mod]
  exact h
theorem lives_any (w : World) : Calls Try.prog 10 #[] w (Gives (.bool true) w) := by
  obtain ⟨k, hk⟩ := k_ex
  obtain ⟨q, hq⟩ := q_ex
  have two : 2 % PP ≠ 0 := by unfold PP; omega
  have one : ¬ PP ∣ 1 := fun h => by have := Nat.le_of_dvd (by omega) h; unfold PP at this; omega
  have hi := inv_mul q hq 2 two
  have hI := Inv_any q hq 2 (by unfold TT; omega)
  have hlt : 2 ^ q % PP < TT := modT _
  generalize 2 ^ q % PP = v at *
  have hM : ∀ w, Calls Try.prog 25 #[vN 2, vN v] w (Gives (vN 1) w) := fun w => by
    have h := Mul_any 2 v (by unfold TT; omega) hlt w
    rw [hi] at h
    exact h
  have hR4 : ∀ w, Calls Try.prog 11 #[vN 4] w (Gives (.tuple #[vN 2, .bool true]) w) := fun w => by
    have h := Root_any k hk 4 (by unfold TT; omega) w
    have e := rt_square prP hk (htwo k hk) 2 (fun hd => two (Nat.mod_eq_zero_of_dvd hd))
    rw [show 2 * 2 % PP = 4 from by unfold PP; omega, show 2 % PP = 2 from by unfold PP; omega, show evn PP 2 = 2 from rfl] at e
    rw [e] at h
    exact h
  have hR2 : ∀ w, Calls Try.prog 11 #[vN 2] w (Gives (.tuple #[vN 0, .bool false]) w) := fun w => by
    have h := Root_any k hk 2 (by unfold TT; omega) w
    have e := rt_double prP hk (htwo k hk) 1 one
    rw [show 2 * (1 * 1 % PP) % PP = 2 from by unfold PP; omega] at e
    rw [e] at h
    exact h
  have hS : ∀ w, Calls Try.prog 21 #[vN 0, vN 1] w (Gives (vN (PP - 1)) w) := fun w => by
    have h := Sub_any 0 1 (by unfold TT; omega) (by unfold TT; omega) w
    rw [show (0 + (PP - 1 % PP)) % PP = PP - 1 from by unfold PP; omega] at h
    exact h
  have hA : ∀ w, Calls Try.prog 19 #[vN (PP - 1), vN 2] w (Gives (vN 1) w) := fun w => by
    have h := Add_any (PP - 1) 2 (by unfold PP TT; omega) (by unfold TT; omega) w
    rw [show (PP - 1 + 2) % PP = 1 from by unfold PP; omega] at h
    exact h
  have hN : ∀ w, Calls Try.prog 23 #[vN 0] w (Gives (vN 0) w) := fun w => by
    have h := Neg_any 0 (by unfold TT; omega) w
    rw [show (PP - 0 % PP) % PP = 0 from by unfold PP; omega] at h
    exact h
  generalize PP - 1 = l at hS hA
  exact lives_core l v w (Lib.hid fun w => Of_any 0 (by omega) w) (Lib.hid fun w => Of_any 1 (by omega) w) (Lib.hid fun w => Of_any 2 (by omega) w) (Lib.hid fun w => Of_any 4 (by omega) w) (Lib.hid hS) (Lib.hid hR4) (Lib.hid hR2) (Lib.hid hA) (Lib.hid hI) (Lib.hid hM) (Lib.hid hN)
end Go.Proofs.Ytgdimnbdnepbgaa
/- What comes in: arrays of bytes, as numbers. No statement is proved here. -/
namespace Go.Proofs.Ytgdimnbdnepbgaa
open Go.RowKit
set_option linter.unusedVariables false
set_option maxRecDepth 40000

section
variable {H : Type} {enc : TypeId × Value → H} {P : Program} {w : World} {base : Nat} {spare : Nat → Bool} {held : Bool}
theorem okWide_array {r : Reach} {b0 n e : Nat} {t : TypeId} {v : Value} (ht : P.underlying t = some (.array n e)) (h : Value.okWide P w r b0 t v) : ∃ cs, v = .agg cs ∧ cs.size = P.cellsOf t := by
  simp only [Value.okWide, ht] at h
  obtain ⟨cs, h1, h2, _⟩ := h
  exact ⟨cs, h1, h2⟩
/-- An array of bytes that came in. -/
theorem open_arr {r : Reach} {b0 n e : Nat} {t : TypeId} {v : Value} {d : DataW H} {p : List MemPlace} (ht : P.underlying t = some (.array n e)) (he : P.underlying e = some (.int .u8)) (hce : P.cellsOf e = 1) (hct : P.cellsOf t = n)
    (hv : Value.okWide P w r b0 t v) (h : DataW.Trod enc P w base spare held t v d p) : ∃ l : List UInt8, l.length = n ∧ v = .agg (bcs l).toArray := by
  obtain ⟨cs, rfl, hsz⟩ := okWide_array ht hv
  obtain ⟨fuel, hf⟩ := h
  obtain ⟨xs, m, _, _, hl, hxl, hel⟩ := DataW.trod_array ht hf
  have hcs : ∀ i (hi : i < cs.size), ∃ b : UInt8, cs[i] = bc b := by
    intro i hi
    have h1 := hel i (by omega)
    have hd : ((Value.agg cs).cells.toList.drop (i * P.cellsOf e)).take (P.cellsOf e) = [cs[i]] := by
      rw [hce, Nat.mul_one]
      simp only [Value.cells]
      rw [List.drop_eq_getElem_cons (by simpa using hi)]
      simp
    rw [hd, List.getElem?_eq_getElem (by omega)] at h1
    obtain ⟨z, e0, _, wz⟩ := DataW.trod_int he h1
    simp only [List.cons.injEq, and_true] at e0
    have hb := bounds_u8 wz
    refine ⟨UInt8.ofNat z.toNat, ?_⟩
    rw [e0]
    unfold bc
    rw [UInt8.toNat_ofNat']
    congr 1
    omega
  refine ⟨cs.toList.map (fun v => match v with | .int _ z => UInt8.ofNat z.toNat | _ => 0), by simp; omega, ?_⟩
  congr 1
  apply Array.ext
  · simp [bcs]
  · intro i h1 h2
    obtain ⟨b, hb⟩ := hcs i h1
    simp only [bcs, List.map_map, List.getElem_toArray, List.getElem_map, Function.comp_def, Array.getElem_toList, hb]
    simp [bc]
end
/-- 32 bytes are those of a number. -/
theorem bytes_num (l : List UInt8) (h : l.length = 32) : ∃ n, n < TT ∧ Value.agg (bcs l).toArray = vN n := ⟨nv l, nv_lt l, by unfold vN; rw [enc_nv l h]⟩
end Go.Proofs.Ytgdimnbdnepbgaa
/- Small integers in a walk. No statement is proved here. -/
namespace Go.Proofs.Ytgdimnbdnepbgaa
open Go.RowKit
set_option linter.unusedVariables false
set_option maxRecDepth 40000
set_option linter.unusedSimpArgs false

theorem wrap64_small (a : Nat) (h : a < 18446744073709551616) : IntKind.u64.wrap (a : Int) = (a : Int) := by rw [IntKind.wrap_u64]; omega
theorem exec_conv {o : Oper} {a : Act} {w : World} (x : Operand) (ho : o.op = .convert 117 24 x) (n : Nat) (hn : n < 18446744073709551616) (hx : a.eval x = .int .u32 n) : (execOp a.eval o).run Try.prog w = .ok (.value (.int .u64 n)) w := by
  have h : (convert 117 24 (.int .u32 n)).run Try.prog w = .ok (.int .u64 (IntKind.u64.wrap n)) w := by kernel_rfl
  rw [wrap64_small n hn] at h
  unfold execOp
  simp only [ho, hx, Sem.run_bind, Sem.run_pure, Result.andThen_ok, h]
theorem exec_bin {P : Program} {o : Oper} {a : Act} {w : World} (op : BinOp) (t u : TypeId) (x y : Operand) (ho : o.op = .binOp op t x y u) (p q r : Value) (hx : a.eval x = p) (hy : a.eval y = q) (hg : (eqGuard op t x y p q).run P w = .ok () w) (hr : (binOp op t p q).run P w = .ok r w) : (execOp a.eval o).run P w = .ok (.value r) w := by
  unfold execOp
  simp only [ho, hx, hy, Sem.run_bind, Sem.run_pure, Result.andThen_ok, hg, hr]
theorem run_add64 {P : Program} (m n : Nat) (h : m + n < 18446744073709551616) (w : World) : (binOp .add 24 (.int .u64 m) (.int .u64 n)).run P w = .ok (.int .u64 ((m + n : Nat) : Int)) w := by
  have e : (binOp .add 24 (.int .u64 m) (.int .u64 n)).run P w = .ok (.int .u64 (IntKind.u64.wrap ((m : Int) + n))) w := rfl
  rw [e]
  congr 2
  rw [IntKind.wrap_u64]; omega
theorem run_mul64 {P : Program} (m n : Nat) (h : m * n < 18446744073709551616) (w : World) : (binOp .mul 24 (.int .u64 m) (.int .u64 n)).run P w = .ok (.int .u64 ((m * n : Nat) : Int)) w := by
  have e : (binOp .mul 24 (.int .u64 m) (.int .u64 n)).run P w = .ok (.int .u64 (IntKind.u64.wrap ((m : Int) * n))) w := rfl
  rw [e]
  congr 2
  rw [show (m : Int) * n = ((m * n : Nat) : Int) from by simp]
  exact wrap64_small _ h
theorem run_sub32 {P : Program} (m n : Nat) (h : n ≤ m) (hm : m < 4294967296) (w : World) : (binOp .sub 117 (.int .u32 m) (.int .u32 n)).run P w = .ok (.int .u32 ((m - n : Nat) : Int)) w := by
  have e : (binOp .sub 117 (.int .u32 m) (.int .u32 n)).run P w = .ok (.int .u32 (IntKind.u32.wrap ((m : Int) - n))) w := rfl
  rw [e]
  congr 2
  rw [IntKind.wrap_u32]; omega
theorem run_rem32 {P : Program} (m : Nat) (w : World) : (binOp .rem 117 (.int .u32 m) (.int .u32 2)).run P w = .ok (.int .u32 ((m % 2 : Nat) : Int)) w := by
  have h : Int.tmod (m : Int) 2 = ((m % 2 : Nat) : Int) := by rw [Int.tmod_eq_emod_of_nonneg (by omega)]; omega
  simp [binOp, Op.intDiv, h]
theorem run_geq32 {P : Program} (m n : Nat) (w : World) : (binOp .geq 117 (.int .u32 m) (.int .u32 n)).run P w = .ok (.bool (decide (n ≤ m))) w := by
  have e : (binOp .geq 117 (.int .u32 m) (.int .u32 n)).run P w = .ok (.bool (decide ((n : Int) ≤ m))) w := rfl
  rw [e]
  congr 2
  simp
theorem run_lss32 {P : Program} (m n : Nat) (w : World) : (binOp .lss 117 (.int .u32 m) (.int .u32 n)).run P w = .ok (.bool (decide (m < n))) w := by
  have e : (binOp .lss 117 (.int .u32 m) (.int .u32 n)).run P w = .ok (.bool (decide ((m : Int) < n))) w := rfl
  rw [e]
  congr 2
  simp
theorem run_eql32 {P : Program} (m n : Nat) (w : World) : (binOp .eql 117 (.int .u32 m) (.int .u32 n)).run P w = .ok (.bool (decide (m = n))) w := by
  have e : (binOp .eql 117 (.int .u32 m) (.int .u32 n)).run P w = .ok (.bool ((m : Int) == n)) w := rfl
  rw [e]
  congr 2
  rw [Bool.eq_iff_iff]
  simp only [beq_iff_eq, decide_eq_true_eq]
  omega
section
variable {ops : Array Oper} {rest : List Oper} {o : Oper} {a : Act} {w0 : World} {Q : Act → Prop}
theorem qb_conv (hw : Region.wanted o (yielded ops a.tmps) = true) (x : Operand) (ho : o.op = .convert 117 24 x) (n : Nat) (hn : n < 18446744073709551616) (hx : a.eval x = .int .u32 n) (h : wpQuiet Try.prog ops (CB w0) Q rest (a.put o.dst (.int .u64 n))) : wpQuiet Try.prog ops (CB w0) Q (o :: rest) a :=
  qb_val hw _ (fun w _ => exec_conv x ho n hn hx) h
theorem qb_bin {P : Program} (hw : Region.wanted o (yielded ops a.tmps) = true) (op : BinOp) (t u : TypeId) (x y : Operand) (ho : o.op = .binOp op t x y u) (p q r : Value) (hx : a.eval x = p) (hy : a.eval y = q) (hg : ∀ w, (eqGuard op t x y p q).run P w = .ok () w) (hr : ∀ w, (binOp op t p q).run P w = .ok r w) (h : wpQuiet P ops (CB w0) Q rest (a.put o.dst r)) : wpQuiet P ops (CB w0) Q (o :: rest) a :=
  qb_val hw _ (fun w _ => exec_bin op t u x y ho p q r hx hy (hg w) (hr w)) h
end
end Go.Proofs.Ytgdimnbdnepbgaa
/- The steps of quiet regions, shut in a structure, so that nothing looks into what is left. No statement is proved here. -/
namespace Go.Proofs.Ytgdimnbdnepbgaa
open Go.RowKit
set_option linter.unusedVariables false
set_option maxRecDepth 40000
set_option linter.unusedSimpArgs false

structure WQ (P : Program) (ops : Array Oper) (C : World → Prop) (Q : Act → Prop) (l : List Oper) (a : Act) : Prop where
  out : wpQuiet P ops C Q l a
section
variable {P : Program} {ops : Array Oper} {rest : List Oper} {o : Oper} {a : Act} {w0 : World} {Q : Act → Prop}
theorem wq_nil (h : Q a) : WQ P ops (CB w0) Q [] a := ⟨wpQuiet_nil h⟩
theorem wq_skip (hw : Region.wanted o (yielded ops a.tmps) = false) (h : WQ P ops (CB w0) Q rest (a.put o.dst undef)) : WQ P ops (CB w0) Q (o :: rest) a := ⟨qb_skip hw h.out⟩
theorem wq_call (hw : Region.wanted o (yielded ops a.tmps) = true) (f : FuncId) (xs : List Operand) (ts : Array TypeId) (ho : o.op = .call { callee := .value (.func f), args := xs.toArray, argTypes := ts }) (args : List Value) (hx : xs.map a.eval = args) (hcf : ∀ w, (callFunc f args.toArray).run P w = .ok (.enter f args.toArray) w)
    (v : Value) (hc : ∀ w, Calls P f args.toArray w (Gives v w)) (h : WQ P ops (CB w0) Q rest (a.put o.dst v)) : WQ P ops (CB w0) Q (o :: rest) a := ⟨qb_call hw f xs ts ho args hx hcf v hc h.out⟩
theorem wq_move (hw : Region.wanted o (yielded ops a.tmps) = true) (x : Operand) (ho : o.op = .move x) (v : Value) (hx : a.eval x = v) (h : WQ P ops (CB w0) Q rest (a.put o.dst v)) : WQ P ops (CB w0) Q (o :: rest) a := ⟨qb_move hw x ho v hx h.out⟩
theorem wq_assign (hw : Region.wanted o (yielded ops a.tmps) = true) (x : Operand) (ho : o.op = .assign x) (v : Value) (hx : a.eval x = v) (h : WQ P ops (CB w0) Q rest (a.put o.dst v)) : WQ P ops (CB w0) Q (o :: rest) a := ⟨qb_assign hw x ho v hx h.out⟩
theorem wq_pick (hw : Region.wanted o (yielded ops a.tmps) = true) (c x y : Operand) (ho : o.op = .pick c x y) (b : Bool) (hc : a.eval c = .bool b) (v : Value) (hx : (if b then a.eval x else a.eval y) = v) (h : WQ P ops (CB w0) Q rest (a.put o.dst v)) : WQ P ops (CB w0) Q (o :: rest) a := ⟨qb_pick hw c x y ho b hc v hx h.out⟩
theorem wq_not (hw : Region.wanted o (yielded ops a.tmps) = true) (t : TypeId) (x : Operand) (ho : o.op = .unOp .not t x) (b : Bool) (hx : a.eval x = .bool b) (h : WQ P ops (CB w0) Q rest (a.put o.dst (.bool (!b)))) : WQ P ops (CB w0) Q (o :: rest) a := ⟨qb_not hw t x ho b hx h.out⟩
theorem wq_bin (hw : Region.wanted o (yielded ops a.tmps) = true) (op : BinOp) (t u : TypeId) (x y : Operand) (ho : o.op = .binOp op t x y u) (p q r : Value) (hx : a.eval x = p) (hy : a.eval y = q) (hg : ∀ w, (eqGuard op t x y p q).run P w = .ok () w) (hr : ∀ w, (binOp op t p q).run P w = .ok r w) (h : WQ P ops (CB w0) Q rest (a.put o.dst r)) : WQ P ops (CB w0) Q (o :: rest) a := ⟨qb_bin hw op t u x y ho p q r hx hy hg hr h.out⟩
end
section
variable {ops : Array Oper} {rest : List Oper} {o : Oper} {a : Act} {w0 : World} {Q : Act → Prop}
theorem wq_load (hw : Region.wanted o (yielded ops a.tmps) = true) (x : Operand) (ho : o.op = .load 23 x) (g n : Nat) (hx : a.eval x = .pointer (some ⟨g, 0, none⟩)) (hr : NAt w0 g n) (h : WQ Try.prog ops (CB w0) Q rest (a.put o.dst (vN n))) : WQ Try.prog ops (CB w0) Q (o :: rest) a := ⟨qb_load hw x ho g n hx hr h.out⟩
theorem wq_eq (hw : Region.wanted o (yielded ops a.tmps) = true) (x y : Operand) (ho : o.op = .binOp .eql 23 x y 23) (m n : Nat) (hx : a.eval x = vN m) (hy : a.eval y = vN n) (b : Bool) (hb : ∀ w, (Op.equalIn 10000 23 (vN m) (vN n)).run Try.prog w = .ok b w) (h : WQ Try.prog ops (CB w0) Q rest (a.put o.dst (.bool b))) : WQ Try.prog ops (CB w0) Q (o :: rest) a := ⟨qb_eq hw x y ho m n hx hy b hb h.out⟩
theorem wq_neq (hw : Region.wanted o (yielded ops a.tmps) = true) (x y : Operand) (ho : o.op = .binOp .neq 23 x y 23) (m n : Nat) (hx : a.eval x = vN m) (hy : a.eval y = vN n) (b b' : Bool) (hb : ∀ w, (Op.equalIn 10000 23 (vN m) (vN n)).run Try.prog w = .ok b w) (hb' : (!b) = b') (h : WQ Try.prog ops (CB w0) Q rest (a.put o.dst (.bool b'))) : WQ Try.prog ops (CB w0) Q (o :: rest) a := ⟨qb_neq hw x y ho m n hx hy b b' hb hb' h.out⟩
theorem wq_zero (hw : Region.wanted o (yielded ops a.tmps) = true) (ho : o.op = .build 23 #[]) (h : WQ Try.prog ops (CB w0) Q rest (a.put o.dst (vN 0))) : WQ Try.prog ops (CB w0) Q (o :: rest) a := ⟨qb_zero hw ho h.out⟩
theorem wq_eqb {P : Program} (hw : Region.wanted o (yielded ops a.tmps) = true) (x y : Operand) (ho : o.op = .binOp .eql 4 x y 4) (m n b : Bool) (hx : a.eval x = .bool m) (hy : a.eval y = .bool n) (hb : (m == n) = b) (h : WQ Try.prog ops (CB w0) Q rest (a.put o.dst (.bool b))) : WQ Try.prog ops (CB w0) Q (o :: rest) a := ⟨qb_eqb (P := P) hw x y ho m n b hx hy hb h.out⟩
theorem wq_conv (hw : Region.wanted o (yielded ops a.tmps) = true) (x : Operand) (ho : o.op = .convert 117 24 x) (n : Nat) (hn : n < 18446744073709551616) (hx : a.eval x = .int .u32 n) (h : WQ Try.prog ops (CB w0) Q rest (a.put o.dst (.int .u64 n))) : WQ Try.prog ops (CB w0) Q (o :: rest) a := ⟨qb_conv hw x ho n hn hx h.out⟩
theorem region_wq {id : Nat} {Q : Exit → Act → World → Prop} {a : Act} {w : World} {l : List Oper} (hm : Try.prog.follows .mixedOrders = true) (hB : Region.lexB .any l.toArray = true)
    (h : WQ Try.prog l.toArray (CB w) (fun a' => ∀ w', Below w.heap.size w w' → Q .normal a' w') l a) : (Code.region id l.toArray true).wp Try.prog Q a w := region_qb (P := Try.prog) hm hB h.out
theorem exec_extract {P : Program} {o : Oper} {a : Act} {w : World} (x : Operand) (i : Nat) (ho : o.op = .extract x i) (vs : Array Value) (hx : a.eval x = .tuple vs) (v : Value) (hv : vs[i]? = some v) : (execOp a.eval o).run P w = .ok (.value v) w := by
  unfold execOp
  simp only [ho, hx]
  simp [Instr.extract, hv]
/-- Two Bools, unlike. -/
theorem run_neqb {P : Program} (m n : Bool) (w : World) : (binOp .neq 4 (.bool m) (.bool n)).run Try.prog w = .ok (.bool (!(m == n))) w := by
  cases m <;> cases n <;> kernel_rfl
end
end Go.Proofs.Ytgdimnbdnepbgaa
