/- The chapter's examples. No statement is proved here. -/
import Derived.Test.YtgdimnbdnepbgaaGA
namespace Go.Proofs.Ytgdimnbdnepbgaa
open Go.RowKit
set_option linter.unusedVariables false
set_option maxRecDepth 40000

set_option maxHeartbeats 4000000 in
theorem lives_core (l v : Nat) (w : World)
    (HOf0 : Hid (∀ w, Calls Try.prog 17 #[.int .u64 0] w (Gives (vN 0) w))) (HOf1 : Hid (∀ w, Calls Try.prog 17 #[.int .u64 1] w (Gives (vN 1) w))) (HOf2 : Hid (∀ w, Calls Try.prog 17 #[.int .u64 2] w (Gives (vN 2) w))) (HOf4 : Hid (∀ w, Calls Try.prog 17 #[.int .u64 4] w (Gives (vN 4) w)))
    (HSub : Hid (∀ w, Calls Try.prog 21 #[vN 0, vN 1] w (Gives (vN l) w)))
    (HR4 : Hid (∀ w, Calls Try.prog 11 #[vN 4] w (Gives (.tuple #[vN 2, .bool true]) w))) (HR2 : Hid (∀ w, Calls Try.prog 11 #[vN 2] w (Gives (.tuple #[vN 0, .bool false]) w)))
    (HAdd : Hid (∀ w, Calls Try.prog 19 #[vN l, vN 2] w (Gives (vN 1) w))) (HInv : Hid (∀ w, Calls Try.prog 29 #[vN 2] w (Gives (vN v) w))) (HMul : Hid (∀ w, Calls Try.prog 25 #[vN 2, vN v] w (Gives (vN 1) w)))
    (HNeg : Hid (∀ w, Calls Try.prog 23 #[vN 0] w (Gives (vN 0) w))) :
    Calls Try.prog 10 #[] w (Gives (.bool true) w) := by
  go_enter Try.func10, Try.ntmps10
  go_wp2_with fail
  refine (HOf0.out _).mono ?_
  rintro ex x1 ⟨rfl, hb⟩
  have HB_1 : Hid (Below w.heap.size w x1) := hb
  clear hb 
  go_wp2_with fail
  refine (HOf1.out _).mono ?_
  rintro ex x2 ⟨rfl, hb⟩
  have HB_2 := Lib.hid (HB_1.out.trans (hb.mono HB_1.out.size))
  clear hb  HB_1
  go_wp2_with fail
  refine (HSub.out _).mono ?_
  rintro ex x3 ⟨rfl, hb⟩
  have HB_3 := Lib.hid (HB_2.out.trans (hb.mono HB_2.out.size))
  clear hb  HB_2
  go_wp2_with (first | ((with_reducible show wpList _ _ _ (⟨some 1, .alloc 23, _, _, _, _⟩ :: _) _ _); go_must (refine wpList_alloc_row rfl 23 rfl (.agg (zbs 32)) zero23 ?_; intro u4 h1 z1 g1; have H4 := Lib.hid h1; have Z4 := Lib.hid z1; have G4 := Lib.hid g1; clear h1 z1 g1)) | ((with_reducible show wpList _ _ _ (⟨none, .store 23 (.tmp 1) (.tmp 8), _, _, _, _⟩ :: _) _ _); go_must (refine wpList_store_all rfl 23 (.tmp 1) (.tmp 8) rfl (x3.heap.size) rfl (bcs (enc l)).toArray rfl 23 _ H4.out (by rw [List.size_toArray, bcs_enc_len]; exact size23) (by rw [List.size_toArray, bcs_enc_len]; rfl) (bcs_one _) ?_; intro v4 hh hg hz; have HH4 := Lib.hid hh; have HG4 := Lib.hid hg; clear hh hg hz)) | fail)
  have L_4 : Hid (NAt v4 x3.heap.size l) := Lib.hid ⟨23, HH4.out⟩
  have HB_4 : Hid (Below w.heap.size w v4) := Lib.hid ((HB_3.out.grown G4.out HB_3.out.size (by simp)).grown HG4.out (by have := HB_3.out.size; have := Z4.out; omega) (fun r hr => by injection hr with hr; have := HB_3.out.size; omega))
  clear H4 Z4 G4 HH4 HG4 HB_3 
  generalize x3.heap.size = g1 at *
  refine (HOf4.out _).mono ?_
  rintro ex x5 ⟨rfl, hb⟩
  have L_5 := Lib.hid (L_4.out.keep hb)
  have HB_5 := Lib.hid (HB_4.out.trans (hb.mono HB_4.out.size))
  clear hb L_4 HB_4
  go_wp2_with fail
  refine (HR4.out _).mono ?_
  rintro ex x6 ⟨rfl, hb⟩
  have L_6 := Lib.hid (L_5.out.keep hb)
  have HB_6 := Lib.hid (HB_5.out.trans (hb.mono HB_5.out.size))
  clear hb L_5 HB_5
  go_wp2_with (first | ((with_reducible show wpList _ _ _ (⟨some 2, .alloc 23, _, _, _, _⟩ :: _) _ _); go_must (refine wpList_alloc_row rfl 23 rfl (.agg (zbs 32)) zero23 ?_; intro u7 h1 z1 g1; have H7 := Lib.hid h1; have Z7 := Lib.hid z1; have G7 := Lib.hid g1; clear h1 z1 g1)) | ((with_reducible show wpList _ _ _ (⟨none, .store 23 (.tmp 2) (.tmp 12), _, _, _, _⟩ :: _) _ _); go_must (refine wpList_store_all rfl 23 (.tmp 2) (.tmp 12) rfl (x6.heap.size) rfl (bcs (enc 2)).toArray rfl 23 _ H7.out (by rw [List.size_toArray, bcs_enc_len]; exact size23) (by rw [List.size_toArray, bcs_enc_len]; rfl) (bcs_one _) ?_; intro v7 hh hg hz; have HH7 := Lib.hid hh; have HG7 := Lib.hid hg; clear hh hg hz)) | fail)
  have L_7 := Lib.hid ((L_6.out.grown G7.out (by simp)).grown HG7.out (by have := L_6.out.lt; simp; omega))
  have R_7 : Hid (NAt v7 x6.heap.size 2) := Lib.hid ⟨23, HH7.out⟩
  have HB_7 : Hid (Below w.heap.size w v7) := Lib.hid ((HB_6.out.grown G7.out HB_6.out.size (by simp)).grown HG7.out (by have := HB_6.out.size; have := Z7.out; omega) (fun r hr => by injection hr with hr; have := HB_6.out.size; omega))
  clear H7 Z7 G7 HH7 HG7 HB_6 L_6
  generalize x6.heap.size = g2 at *
  refine (HOf2.out _).mono ?_
  rintro ex x8 ⟨rfl, hb⟩
  have L_8 := Lib.hid (L_7.out.keep hb)
  have R_8 := Lib.hid (R_7.out.keep hb)
  have HB_8 := Lib.hid (HB_7.out.trans (hb.mono HB_7.out.size))
  clear hb L_7 R_7 HB_7
  go_wp2_with fail
  refine (HR2.out _).mono ?_
  rintro ex x9 ⟨rfl, hb⟩
  have L_9 := Lib.hid (L_8.out.keep hb)
  have R_9 := Lib.hid (R_8.out.keep hb)
  have HB_9 := Lib.hid (HB_8.out.trans (hb.mono HB_8.out.size))
  clear hb L_8 R_8 HB_8
  go_wp2_with (first | ((with_reducible show wpList _ _ _ (⟨some 4, .alloc 23, _, _, _, _⟩ :: _) _ _); go_must (refine wpList_alloc_row rfl 23 rfl (.agg (zbs 32)) zero23 ?_; intro u10 h1 z1 g1; have H10 := Lib.hid h1; have Z10 := Lib.hid z1; have G10 := Lib.hid g1; clear h1 z1 g1)) | ((with_reducible show wpList _ _ _ (⟨none, .store 23 (.tmp 4) (.tmp 17), _, _, _, _⟩ :: _) _ _); go_must (refine wpList_store_all rfl 23 (.tmp 4) (.tmp 17) rfl (x9.heap.size) rfl (bcs (enc 0)).toArray rfl 23 _ H10.out (by rw [List.size_toArray, bcs_enc_len]; exact size23) (by rw [List.size_toArray, bcs_enc_len]; rfl) (bcs_one _) ?_; intro v10 hh hg hz; have HH10 := Lib.hid hh; have HG10 := Lib.hid hg; clear hh hg hz)) | fail)
  have L_10 := Lib.hid ((L_9.out.grown G10.out (by simp)).grown HG10.out (by have := L_9.out.lt; simp; omega))
  have R_10 := Lib.hid ((R_9.out.grown G10.out (by simp)).grown HG10.out (by have := R_9.out.lt; simp; omega))
  have Q_10 : Hid (NAt v10 x9.heap.size 0) := Lib.hid ⟨23, HH10.out⟩
  have HB_10 : Hid (Below w.heap.size w v10) := Lib.hid ((HB_9.out.grown G10.out HB_9.out.size (by simp)).grown HG10.out (by have := HB_9.out.size; have := Z10.out; omega) (fun r hr => by injection hr with hr; have := HB_9.out.size; omega))
  clear H10 Z10 G10 HH10 HG10 HB_9 L_9 R_9
  generalize x9.heap.size = g3 at *
  refine region_qb (by kernel_rfl) (by kernel_rfl) ?_
  refine qb_load rfl (.tmp 1) rfl (g1) l rfl L_10.out ?_
  simp only [Act.put, List.setIfInBounds_toArray, List.set_cons_zero, List.set_cons_succ]
  refine qb_call rfl 17 [.const (.int .u64 2)] #[24] rfl [.int .u64 2] rfl (CF14 _) (vN 2) HOf2.out ?_
  simp only [Act.put, List.setIfInBounds_toArray, List.set_cons_zero, List.set_cons_succ]
  refine qb_call rfl 19 [.tmp 19, .tmp 20] #[23, 23] rfl [vN l, vN 2] rfl (CF23 _) (vN 1) HAdd.out ?_
  simp only [Act.put, List.setIfInBounds_toArray, List.set_cons_zero, List.set_cons_succ]
  refine qb_call rfl 17 [.const (.int .u64 1)] #[24] rfl [.int .u64 1] rfl (CF14 _) (vN 1) HOf1.out ?_
  simp only [Act.put, List.setIfInBounds_toArray, List.set_cons_zero, List.set_cons_succ]
  refine qb_eq rfl (.tmp 21) (.tmp 22) rfl 1 1 rfl rfl true (eqN_same _) ?_
  simp only [Act.put, List.setIfInBounds_toArray, List.set_cons_zero, List.set_cons_succ]
  refine qb_move rfl (.tmp 23) rfl (.bool true) rfl ?_
  simp only [Act.put, List.setIfInBounds_toArray, List.set_cons_zero, List.set_cons_succ]
  refine qb_call rfl 17 [.const (.int .u64 2)] #[24] rfl [.int .u64 2] rfl (CF14 _) (vN 2) HOf2.out ?_
  simp only [Act.put, List.setIfInBounds_toArray, List.set_cons_zero, List.set_cons_succ]
  refine qb_call rfl 17 [.const (.int .u64 2)] #[24] rfl [.int .u64 2] rfl (CF14 _) (vN 2) HOf2.out ?_
  simp only [Act.put, List.setIfInBounds_toArray, List.set_cons_zero, List.set_cons_succ]
  refine qb_call rfl 29 [.tmp 26] #[23] rfl [vN 2] rfl (CF15 _) (vN v) HInv.out ?_
  simp only [Act.put, List.setIfInBounds_toArray, List.set_cons_zero, List.set_cons_succ]
  refine qb_call rfl 25 [.tmp 25, .tmp 27] #[23, 23] rfl [vN 2, vN v] rfl (CF28 _) (vN 1) HMul.out ?_
  simp only [Act.put, List.setIfInBounds_toArray, List.set_cons_zero, List.set_cons_succ]
  refine qb_call rfl 17 [.const (.int .u64 1)] #[24] rfl [.int .u64 1] rfl (CF14 _) (vN 1) HOf1.out ?_
  simp only [Act.put, List.setIfInBounds_toArray, List.set_cons_zero, List.set_cons_succ]
  refine qb_eq rfl (.tmp 28) (.tmp 29) rfl 1 1 rfl rfl true (eqN_same _) ?_
  simp only [Act.put, List.setIfInBounds_toArray, List.set_cons_zero, List.set_cons_succ]
  refine qb_pick rfl (.tmp 24) (.tmp 30) (.const (.bool false)) rfl true rfl (.bool true) rfl ?_
  simp only [Act.put, List.setIfInBounds_toArray, List.set_cons_zero, List.set_cons_succ]
  refine qb_move rfl (.tmp 31) rfl (.bool true) rfl ?_
  simp only [Act.put, List.setIfInBounds_toArray, List.set_cons_zero, List.set_cons_succ]
  refine qb_zero rfl rfl ?_
  simp only [Act.put, List.setIfInBounds_toArray, List.set_cons_zero, List.set_cons_succ]
  refine qb_call rfl 23 [.tmp 33] #[23] rfl [vN 0] rfl (CF13 _) (vN 0) HNeg.out ?_
  simp only [Act.put, List.setIfInBounds_toArray, List.set_cons_zero, List.set_cons_succ]
  refine qb_zero rfl rfl ?_
  simp only [Act.put, List.setIfInBounds_toArray, List.set_cons_zero, List.set_cons_succ]
  refine qb_eq rfl (.tmp 34) (.tmp 35) rfl 0 0 rfl rfl true (eqN_same _) ?_
  simp only [Act.put, List.setIfInBounds_toArray, List.set_cons_zero, List.set_cons_succ]
  refine qb_pick rfl (.tmp 32) (.tmp 36) (.const (.bool false)) rfl true rfl (.bool true) rfl ?_
  simp only [Act.put, List.setIfInBounds_toArray, List.set_cons_zero, List.set_cons_succ]
  refine qb_move rfl (.tmp 37) rfl (.bool true) rfl ?_
  simp only [Act.put, List.setIfInBounds_toArray, List.set_cons_zero, List.set_cons_succ]
  refine qb_move rfl (.tmp 3) rfl (.bool true) rfl ?_
  simp only [Act.put, List.setIfInBounds_toArray, List.set_cons_zero, List.set_cons_succ]
  refine qb_pick rfl (.tmp 38) (.tmp 39) (.const (.bool false)) rfl true rfl (.bool true) rfl ?_
  simp only [Act.put, List.setIfInBounds_toArray, List.set_cons_zero, List.set_cons_succ]
  refine qb_move rfl (.tmp 40) rfl (.bool true) rfl ?_
  simp only [Act.put, List.setIfInBounds_toArray, List.set_cons_zero, List.set_cons_succ]
  refine qb_load rfl (.tmp 2) rfl (g2) 2 rfl R_10.out ?_
  simp only [Act.put, List.setIfInBounds_toArray, List.set_cons_zero, List.set_cons_succ]
  refine qb_call rfl 17 [.const (.int .u64 2)] #[24] rfl [.int .u64 2] rfl (CF14 _) (vN 2) HOf2.out ?_
  simp only [Act.put, List.setIfInBounds_toArray, List.set_cons_zero, List.set_cons_succ]
  refine qb_eq rfl (.tmp 42) (.tmp 43) rfl 2 2 rfl rfl true (eqN_same _) ?_
  simp only [Act.put, List.setIfInBounds_toArray, List.set_cons_zero, List.set_cons_succ]
  refine qb_pick rfl (.tmp 41) (.tmp 44) (.const (.bool false)) rfl true rfl (.bool true) rfl ?_
  simp only [Act.put, List.setIfInBounds_toArray, List.set_cons_zero, List.set_cons_succ]
  refine qb_move rfl (.tmp 45) rfl (.bool true) rfl ?_
  simp only [Act.put, List.setIfInBounds_toArray, List.set_cons_zero, List.set_cons_succ]
  refine qb_move rfl (.tmp 5) rfl (.bool false) rfl ?_
  simp only [Act.put, List.setIfInBounds_toArray, List.set_cons_zero, List.set_cons_succ]
  refine qb_not rfl 4 (.tmp 47) rfl false rfl ?_
  rw [show (!false) = true from rfl]
  simp only [Act.put, List.setIfInBounds_toArray, List.set_cons_zero, List.set_cons_succ]
  refine qb_pick rfl (.tmp 46) (.tmp 48) (.const (.bool false)) rfl true rfl (.bool true) rfl ?_
  simp only [Act.put, List.setIfInBounds_toArray, List.set_cons_zero, List.set_cons_succ]
  refine qb_assign rfl (.tmp 49) rfl (.bool true) rfl ?_
  simp only [Act.put, List.setIfInBounds_toArray, List.set_cons_zero, List.set_cons_succ]
  refine wpQuiet_nil ?_
  intro W hb
  have HBW : Hid (Below w.heap.size w W) := HB_10.out.trans (hb.mono HB_10.out.size)
  clear hb HB_10 L_10 R_10 Q_10
  go_wp2
  go_ret
  exact ⟨rfl, HBW.out⟩

theorem k_ex : ∃ k, PP = 8 * k + 5 := ⟨7237005577332262213973186563042994240829374041602535252466099000494570602493, by unfold PP; omega⟩
theorem q_ex : ∃ q, PP = q + 2 := ⟨57896044618658097711785492504343953926634992332820282019728792003956564819947, by unfold PP; omega⟩
/-- What is not 0 times its inverse is 1. -/
theorem inv_mul (q : Nat) (hq : PP = q + 2) (a : Nat) (ha : a % PP ≠ 0) : a * (a ^ q % PP) % PP = 1 := by
  have h := fermat1 prP a (fun hd => ha (Nat.mod_eq_zero_of_dvd hd))
  rw [show PP - 1 = q + 1 from by omega, Nat.pow_succ, Nat.mul_comm] at h
  rw [Nat.mul_mod_mod]
  exact h
theorem lives_any (w : World) : Calls Try.prog 10 #[] w (Gives (.bool true) w) := by
  obtain ⟨k, hk⟩ := k_ex
  obtain ⟨q, hq⟩ := q_ex
  have two : 2 % PP ≠ 0 := by unfold PP; omega
  have one : ¬ PP ∣ 1 := fun h => by have := Nat.le_of_dvd (by omega) h; unfold PP at this; omega
  have hi := inv_mul q hq 2 two
  have hI := Inv_any q hq 2 (by unfold TT; omega)
  have hlt : 2 ^ q % PP < TT := modT _
  generalize 2 ^ q % PP = v at *
  have hM : ∀ w, Calls Try.prog 25 #[vN 2, vN v] w (Gives (vN 1) w) := fun w => by
    have h := Mul_any 2 v (by unfold TT; omega) hlt w
    rw [hi] at h
    exact h
  have hR4 : ∀ w, Calls Try.prog 11 #[vN 4] w (Gives (.tuple #[vN 2, .bool true]) w) := fun w => by
    have h := Root_any k hk 4 (by unfold TT; omega) w
    have e := rt_square prP hk (htwo k hk) 2 (fun hd => two (Nat.mod_eq_zero_of_dvd hd))
    rw [show 2 * 2 % PP = 4 from by unfold PP; omega, show 2 % PP = 2 from by unfold PP; omega, show evn PP 2 = 2 from rfl] at e
    rw [e] at h
    exact h
  have hR2 : ∀ w, Calls Try.prog 11 #[vN 2] w (Gives (.tuple #[vN 0, .bool false]) w) := fun w => by
    have h := Root_any k hk 2 (by unfold TT; omega) w
    have e := rt_double prP hk (htwo k hk) 1 one
    rw [show 2 * (1 * 1 % PP) % PP = 2 from by unfold PP; omega] at e
    rw [e] at h
    exact h
  have hS : ∀ w, Calls Try.prog 21 #[vN 0, vN 1] w (Gives (vN (PP - 1)) w) := fun w => by
    have h := Sub_any 0 1 (by unfold TT; omega) (by unfold TT; omega) w
    rw [show (0 + (PP - 1 % PP)) % PP = PP - 1 from by unfold PP; omega] at h
    exact h
  have hA : ∀ w, Calls Try.prog 19 #[vN (PP - 1), vN 2] w (Gives (vN 1) w) := fun w => by
    have h := Add_any (PP - 1) 2 (by unfold PP TT; omega) (by unfold TT; omega) w
    rw [show (PP - 1 + 2) % PP = 1 from by unfold PP; omega] at h
    exact h
  have hN : ∀ w, Calls Try.prog 23 #[vN 0] w (Gives (vN 0) w) := fun w => by
    have h := Neg_any 0 (by unfold TT; omega) w
    rw [show (PP - 0 % PP) % PP = 0 from by unfold PP; omega] at h
    exact h
  generalize PP - 1 = l at hS hA
  exact lives_core l v w (Lib.hid fun w => Of_any 0 (by omega) w) (Lib.hid fun w => Of_any 1 (by omega) w) (Lib.hid fun w => Of_any 2 (by omega) w) (Lib.hid fun w => Of_any 4 (by omega) w) (Lib.hid hS) (Lib.hid hR4) (Lib.hid hR2) (Lib.hid hA) (Lib.hid hI) (Lib.hid hM) (Lib.hid hN)
end Go.Proofs.Ytgdimnbdnepbgaa
