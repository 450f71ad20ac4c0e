/- The law of calls, the first third. No statement is proved here. -/
import Derived.Test.YtphalfpmgbmcaaaCN
namespace Go.Proofs.Ytphalfpmgbmcaaa
open Go.RowKit
set_option linter.unusedVariables false
set_option linter.unusedSimpArgs false

set_option maxRecDepth 100000 in
set_option maxHeartbeats 8000000 in
theorem calls_key0 (w w1 W0 : World) (A0 A1 : Option Addr) (c0 c1 : Nat) (la lb : List UInt8) (hn0 : la.length ≤ 2000) (hn1 : lb.length ≤ 2000) (hc0 : la.length ≤ c0 ∧ c0 ≤ maxLen) (hc1 : lb.length ≤ c1 ∧ c1 ≤ maxLen) (s : St) (hs : s.Fits) (p : List UInt8) (hp : p.length = 128) (PC S5 S2 : St) (KA : Array Value) (HK : Hid (Kc s p PC S5 S2 KA)) (Q : Exit → Act → World → Prop) (hP : ∀ i v c a w, Q (.panic c) (Act.put a i v) w → Q (.panic c) a w) (hQ : ∀ (u0 u1 u2 u3 u4 u5 u6 u7 u9 u10 u11 u12 u13 u14 u15 u16 u17 u18 u19 u20 u21 u22 u23 u24 u25 u26 u27 u28 u29 u30 u31 u32 u33 u34 u35 u36 u37 u38 u39 u40 u41 u42 u43 u44 u45 u46 u47 u48 u49 u50 u51 u52 u53 u54 u55 u56 u57 u58 u59 u60 u61 u62 u63 u64 u65 u66 u67 u68 u69 u70 u71 u72 u73 : Value) (W : World), Below w1.heap.size w1 W → Q .normal ⟨#[u0, u1, u2, u3, u4, u5, u6, u7, .bool true, u9, u10, u11, u12, u13, u14, u15, u16, u17, u18, u19, u20, u21, u22, u23, u24, u25, u26, u27, u28, u29, u30, u31, u32, u33, u34, u35, u36, u37, u38, u39, u40, u41, u42, u43, u44, u45, u46, u47, u48, u49, u50, u51, u52, u53, u54, u55, u56, u57, u58, u59, u60, u61, u62, u63, u64, u65, u66, u67, u68, u69, u70, u71, u72, u73], []⟩ W) (v2 v3 v4 v5 v8 v9 v10 v11 v12 v13 v14 v15 v16 v17 v18 v19 v20 v21 v22 v23 v24 v25 v26 v27 v28 v29 v30 v31 v32 v33 v34 v35 v36 v37 v38 v39 v40 v41 v42 v43 v44 v45 v46 v47 v48 v49 v50 v51 v52 v53 v54 v55 v56 v57 v58 v59 v60 v61 v62 v63 v64 v65 v66 v67 v68 v69 v70 v71 v72 v73 : Value) (L : Array Bool) (hL : L = (Array.replicate 56 false)) (HBW0 : Hid (Below w1.heap.size w1 W0)) (SA_0 : Hid (SL W0 A0 la.length la)) (SB_0 : Hid (SL W0 A1 lb.length lb)) (BS_0 : Hid (BX W0 w.heap.size (ucs s.words) 27)) (BP_0 : Hid (BX W0 (w.heap.size + 1) (bcs p) 33)) :
    wpAnyW Try.prog .any ops4 Q (fun _ => false) w1.heap.size 56 L ⟨#[.slice A0 la.length c0, .slice A1 lb.length c1, v2, v3, v4, v5, .pointer (some ⟨w.heap.size, 0, none⟩), .pointer (some ⟨w.heap.size + 1, 0, none⟩), v8, v9, v10, v11, v12, v13, v14, v15, v16, v17, v18, v19, v20, v21, v22, v23, v24, v25, v26, v27, v28, v29, v30, v31, v32, v33, v34, v35, v36, v37, v38, v39, v40, v41, v42, v43, v44, v45, v46, v47, v48, v49, v50, v51, v52, v53, v54, v55, v56, v57, v58, v59, v60, v61, v62, v63, v64, v65, v66, v67, v68, v69, v70, v71, v72, v73], []⟩ W0 := by
  have HLA := Lib.hid (show la.length ≤ 1000000000 by omega)
  have HLB := Lib.hid (show lb.length ≤ 1000000000 by omega)
  have HLL := Lib.hid (show (la ++ lb).length ≤ 1000000000 by rw [List.length_append]; omega)
  have HCA := Lib.hid hc0
  have HCB := Lib.hid hc1
  have HPL := Lib.hid hp
  have E22 := Lib.hid (eq22 (sum512 (la ++ lb)) (sum512_len _))
  have E35 := Lib.hid (eq35 (sum256 la) (sum256_len la))
  have HPN := Lib.hid hP
  have HQN := Lib.hid hQ
  clear hP hQ hc0 hc1
  subst hL
  refine takeAE (i := 0) (oi := { dst := some 19, op := Op.move (Operand.tmp 0), type := 30, pos := "law.go:38", after := #[], guard := none }) rfl (by kernel_rfl) (by kernel_rfl) (by kernel_rfl) (fun v => HPN.out _ v) (by rfl) ?_
  apply Exists.intro
  refine ⟨fun w' => ?_, ?_⟩
  · go_simp <;> with_reducible rfl
  simp only [Act.put, List.setIfInBounds_toArray, List.set_cons_zero, List.set_cons_succ]
  refine takeAE (i := 2) (oi := { dst := some 21, op := Op.move (Operand.tmp 1), type := 30, pos := "law.go:38", after := #[], guard := none }) rfl (by kernel_rfl) (by kernel_rfl) (by kernel_rfl) (fun v => HPN.out _ v) (by rfl) ?_
  apply Exists.intro
  refine ⟨fun w' => ?_, ?_⟩
  · go_simp <;> with_reducible rfl
  simp only [Act.put, List.setIfInBounds_toArray, List.set_cons_zero, List.set_cons_succ]
  refine takeAE (i := 6) (oi := { dst := some 25, op := Op.move (Operand.tmp 0), type := 30, pos := "law.go:38", after := #[], guard := none }) rfl (by kernel_rfl) (by kernel_rfl) (by kernel_rfl) (fun v => HPN.out _ v) (by rfl) ?_
  apply Exists.intro
  refine ⟨fun w' => ?_, ?_⟩
  · go_simp <;> with_reducible rfl
  simp only [Act.put, List.setIfInBounds_toArray, List.set_cons_zero, List.set_cons_succ]
  refine takeAE (i := 7) (oi := { dst := some 26, op := Op.move (Operand.tmp 1), type := 30, pos := "law.go:38", after := #[], guard := none }) rfl (by kernel_rfl) (by kernel_rfl) (by kernel_rfl) (fun v => HPN.out _ v) (by rfl) ?_
  apply Exists.intro
  refine ⟨fun w' => ?_, ?_⟩
  · go_simp <;> with_reducible rfl
  simp only [Act.put, List.setIfInBounds_toArray, List.set_cons_zero, List.set_cons_succ]
  refine eachW [1, 8] (by kernel_rfl) (by simp) (two_ways ?_ ?_)
  · refine wpOp_call (i := 1) (oi := { dst := some 20, op := Op.call { callee := Callee.value (Operand.func 16), args := #[Operand.tmp 19], argTypes := #[30] }, type := 30, pos := "law.go:38", after := #[{ on := 0, ground := Ground.data }], guard := none }) rfl (by rfl) ?_ ((own_any la W0 _ A0 la.length c0 SA_0.out (fun b h => h) HLA.out).mono ?_)
    · go_simp
    rintro eW1 W1 ⟨vW1, rfl, hoW1, hbW1⟩
    obtain ⟨AOAW1, cOAW1, rfl, hcW1, hmW1, hsW1⟩ := hoW1.src
    refine ⟨_, rfl, fun _ => hbW1.mono HBW0.out.size, ?_⟩
    have HBW1 := Lib.hid (HBW0.out.trans (hbW1.mono HBW0.out.size))
    have SA_W1 := Lib.hid (SA_0.out.keep hbW1)
    have SB_W1 := Lib.hid (SB_0.out.keep hbW1)
    have BS_W1 := Lib.hid (BS_0.out.keep hbW1)
    have BP_W1 := Lib.hid (BP_0.out.keep hbW1)
    have OA_W1 := Lib.hid (SL.own hsW1)
    have OAc_W1 := Lib.hid (And.intro hcW1 hmW1)
    clear hbW1 hoW1 hsW1 hcW1 hmW1
    simp only [Act.put, List.setIfInBounds_toArray, List.set_cons_zero, List.set_cons_succ]
    refine eachW [3, 8] (by kernel_rfl) (by simp) (two_ways ?_ ?_)
    · refine wpOp_call (i := 3) (oi := { dst := some 22, op := Op.call { callee := Callee.value (Operand.func 16), args := #[Operand.tmp 21], argTypes := #[30] }, type := 30, pos := "law.go:38", after := #[{ on := 2, ground := Ground.data }, { on := 1, ground := Ground.chain }], guard := none }) rfl (by rfl) ?_ ((own_any lb W1 _ A1 lb.length c1 SB_W1.out (fun b h => h) HLB.out).mono ?_)
      · go_simp
      rintro eW2 W2 ⟨vW2, rfl, hoW2, hbW2⟩
      obtain ⟨AOBW2, cOBW2, rfl, hcW2, hmW2, hsW2⟩ := hoW2.src
      refine ⟨_, rfl, fun _ => hbW2.mono HBW1.out.size, ?_⟩
      have HBW2 := Lib.hid (HBW1.out.trans (hbW2.mono HBW1.out.size))
      have SA_W2 := Lib.hid (SA_W1.out.keep hbW2)
      have SB_W2 := Lib.hid (SB_W1.out.keep hbW2)
      have BS_W2 := Lib.hid (BS_W1.out.keep hbW2)
      have BP_W2 := Lib.hid (BP_W1.out.keep hbW2)
      have OA_W2 := Lib.hid (OA_W1.out.keep hbW2)
      have OB_W2 := Lib.hid (SL.own hsW2)
      have OBc_W2 := Lib.hid (And.intro hcW2 hmW2)
      clear hbW2 hoW2 hsW2 hcW2 hmW2
      simp only [Act.put, List.setIfInBounds_toArray, List.set_cons_zero, List.set_cons_succ]
      refine eachW [4, 8] (by kernel_rfl) (by simp) (two_ways ?_ ?_)
      · refine wpOp_value (i := 4) (oi := { dst := some 23, op := Op.buildSlice 49 2 #[(0, Operand.tmp 20), (1, Operand.tmp 22)], type := 49, pos := "law.go:38", after := #[{ on := 1, ground := Ground.data }, { on := 3, ground := Ground.data }], guard := none }) rfl (by rfl) (exec_build2 W2 (.tmp 20) (.tmp 22) rfl rfl rfl) ⟨fun _ => (below_alloc W2 _).mono HBW2.out.size, ?_⟩
        obtain ⟨W3, hW3, hbW3, hpW3⟩ := mkP2 OA_W2.out OB_W2.out OAc_W1.out OBc_W2.out
        rw [← hW3]
        clear hW3
        have HBW3 := Lib.hid (HBW2.out.trans (hbW3.mono HBW2.out.size))
        have SA_W3 := Lib.hid (SA_W2.out.keep hbW3)
        have SB_W3 := Lib.hid (SB_W2.out.keep hbW3)
        have BS_W3 := Lib.hid (BS_W2.out.keep hbW3)
        have BP_W3 := Lib.hid (BP_W2.out.keep hbW3)
        have OA_W3 := Lib.hid (OA_W2.out.keep hbW3)
        have OB_W3 := Lib.hid (OB_W2.out.keep hbW3)
        have PX_W3 := Lib.hid hpW3
        clear hbW3 hpW3
        simp only [Act.put, List.setIfInBounds_toArray, List.set_cons_zero, List.set_cons_succ]
        refine eachW [5, 8] (by kernel_rfl) (by simp) (two_ways ?_ ?_)
        · refine wpOp_call (i := 5) (oi := { dst := some 24, op := Op.call { callee := Callee.value (Operand.func 9), args := #[Operand.tmp 23], argTypes := #[49] }, type := 22, pos := "law.go:38", after := #[{ on := 4, ground := Ground.data }, { on := 3, ground := Ground.chain }], guard := none }) rfl (by rfl) ?_ ((PX_W3.out.sum512 (la ++ lb) (by simp) HLL.out 2 rfl (by omega)).mono ?_)
          · go_simp
          rintro eW4 W4 ⟨rfl, hbW4⟩
          refine ⟨_, rfl, fun _ => hbW4.mono HBW3.out.size, ?_⟩
          have HBW4 := Lib.hid (HBW3.out.trans (hbW4.mono HBW3.out.size))
          have SA_W4 := Lib.hid (SA_W3.out.keep hbW4)
          have SB_W4 := Lib.hid (SB_W3.out.keep hbW4)
          have BS_W4 := Lib.hid (BS_W3.out.keep hbW4)
          have BP_W4 := Lib.hid (BP_W3.out.keep hbW4)
          have OA_W4 := Lib.hid (OA_W3.out.keep hbW4)
          have OB_W4 := Lib.hid (OB_W3.out.keep hbW4)
          have PX_W4 := Lib.hid (PX_W3.out.keep hbW4)
          clear hbW4
          simp only [Act.put, List.setIfInBounds_toArray, List.set_cons_zero, List.set_cons_succ]
          refine opW _ _ (i := 8) (oi := { dst := some 27, op := Op.buildSlice 49 2 #[(0, Operand.tmp 25), (1, Operand.tmp 26)], type := 49, pos := "law.go:38", after := #[{ on := 6, ground := Ground.data }, { on := 7, ground := Ground.data }], guard := none }) rfl (by kernel_rfl) (by rfl) (exec_build2 W4 (.tmp 25) (.tmp 26) rfl rfl rfl) (fun _ => (below_alloc W4 _).mono HBW4.out.size) ?_
          obtain ⟨W5, hW5, hbW5, hpW5⟩ := mkP2 SA_W4.out SB_W4.out HCA.out HCB.out
          rw [← hW5]
          clear hW5
          have HBW5 := Lib.hid (HBW4.out.trans (hbW5.mono HBW4.out.size))
          have SA_W5 := Lib.hid (SA_W4.out.keep hbW5)
          have SB_W5 := Lib.hid (SB_W4.out.keep hbW5)
          have BS_W5 := Lib.hid (BS_W4.out.keep hbW5)
          have BP_W5 := Lib.hid (BP_W4.out.keep hbW5)
          have OA_W5 := Lib.hid (OA_W4.out.keep hbW5)
          have OB_W5 := Lib.hid (OB_W4.out.keep hbW5)
          have PX_W5 := Lib.hid (PX_W4.out.keep hbW5)
          have PY_W5 := Lib.hid hpW5
          clear hbW5 hpW5
          simp only [Act.put, List.setIfInBounds_toArray, List.set_cons_zero, List.set_cons_succ]
          refine callW (i := 9) (oi := { dst := some 28, op := Op.call { callee := Callee.value (Operand.func 17), args := #[Operand.tmp 27], argTypes := #[49] }, type := 22, pos := "law.go:38", after := #[{ on := 8, ground := Ground.data }, { on := 5, ground := Ground.chain }], guard := none }) rfl (by kernel_rfl) (by rfl) ?_ ((PY_W5.out.rsum512 (la ++ lb) (by simp) HLL.out 2 rfl (by omega)).mono ?_)
          · go_simp
          rintro eW6 W6 ⟨rfl, hbW6⟩
          refine ⟨_, rfl, fun _ => hbW6.mono HBW5.out.size, ?_⟩
          have HBW6 := Lib.hid (HBW5.out.trans (hbW6.mono HBW5.out.size))
          have SA_W6 := Lib.hid (SA_W5.out.keep hbW6)
          have SB_W6 := Lib.hid (SB_W5.out.keep hbW6)
          have BS_W6 := Lib.hid (BS_W5.out.keep hbW6)
          have BP_W6 := Lib.hid (BP_W5.out.keep hbW6)
          have OA_W6 := Lib.hid (OA_W5.out.keep hbW6)
          have OB_W6 := Lib.hid (OB_W5.out.keep hbW6)
          have PX_W6 := Lib.hid (PX_W5.out.keep hbW6)
          have PY_W6 := Lib.hid (PY_W5.out.keep hbW6)
          clear hbW6
          simp only [Act.put, List.setIfInBounds_toArray, List.set_cons_zero, List.set_cons_succ]
          exact calls_key1 w w1 W6 A0 A1 c0 c1 la lb hn0 hn1 HCA.out HCB.out s hs p hp PC S5 S2 KA HK _ HPN.out HQN.out _ _ _ _ _ _ _ _ _ _ _ _ _ _ _ _ _ _ _ _ _ _ _ _ _ _ _ _ _ _ _ _ _ _ _ _ _ _ _ _ _ _ _ _ _ _ _ _ _ _ _ _ _ _ _ _ _ _ _ _ _ _ _ _ _ _ _ _ _ (by kernel_rfl) HBW6 SA_W6 SB_W6 BS_W6 BP_W6
        · refine wpOp_value (i := 8) (oi := { dst := some 27, op := Op.buildSlice 49 2 #[(0, Operand.tmp 25), (1, Operand.tmp 26)], type := 49, pos := "law.go:38", after := #[{ on := 6, ground := Ground.data }, { on := 7, ground := Ground.data }], guard := none }) rfl (by rfl) (exec_build2 W3 (.tmp 25) (.tmp 26) rfl rfl rfl) ⟨fun _ => (below_alloc W3 _).mono HBW3.out.size, ?_⟩
          obtain ⟨W7, hW7, hbW7, hpW7⟩ := mkP2 SA_W3.out SB_W3.out HCA.out HCB.out
          rw [← hW7]
          clear hW7
          have HBW7 := Lib.hid (HBW3.out.trans (hbW7.mono HBW3.out.size))
          have SA_W7 := Lib.hid (SA_W3.out.keep hbW7)
          have SB_W7 := Lib.hid (SB_W3.out.keep hbW7)
          have BS_W7 := Lib.hid (BS_W3.out.keep hbW7)
          have BP_W7 := Lib.hid (BP_W3.out.keep hbW7)
          have OA_W7 := Lib.hid (OA_W3.out.keep hbW7)
          have OB_W7 := Lib.hid (OB_W3.out.keep hbW7)
          have PX_W7 := Lib.hid (PX_W3.out.keep hbW7)
          have PY_W7 := Lib.hid hpW7
          clear hbW7 hpW7
          simp only [Act.put, List.setIfInBounds_toArray, List.set_cons_zero, List.set_cons_succ]
          refine callW (i := 5) (oi := { dst := some 24, op := Op.call { callee := Callee.value (Operand.func 9), args := #[Operand.tmp 23], argTypes := #[49] }, type := 22, pos := "law.go:38", after := #[{ on := 4, ground := Ground.data }, { on := 3, ground := Ground.chain }], guard := none }) rfl (by kernel_rfl) (by rfl) ?_ ((PX_W7.out.sum512 (la ++ lb) (by simp) HLL.out 2 rfl (by omega)).mono ?_)
          · go_simp
          rintro eW8 W8 ⟨rfl, hbW8⟩
          refine ⟨_, rfl, fun _ => hbW8.mono HBW7.out.size, ?_⟩
          have HBW8 := Lib.hid (HBW7.out.trans (hbW8.mono HBW7.out.size))
          have SA_W8 := Lib.hid (SA_W7.out.keep hbW8)
          have SB_W8 := Lib.hid (SB_W7.out.keep hbW8)
          have BS_W8 := Lib.hid (BS_W7.out.keep hbW8)
          have BP_W8 := Lib.hid (BP_W7.out.keep hbW8)
          have OA_W8 := Lib.hid (OA_W7.out.keep hbW8)
          have OB_W8 := Lib.hid (OB_W7.out.keep hbW8)
          have PX_W8 := Lib.hid (PX_W7.out.keep hbW8)
          have PY_W8 := Lib.hid (PY_W7.out.keep hbW8)
          clear hbW8
          simp only [Act.put, List.setIfInBounds_toArray, List.set_cons_zero, List.set_cons_succ]
          refine callW (i := 9) (oi := { dst := some 28, op := Op.call { callee := Callee.value (Operand.func 17), args := #[Operand.tmp 27], argTypes := #[49] }, type := 22, pos := "law.go:38", after := #[{ on := 8, ground := Ground.data }, { on := 5, ground := Ground.chain }], guard := none }) rfl (by kernel_rfl) (by rfl) ?_ ((PY_W8.out.rsum512 (la ++ lb) (by simp) HLL.out 2 rfl (by omega)).mono ?_)
          · go_simp
          rintro eW9 W9 ⟨rfl, hbW9⟩
          refine ⟨_, rfl, fun _ => hbW9.mono HBW8.out.size, ?_⟩
          have HBW9 := Lib.hid (HBW8.out.trans (hbW9.mono HBW8.out.size))
          have SA_W9 := Lib.hid (SA_W8.out.keep hbW9)
          have SB_W9 := Lib.hid (SB_W8.out.keep hbW9)
          have BS_W9 := Lib.hid (BS_W8.out.keep hbW9)
          have BP_W9 := Lib.hid (BP_W8.out.keep hbW9)
          have OA_W9 := Lib.hid (OA_W8.out.keep hbW9)
          have OB_W9 := Lib.hid (OB_W8.out.keep hbW9)
          have PX_W9 := Lib.hid (PX_W8.out.keep hbW9)
          have PY_W9 := Lib.hid (PY_W8.out.keep hbW9)
          clear hbW9
          simp only [Act.put, List.setIfInBounds_toArray, List.set_cons_zero, List.set_cons_succ]
          exact calls_key1 w w1 W9 A0 A1 c0 c1 la lb hn0 hn1 HCA.out HCB.out s hs p hp PC S5 S2 KA HK _ HPN.out HQN.out _ _ _ _ _ _ _ _ _ _ _ _ _ _ _ _ _ _ _ _ _ _ _ _ _ _ _ _ _ _ _ _ _ _ _ _ _ _ _ _ _ _ _ _ _ _ _ _ _ _ _ _ _ _ _ _ _ _ _ _ _ _ _ _ _ _ _ _ _ (by kernel_rfl) HBW9 SA_W9 SB_W9 BS_W9 BP_W9
      · refine wpOp_value (i := 8) (oi := { dst := some 27, op := Op.buildSlice 49 2 #[(0, Operand.tmp 25), (1, Operand.tmp 26)], type := 49, pos := "law.go:38", after := #[{ on := 6, ground := Ground.data }, { on := 7, ground := Ground.data }], guard := none }) rfl (by rfl) (exec_build2 W2 (.tmp 25) (.tmp 26) rfl rfl rfl) ⟨fun _ => (below_alloc W2 _).mono HBW2.out.size, ?_⟩
        obtain ⟨W10, hW10, hbW10, hpW10⟩ := mkP2 SA_W2.out SB_W2.out HCA.out HCB.out
        rw [← hW10]
        clear hW10
        have HBW10 := Lib.hid (HBW2.out.trans (hbW10.mono HBW2.out.size))
        have SA_W10 := Lib.hid (SA_W2.out.keep hbW10)
        have SB_W10 := Lib.hid (SB_W2.out.keep hbW10)
        have BS_W10 := Lib.hid (BS_W2.out.keep hbW10)
        have BP_W10 := Lib.hid (BP_W2.out.keep hbW10)
        have OA_W10 := Lib.hid (OA_W2.out.keep hbW10)
        have OB_W10 := Lib.hid (OB_W2.out.keep hbW10)
        have PY_W10 := Lib.hid hpW10
        clear hbW10 hpW10
        simp only [Act.put, List.setIfInBounds_toArray, List.set_cons_zero, List.set_cons_succ]
        refine opW _ _ (i := 4) (oi := { dst := some 23, op := Op.buildSlice 49 2 #[(0, Operand.tmp 20), (1, Operand.tmp 22)], type := 49, pos := "law.go:38", after := #[{ on := 1, ground := Ground.data }, { on := 3, ground := Ground.data }], guard := none }) rfl (by kernel_rfl) (by rfl) (exec_build2 W10 (.tmp 20) (.tmp 22) rfl rfl rfl) (fun _ => (below_alloc W10 _).mono HBW10.out.size) ?_
        obtain ⟨W11, hW11, hbW11, hpW11⟩ := mkP2 OA_W10.out OB_W10.out OAc_W1.out OBc_W2.out
        rw [← hW11]
        clear hW11
        have HBW11 := Lib.hid (HBW10.out.trans (hbW11.mono HBW10.out.size))
        have SA_W11 := Lib.hid (SA_W10.out.keep hbW11)
        have SB_W11 := Lib.hid (SB_W10.out.keep hbW11)
        have BS_W11 := Lib.hid (BS_W10.out.keep hbW11)
        have BP_W11 := Lib.hid (BP_W10.out.keep hbW11)
        have OA_W11 := Lib.hid (OA_W10.out.keep hbW11)
        have OB_W11 := Lib.hid (OB_W10.out.keep hbW11)
        have PY_W11 := Lib.hid (PY_W10.out.keep hbW11)
        have PX_W11 := Lib.hid hpW11
        clear hbW11 hpW11
        simp only [Act.put, List.setIfInBounds_toArray, List.set_cons_zero, List.set_cons_succ]
        refine callW (i := 5) (oi := { dst := some 24, op := Op.call { callee := Callee.value (Operand.func 9), args := #[Operand.tmp 23], argTypes := #[49] }, type := 22, pos := "law.go:38", after := #[{ on := 4, ground := Ground.data }, { on := 3, ground := Ground.chain }], guard := none }) rfl (by kernel_rfl) (by rfl) ?_ ((PX_W11.out.sum512 (la ++ lb) (by simp) HLL.out 2 rfl (by omega)).mono ?_)
        · go_simp
        rintro eW12 W12 ⟨rfl, hbW12⟩
        refine ⟨_, rfl, fun _ => hbW12.mono HBW11.out.size, ?_⟩
        have HBW12 := Lib.hid (HBW11.out.trans (hbW12.mono HBW11.out.size))
        have SA_W12 := Lib.hid (SA_W11.out.keep hbW12)
        have SB_W12 := Lib.hid (SB_W11.out.keep hbW12)
        have BS_W12 := Lib.hid (BS_W11.out.keep hbW12)
        have BP_W12 := Lib.hid (BP_W11.out.keep hbW12)
        have OA_W12 := Lib.hid (OA_W11.out.keep hbW12)
        have OB_W12 := Lib.hid (OB_W11.out.keep hbW12)
        have PY_W12 := Lib.hid (PY_W11.out.keep hbW12)
        have PX_W12 := Lib.hid (PX_W11.out.keep hbW12)
        clear hbW12
        simp only [Act.put, List.setIfInBounds_toArray, List.set_cons_zero, List.set_cons_succ]
        refine callW (i := 9) (oi := { dst := some 28, op := Op.call { callee := Callee.value (Operand.func 17), args := #[Operand.tmp 27], argTypes := #[49] }, type := 22, pos := "law.go:38", after := #[{ on := 8, ground := Ground.data }, { on := 5, ground := Ground.chain }], guard := none }) rfl (by kernel_rfl) (by rfl) ?_ ((PY_W12.out.rsum512 (la ++ lb) (by simp) HLL.out 2 rfl (by omega)).mono ?_)
        · go_simp
        rintro eW13 W13 ⟨rfl, hbW13⟩
        refine ⟨_, rfl, fun _ => hbW13.mono HBW12.out.size, ?_⟩
        have HBW13 := Lib.hid (HBW12.out.trans (hbW13.mono HBW12.out.size))
        have SA_W13 := Lib.hid (SA_W12.out.keep hbW13)
        have SB_W13 := Lib.hid (SB_W12.out.keep hbW13)
        have BS_W13 := Lib.hid (BS_W12.out.keep hbW13)
        have BP_W13 := Lib.hid (BP_W12.out.keep hbW13)
        have OA_W13 := Lib.hid (OA_W12.out.keep hbW13)
        have OB_W13 := Lib.hid (OB_W12.out.keep hbW13)
        have PY_W13 := Lib.hid (PY_W12.out.keep hbW13)
        have PX_W13 := Lib.hid (PX_W12.out.keep hbW13)
        clear hbW13
        simp only [Act.put, List.setIfInBounds_toArray, List.set_cons_zero, List.set_cons_succ]
        exact calls_key1 w w1 W13 A0 A1 c0 c1 la lb hn0 hn1 HCA.out HCB.out s hs p hp PC S5 S2 KA HK _ HPN.out HQN.out _ _ _ _ _ _ _ _ _ _ _ _ _ _ _ _ _ _ _ _ _ _ _ _ _ _ _ _ _ _ _ _ _ _ _ _ _ _ _ _ _ _ _ _ _ _ _ _ _ _ _ _ _ _ _ _ _ _ _ _ _ _ _ _ _ _ _ _ _ (by kernel_rfl) HBW13 SA_W13 SB_W13 BS_W13 BP_W13
    · refine wpOp_value (i := 8) (oi := { dst := some 27, op := Op.buildSlice 49 2 #[(0, Operand.tmp 25), (1, Operand.tmp 26)], type := 49, pos := "law.go:38", after := #[{ on := 6, ground := Ground.data }, { on := 7, ground := Ground.data }], guard := none }) rfl (by rfl) (exec_build2 W1 (.tmp 25) (.tmp 26) rfl rfl rfl) ⟨fun _ => (below_alloc W1 _).mono HBW1.out.size, ?_⟩
      obtain ⟨W14, hW14, hbW14, hpW14⟩ := mkP2 SA_W1.out SB_W1.out HCA.out HCB.out
      rw [← hW14]
      clear hW14
      have HBW14 := Lib.hid (HBW1.out.trans (hbW14.mono HBW1.out.size))
      have SA_W14 := Lib.hid (SA_W1.out.keep hbW14)
      have SB_W14 := Lib.hid (SB_W1.out.keep hbW14)
      have BS_W14 := Lib.hid (BS_W1.out.keep hbW14)
      have BP_W14 := Lib.hid (BP_W1.out.keep hbW14)
      have OA_W14 := Lib.hid (OA_W1.out.keep hbW14)
      have PY_W14 := Lib.hid hpW14
      clear hbW14 hpW14
      simp only [Act.put, List.setIfInBounds_toArray, List.set_cons_zero, List.set_cons_succ]
      refine callW (i := 3) (oi := { dst := some 22, op := Op.call { callee := Callee.value (Operand.func 16), args := #[Operand.tmp 21], argTypes := #[30] }, type := 30, pos := "law.go:38", after := #[{ on := 2, ground := Ground.data }, { on := 1, ground := Ground.chain }], guard := none }) rfl (by kernel_rfl) (by rfl) ?_ ((own_any lb W14 _ A1 lb.length c1 SB_W14.out (fun b h => h) HLB.out).mono ?_)
      · go_simp
      rintro eW15 W15 ⟨vW15, rfl, hoW15, hbW15⟩
      obtain ⟨AOBW15, cOBW15, rfl, hcW15, hmW15, hsW15⟩ := hoW15.src
      refine ⟨_, rfl, fun _ => hbW15.mono HBW14.out.size, ?_⟩
      have HBW15 := Lib.hid (HBW14.out.trans (hbW15.mono HBW14.out.size))
      have SA_W15 := Lib.hid (SA_W14.out.keep hbW15)
      have SB_W15 := Lib.hid (SB_W14.out.keep hbW15)
      have BS_W15 := Lib.hid (BS_W14.out.keep hbW15)
      have BP_W15 := Lib.hid (BP_W14.out.keep hbW15)
      have OA_W15 := Lib.hid (OA_W14.out.keep hbW15)
      have PY_W15 := Lib.hid (PY_W14.out.keep hbW15)
      have OB_W15 := Lib.hid (SL.own hsW15)
      have OBc_W15 := Lib.hid (And.intro hcW15 hmW15)
      clear hbW15 hoW15 hsW15 hcW15 hmW15
      simp only [Act.put, List.setIfInBounds_toArray, List.set_cons_zero, List.set_cons_succ]
      refine opW _ _ (i := 4) (oi := { dst := some 23, op := Op.buildSlice 49 2 #[(0, Operand.tmp 20), (1, Operand.tmp 22)], type := 49, pos := "law.go:38", after := #[{ on := 1, ground := Ground.data }, { on := 3, ground := Ground.data }], guard := none }) rfl (by kernel_rfl) (by rfl) (exec_build2 W15 (.tmp 20) (.tmp 22) rfl rfl rfl) (fun _ => (below_alloc W15 _).mono HBW15.out.size) ?_
      obtain ⟨W16, hW16, hbW16, hpW16⟩ := mkP2 OA_W15.out OB_W15.out OAc_W1.out OBc_W15.out
      rw [← hW16]
      clear hW16
      have HBW16 := Lib.hid (HBW15.out.trans (hbW16.mono HBW15.out.size))
      have SA_W16 := Lib.hid (SA_W15.out.keep hbW16)
      have SB_W16 := Lib.hid (SB_W15.out.keep hbW16)
      have BS_W16 := Lib.hid (BS_W15.out.keep hbW16)
      have BP_W16 := Lib.hid (BP_W15.out.keep hbW16)
      have OA_W16 := Lib.hid (OA_W15.out.keep hbW16)
      have PY_W16 := Lib.hid (PY_W15.out.keep hbW16)
      have OB_W16 := Lib.hid (OB_W15.out.keep hbW16)
      have PX_W16 := Lib.hid hpW16
      clear hbW16 hpW16
      simp only [Act.put, List.setIfInBounds_toArray, List.set_cons_zero, List.set_cons_succ]
      refine callW (i := 5) (oi := { dst := some 24, op := Op.call { callee := Callee.value (Operand.func 9), args := #[Operand.tmp 23], argTypes := #[49] }, type := 22, pos := "law.go:38", after := #[{ on := 4, ground := Ground.data }, { on := 3, ground := Ground.chain }], guard := none }) rfl (by kernel_rfl) (by rfl) ?_ ((PX_W16.out.sum512 (la ++ lb) (by simp) HLL.out 2 rfl (by omega)).mono ?_)
      · go_simp
      rintro eW17 W17 ⟨rfl, hbW17⟩
      refine ⟨_, rfl, fun _ => hbW17.mono HBW16.out.size, ?_⟩
      have HBW17 := Lib.hid (HBW16.out.trans (hbW17.mono HBW16.out.size))
      have SA_W17 := Lib.hid (SA_W16.out.keep hbW17)
      have SB_W17 := Lib.hid (SB_W16.out.keep hbW17)
      have BS_W17 := Lib.hid (BS_W16.out.keep hbW17)
      have BP_W17 := Lib.hid (BP_W16.out.keep hbW17)
      have OA_W17 := Lib.hid (OA_W16.out.keep hbW17)
      have PY_W17 := Lib.hid (PY_W16.out.keep hbW17)
      have OB_W17 := Lib.hid (OB_W16.out.keep hbW17)
      have PX_W17 := Lib.hid (PX_W16.out.keep hbW17)
      clear hbW17
      simp only [Act.put, List.setIfInBounds_toArray, List.set_cons_zero, List.set_cons_succ]
      refine callW (i := 9) (oi := { dst := some 28, op := Op.call { callee := Callee.value (Operand.func 17), args := #[Operand.tmp 27], argTypes := #[49] }, type := 22, pos := "law.go:38", after := #[{ on := 8, ground := Ground.data }, { on := 5, ground := Ground.chain }], guard := none }) rfl (by kernel_rfl) (by rfl) ?_ ((PY_W17.out.rsum512 (la ++ lb) (by simp) HLL.out 2 rfl (by omega)).mono ?_)
      · go_simp
      rintro eW18 W18 ⟨rfl, hbW18⟩
      refine ⟨_, rfl, fun _ => hbW18.mono HBW17.out.size, ?_⟩
      have HBW18 := Lib.hid (HBW17.out.trans (hbW18.mono HBW17.out.size))
      have SA_W18 := Lib.hid (SA_W17.out.keep hbW18)
      have SB_W18 := Lib.hid (SB_W17.out.keep hbW18)
      have BS_W18 := Lib.hid (BS_W17.out.keep hbW18)
      have BP_W18 := Lib.hid (BP_W17.out.keep hbW18)
      have OA_W18 := Lib.hid (OA_W17.out.keep hbW18)
      have PY_W18 := Lib.hid (PY_W17.out.keep hbW18)
      have OB_W18 := Lib.hid (OB_W17.out.keep hbW18)
      have PX_W18 := Lib.hid (PX_W17.out.keep hbW18)
      clear hbW18
      simp only [Act.put, List.setIfInBounds_toArray, List.set_cons_zero, List.set_cons_succ]
      exact calls_key1 w w1 W18 A0 A1 c0 c1 la lb hn0 hn1 HCA.out HCB.out s hs p hp PC S5 S2 KA HK _ HPN.out HQN.out _ _ _ _ _ _ _ _ _ _ _ _ _ _ _ _ _ _ _ _ _ _ _ _ _ _ _ _ _ _ _ _ _ _ _ _ _ _ _ _ _ _ _ _ _ _ _ _ _ _ _ _ _ _ _ _ _ _ _ _ _ _ _ _ _ _ _ _ _ (by kernel_rfl) HBW18 SA_W18 SB_W18 BS_W18 BP_W18
  · refine wpOp_value (i := 8) (oi := { dst := some 27, op := Op.buildSlice 49 2 #[(0, Operand.tmp 25), (1, Operand.tmp 26)], type := 49, pos := "law.go:38", after := #[{ on := 6, ground := Ground.data }, { on := 7, ground := Ground.data }], guard := none }) rfl (by rfl) (exec_build2 W0 (.tmp 25) (.tmp 26) rfl rfl rfl) ⟨fun _ => (below_alloc W0 _).mono HBW0.out.size, ?_⟩
    obtain ⟨W19, hW19, hbW19, hpW19⟩ := mkP2 SA_0.out SB_0.out HCA.out HCB.out
    rw [← hW19]
    clear hW19
    have HBW19 := Lib.hid (HBW0.out.trans (hbW19.mono HBW0.out.size))
    have SA_W19 := Lib.hid (SA_0.out.keep hbW19)
    have SB_W19 := Lib.hid (SB_0.out.keep hbW19)
    have BS_W19 := Lib.hid (BS_0.out.keep hbW19)
    have BP_W19 := Lib.hid (BP_0.out.keep hbW19)
    have PY_W19 := Lib.hid hpW19
    clear hbW19 hpW19
    simp only [Act.put, List.setIfInBounds_toArray, List.set_cons_zero, List.set_cons_succ]
    refine callW (i := 1) (oi := { dst := some 20, op := Op.call { callee := Callee.value (Operand.func 16), args := #[Operand.tmp 19], argTypes := #[30] }, type := 30, pos := "law.go:38", after := #[{ on := 0, ground := Ground.data }], guard := none }) rfl (by kernel_rfl) (by rfl) ?_ ((own_any la W19 _ A0 la.length c0 SA_W19.out (fun b h => h) HLA.out).mono ?_)
    · go_simp
    rintro eW20 W20 ⟨vW20, rfl, hoW20, hbW20⟩
    obtain ⟨AOAW20, cOAW20, rfl, hcW20, hmW20, hsW20⟩ := hoW20.src
    refine ⟨_, rfl, fun _ => hbW20.mono HBW19.out.size, ?_⟩
    have HBW20 := Lib.hid (HBW19.out.trans (hbW20.mono HBW19.out.size))
    have SA_W20 := Lib.hid (SA_W19.out.keep hbW20)
    have SB_W20 := Lib.hid (SB_W19.out.keep hbW20)
    have BS_W20 := Lib.hid (BS_W19.out.keep hbW20)
    have BP_W20 := Lib.hid (BP_W19.out.keep hbW20)
    have PY_W20 := Lib.hid (PY_W19.out.keep hbW20)
    have OA_W20 := Lib.hid (SL.own hsW20)
    have OAc_W20 := Lib.hid (And.intro hcW20 hmW20)
    clear hbW20 hoW20 hsW20 hcW20 hmW20
    simp only [Act.put, List.setIfInBounds_toArray, List.set_cons_zero, List.set_cons_succ]
    refine callW (i := 3) (oi := { dst := some 22, op := Op.call { callee := Callee.value (Operand.func 16), args := #[Operand.tmp 21], argTypes := #[30] }, type := 30, pos := "law.go:38", after := #[{ on := 2, ground := Ground.data }, { on := 1, ground := Ground.chain }], guard := none }) rfl (by kernel_rfl) (by rfl) ?_ ((own_any lb W20 _ A1 lb.length c1 SB_W20.out (fun b h => h) HLB.out).mono ?_)
    · go_simp
    rintro eW21 W21 ⟨vW21, rfl, hoW21, hbW21⟩
    obtain ⟨AOBW21, cOBW21, rfl, hcW21, hmW21, hsW21⟩ := hoW21.src
    refine ⟨_, rfl, fun _ => hbW21.mono HBW20.out.size, ?_⟩
    have HBW21 := Lib.hid (HBW20.out.trans (hbW21.mono HBW20.out.size))
    have SA_W21 := Lib.hid (SA_W20.out.keep hbW21)
    have SB_W21 := Lib.hid (SB_W20.out.keep hbW21)
    have BS_W21 := Lib.hid (BS_W20.out.keep hbW21)
    have BP_W21 := Lib.hid (BP_W20.out.keep hbW21)
    have PY_W21 := Lib.hid (PY_W20.out.keep hbW21)
    have OA_W21 := Lib.hid (OA_W20.out.keep hbW21)
    have OB_W21 := Lib.hid (SL.own hsW21)
    have OBc_W21 := Lib.hid (And.intro hcW21 hmW21)
    clear hbW21 hoW21 hsW21 hcW21 hmW21
    simp only [Act.put, List.setIfInBounds_toArray, List.set_cons_zero, List.set_cons_succ]
    refine opW _ _ (i := 4) (oi := { dst := some 23, op := Op.buildSlice 49 2 #[(0, Operand.tmp 20), (1, Operand.tmp 22)], type := 49, pos := "law.go:38", after := #[{ on := 1, ground := Ground.data }, { on := 3, ground := Ground.data }], guard := none }) rfl (by kernel_rfl) (by rfl) (exec_build2 W21 (.tmp 20) (.tmp 22) rfl rfl rfl) (fun _ => (below_alloc W21 _).mono HBW21.out.size) ?_
    obtain ⟨W22, hW22, hbW22, hpW22⟩ := mkP2 OA_W21.out OB_W21.out OAc_W20.out OBc_W21.out
    rw [← hW22]
    clear hW22
    have HBW22 := Lib.hid (HBW21.out.trans (hbW22.mono HBW21.out.size))
    have SA_W22 := Lib.hid (SA_W21.out.keep hbW22)
    have SB_W22 := Lib.hid (SB_W21.out.keep hbW22)
    have BS_W22 := Lib.hid (BS_W21.out.keep hbW22)
    have BP_W22 := Lib.hid (BP_W21.out.keep hbW22)
    have PY_W22 := Lib.hid (PY_W21.out.keep hbW22)
    have OA_W22 := Lib.hid (OA_W21.out.keep hbW22)
    have OB_W22 := Lib.hid (OB_W21.out.keep hbW22)
    have PX_W22 := Lib.hid hpW22
    clear hbW22 hpW22
    simp only [Act.put, List.setIfInBounds_toArray, List.set_cons_zero, List.set_cons_succ]
    refine callW (i := 5) (oi := { dst := some 24, op := Op.call { callee := Callee.value (Operand.func 9), args := #[Operand.tmp 23], argTypes := #[49] }, type := 22, pos := "law.go:38", after := #[{ on := 4, ground := Ground.data }, { on := 3, ground := Ground.chain }], guard := none }) rfl (by kernel_rfl) (by rfl) ?_ ((PX_W22.out.sum512 (la ++ lb) (by simp) HLL.out 2 rfl (by omega)).mono ?_)
    · go_simp
    rintro eW23 W23 ⟨rfl, hbW23⟩
    refine ⟨_, rfl, fun _ => hbW23.mono HBW22.out.size, ?_⟩
    have HBW23 := Lib.hid (HBW22.out.trans (hbW23.mono HBW22.out.size))
    have SA_W23 := Lib.hid (SA_W22.out.keep hbW23)
    have SB_W23 := Lib.hid (SB_W22.out.keep hbW23)
    have BS_W23 := Lib.hid (BS_W22.out.keep hbW23)
    have BP_W23 := Lib.hid (BP_W22.out.keep hbW23)
    have PY_W23 := Lib.hid (PY_W22.out.keep hbW23)
    have OA_W23 := Lib.hid (OA_W22.out.keep hbW23)
    have OB_W23 := Lib.hid (OB_W22.out.keep hbW23)
    have PX_W23 := Lib.hid (PX_W22.out.keep hbW23)
    clear hbW23
    simp only [Act.put, List.setIfInBounds_toArray, List.set_cons_zero, List.set_cons_succ]
    refine callW (i := 9) (oi := { dst := some 28, op := Op.call { callee := Callee.value (Operand.func 17), args := #[Operand.tmp 27], argTypes := #[49] }, type := 22, pos := "law.go:38", after := #[{ on := 8, ground := Ground.data }, { on := 5, ground := Ground.chain }], guard := none }) rfl (by kernel_rfl) (by rfl) ?_ ((PY_W23.out.rsum512 (la ++ lb) (by simp) HLL.out 2 rfl (by omega)).mono ?_)
    · go_simp
    rintro eW24 W24 ⟨rfl, hbW24⟩
    refine ⟨_, rfl, fun _ => hbW24.mono HBW23.out.size, ?_⟩
    have HBW24 := Lib.hid (HBW23.out.trans (hbW24.mono HBW23.out.size))
    have SA_W24 := Lib.hid (SA_W23.out.keep hbW24)
    have SB_W24 := Lib.hid (SB_W23.out.keep hbW24)
    have BS_W24 := Lib.hid (BS_W23.out.keep hbW24)
    have BP_W24 := Lib.hid (BP_W23.out.keep hbW24)
    have PY_W24 := Lib.hid (PY_W23.out.keep hbW24)
    have OA_W24 := Lib.hid (OA_W23.out.keep hbW24)
    have OB_W24 := Lib.hid (OB_W23.out.keep hbW24)
    have PX_W24 := Lib.hid (PX_W23.out.keep hbW24)
    clear hbW24
    simp only [Act.put, List.setIfInBounds_toArray, List.set_cons_zero, List.set_cons_succ]
    exact calls_key1 w w1 W24 A0 A1 c0 c1 la lb hn0 hn1 HCA.out HCB.out s hs p hp PC S5 S2 KA HK _ HPN.out HQN.out _ _ _ _ _ _ _ _ _ _ _ _ _ _ _ _ _ _ _ _ _ _ _ _ _ _ _ _ _ _ _ _ _ _ _ _ _ _ _ _ _ _ _ _ _ _ _ _ _ _ _ _ _ _ _ _ _ _ _ _ _ _ _ _ _ _ _ _ _ (by kernel_rfl) HBW24 SA_W24 SB_W24 BS_W24 BP_W24
end Go.Proofs.Ytphalfpmgbmcaaa
