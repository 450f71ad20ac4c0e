/- The law of calls, the middle. No statement is proved here. -/
import Derived.Test.YtphalfpmgbmcaaaCM
namespace Go.Proofs.Ytphalfpmgbmcaaa
open Go.RowKit
set_option linter.unusedVariables false
set_option linter.unusedSimpArgs false

set_option maxRecDepth 100000 in
set_option maxHeartbeats 8000000 in
theorem calls_key1 (w w1 W0 : World) (A0 A1 : Option Addr) (c0 c1 : Nat) (la lb : List UInt8) (hn0 : la.length ≤ 2000) (hn1 : lb.length ≤ 2000) (hc0 : la.length ≤ c0 ∧ c0 ≤ maxLen) (hc1 : lb.length ≤ c1 ∧ c1 ≤ maxLen) (s : St) (hs : s.Fits) (p : List UInt8) (hp : p.length = 128) (PC S5 S2 : St) (KA : Array Value) (HK : Hid (Kc s p PC S5 S2 KA)) (Q : Exit → Act → World → Prop) (hP : ∀ i v c a w, Q (.panic c) (Act.put a i v) w → Q (.panic c) a w) (hQ : ∀ (u0 u1 u2 u3 u4 u5 u6 u7 u9 u10 u11 u12 u13 u14 u15 u16 u17 u18 u19 u20 u21 u22 u23 u24 u25 u26 u27 u28 u29 u30 u31 u32 u33 u34 u35 u36 u37 u38 u39 u40 u41 u42 u43 u44 u45 u46 u47 u48 u49 u50 u51 u52 u53 u54 u55 u56 u57 u58 u59 u60 u61 u62 u63 u64 u65 u66 u67 u68 u69 u70 u71 u72 u73 : Value) (W : World), Below w1.heap.size w1 W → Q .normal ⟨#[u0, u1, u2, u3, u4, u5, u6, u7, .bool true, u9, u10, u11, u12, u13, u14, u15, u16, u17, u18, u19, u20, u21, u22, u23, u24, u25, u26, u27, u28, u29, u30, u31, u32, u33, u34, u35, u36, u37, u38, u39, u40, u41, u42, u43, u44, u45, u46, u47, u48, u49, u50, u51, u52, u53, u54, u55, u56, u57, u58, u59, u60, u61, u62, u63, u64, u65, u66, u67, u68, u69, u70, u71, u72, u73], []⟩ W) (v2 v3 v4 v5 v8 v9 v10 v11 v12 v13 v14 v15 v16 v17 v18 v19 v20 v21 v22 v23 v25 v26 v27 v29 v30 v31 v32 v33 v34 v35 v36 v37 v38 v39 v40 v41 v42 v43 v44 v45 v46 v47 v48 v49 v50 v51 v52 v53 v54 v55 v56 v57 v58 v59 v60 v61 v62 v63 v64 v65 v66 v67 v68 v69 v70 v71 v72 v73 : Value) (L : Array Bool) (hL : L = (((((((((((Array.replicate 56 false).setIfInBounds 0 true).setIfInBounds 2 true).setIfInBounds 6 true).setIfInBounds 7 true).setIfInBounds 1 true).setIfInBounds 3 true).setIfInBounds 4 true).setIfInBounds 5 true).setIfInBounds 8 true).setIfInBounds 9 true)) (HBW0 : Hid (Below w1.heap.size w1 W0)) (SA_0 : Hid (SL W0 A0 la.length la)) (SB_0 : Hid (SL W0 A1 lb.length lb)) (BS_0 : Hid (BX W0 w.heap.size (ucs s.words) 27)) (BP_0 : Hid (BX W0 (w.heap.size + 1) (bcs p) 33)) :
    wpAnyW Try.prog .any ops4 Q (fun _ => false) w1.heap.size 46 L ⟨#[.slice A0 la.length c0, .slice A1 lb.length c1, v2, v3, v4, v5, .pointer (some ⟨w.heap.size, 0, none⟩), .pointer (some ⟨w.heap.size + 1, 0, none⟩), v8, v9, v10, v11, v12, v13, v14, v15, v16, v17, v18, v19, v20, v21, v22, v23, .agg (bcs (sum512 (la ++ lb))).toArray, v25, v26, v27, .agg (bcs (sum512 (la ++ lb))).toArray, v29, v30, v31, v32, v33, v34, v35, v36, v37, v38, v39, v40, v41, v42, v43, v44, v45, v46, v47, v48, v49, v50, v51, v52, v53, v54, v55, v56, v57, v58, v59, v60, v61, v62, v63, v64, v65, v66, v67, v68, v69, v70, v71, v72, v73], []⟩ W0 := by
  have HLA := Lib.hid (show la.length ≤ 1000000000 by omega)
  have HLB := Lib.hid (show lb.length ≤ 1000000000 by omega)
  have HLL := Lib.hid (show (la ++ lb).length ≤ 1000000000 by rw [List.length_append]; omega)
  have HCA := Lib.hid hc0
  have HCB := Lib.hid hc1
  have HPL := Lib.hid hp
  have E22 := Lib.hid (eq22 (sum512 (la ++ lb)) (sum512_len _))
  have E35 := Lib.hid (eq35 (sum256 la) (sum256_len la))
  have HPN := Lib.hid hP
  have HQN := Lib.hid hQ
  clear hP hQ hc0 hc1
  subst hL
  refine takeAE (i := 10) (oi := { dst := some 29, op := Op.binOp BinOp.eql 22 (Operand.tmp 24) (Operand.tmp 28) 22, type := 4, pos := "law.go:38", after := #[{ on := 5, ground := Ground.data }, { on := 9, ground := Ground.data }], guard := none }) rfl (by kernel_rfl) (by kernel_rfl) (by kernel_rfl) (fun v => HPN.out _ v) (by rfl) ?_
  apply Exists.intro
  refine ⟨fun w' => ?_, ?_⟩
  · have e := E22.out w'; go_simp <;> with_reducible rfl
  simp only [Act.put, List.setIfInBounds_toArray, List.set_cons_zero, List.set_cons_succ]
  refine takeAE (i := 11) (oi := { dst := some 30, op := Op.move (Operand.tmp 29), type := 4, pos := "law.go:38", after := #[{ on := 10, ground := Ground.data }, { on := 9, ground := Ground.chain }], guard := none }) rfl (by kernel_rfl) (by kernel_rfl) (by kernel_rfl) (fun v => HPN.out _ v) (by rfl) ?_
  apply Exists.intro
  refine ⟨fun w' => ?_, ?_⟩
  · go_simp <;> with_reducible rfl
  simp only [Act.put, List.setIfInBounds_toArray, List.set_cons_zero, List.set_cons_succ]
  refine takeAE (i := 12) (oi := { dst := some 31, op := Op.move (Operand.tmp 0), type := 30, pos := "law.go:38", after := #[{ on := 11, ground := Ground.guard }], guard := some (11, true) }) rfl (by kernel_rfl) (by kernel_rfl) (by kernel_rfl) (fun v => HPN.out _ v) (by rfl) ?_
  apply Exists.intro
  refine ⟨fun w' => ?_, ?_⟩
  · go_simp <;> with_reducible rfl
  simp only [Act.put, List.setIfInBounds_toArray, List.set_cons_zero, List.set_cons_succ]
  refine takeAE (i := 16) (oi := { dst := some 35, op := Op.move (Operand.tmp 0), type := 30, pos := "law.go:38", after := #[{ on := 11, ground := Ground.guard }], guard := some (11, true) }) rfl (by kernel_rfl) (by kernel_rfl) (by kernel_rfl) (fun v => HPN.out _ v) (by rfl) ?_
  apply Exists.intro
  refine ⟨fun w' => ?_, ?_⟩
  · go_simp <;> with_reducible rfl
  simp only [Act.put, List.setIfInBounds_toArray, List.set_cons_zero, List.set_cons_succ]
  refine eachW [13, 17] (by kernel_rfl) (by simp) (two_ways ?_ ?_)
  · refine wpOp_call (i := 13) (oi := { dst := some 32, op := Op.call { callee := Callee.value (Operand.func 16), args := #[Operand.tmp 31], argTypes := #[30] }, type := 30, pos := "law.go:38", after := #[{ on := 12, ground := Ground.data }, { on := 11, ground := Ground.chain }, { on := 11, ground := Ground.guard }], guard := some (11, true) }) rfl (by rfl) ?_ ((own_any la W0 _ A0 la.length c0 SA_0.out (fun b h => h) HLA.out).mono ?_)
    · go_simp
    rintro eW201 W201 ⟨vW201, rfl, hoW201, hbW201⟩
    obtain ⟨AOAW201, cOAW201, rfl, hcW201, hmW201, hsW201⟩ := hoW201.src
    refine ⟨_, rfl, fun _ => hbW201.mono HBW0.out.size, ?_⟩
    have HBW201 := Lib.hid (HBW0.out.trans (hbW201.mono HBW0.out.size))
    have SA_W201 := Lib.hid (SA_0.out.keep hbW201)
    have SB_W201 := Lib.hid (SB_0.out.keep hbW201)
    have BS_W201 := Lib.hid (BS_0.out.keep hbW201)
    have BP_W201 := Lib.hid (BP_0.out.keep hbW201)
    have OA_W201 := Lib.hid (SL.own hsW201)
    have OAc_W201 := Lib.hid (And.intro hcW201 hmW201)
    clear hbW201 hoW201 hsW201 hcW201 hmW201
    simp only [Act.put, List.setIfInBounds_toArray, List.set_cons_zero, List.set_cons_succ]
    refine eachW [14, 17] (by kernel_rfl) (by simp) (two_ways ?_ ?_)
    · refine wpOp_value (i := 14) (oi := { dst := some 33, op := Op.buildSlice 49 1 #[(0, Operand.tmp 32)], type := 49, pos := "law.go:38", after := #[{ on := 13, ground := Ground.data }, { on := 11, ground := Ground.guard }], guard := some (11, true) }) rfl (by rfl) (exec_build1 W201 (.tmp 32) rfl rfl) ⟨fun _ => (below_alloc W201 _).mono HBW201.out.size, ?_⟩
      obtain ⟨W202, hW202, hbW202, hpW202⟩ := mkP1 OA_W201.out OAc_W201.out
      rw [← hW202]
      clear hW202
      have HBW202 := Lib.hid (HBW201.out.trans (hbW202.mono HBW201.out.size))
      have SA_W202 := Lib.hid (SA_W201.out.keep hbW202)
      have SB_W202 := Lib.hid (SB_W201.out.keep hbW202)
      have BS_W202 := Lib.hid (BS_W201.out.keep hbW202)
      have BP_W202 := Lib.hid (BP_W201.out.keep hbW202)
      have OA_W202 := Lib.hid (OA_W201.out.keep hbW202)
      have PX_W202 := Lib.hid hpW202
      clear hbW202 hpW202
      simp only [Act.put, List.setIfInBounds_toArray, List.set_cons_zero, List.set_cons_succ]
      refine eachW [15, 17] (by kernel_rfl) (by simp) (two_ways ?_ ?_)
      · refine wpOp_call (i := 15) (oi := { dst := some 34, op := Op.call { callee := Callee.value (Operand.func 18), args := #[Operand.tmp 33], argTypes := #[49] }, type := 35, pos := "law.go:38", after := #[{ on := 14, ground := Ground.data }, { on := 13, ground := Ground.chain }, { on := 11, ground := Ground.guard }], guard := some (11, true) }) rfl (by rfl) ?_ ((PX_W202.out.sum256 la (by simp) HLA.out 1 rfl (by omega)).mono ?_)
        · go_simp
        rintro eW203 W203 ⟨rfl, hbW203⟩
        refine ⟨_, rfl, fun _ => hbW203.mono HBW202.out.size, ?_⟩
        have HBW203 := Lib.hid (HBW202.out.trans (hbW203.mono HBW202.out.size))
        have SA_W203 := Lib.hid (SA_W202.out.keep hbW203)
        have SB_W203 := Lib.hid (SB_W202.out.keep hbW203)
        have BS_W203 := Lib.hid (BS_W202.out.keep hbW203)
        have BP_W203 := Lib.hid (BP_W202.out.keep hbW203)
        have OA_W203 := Lib.hid (OA_W202.out.keep hbW203)
        have PX_W203 := Lib.hid (PX_W202.out.keep hbW203)
        clear hbW203
        simp only [Act.put, List.setIfInBounds_toArray, List.set_cons_zero, List.set_cons_succ]
        refine opW _ _ (i := 17) (oi := { dst := some 36, op := Op.buildSlice 49 1 #[(0, Operand.tmp 35)], type := 49, pos := "law.go:38", after := #[{ on := 16, ground := Ground.data }, { on := 11, ground := Ground.guard }], guard := some (11, true) }) rfl (by kernel_rfl) (by rfl) (exec_build1 W203 (.tmp 35) rfl rfl) (fun _ => (below_alloc W203 _).mono HBW203.out.size) ?_
        obtain ⟨W204, hW204, hbW204, hpW204⟩ := mkP1 SA_W203.out HCA.out
        rw [← hW204]
        clear hW204
        have HBW204 := Lib.hid (HBW203.out.trans (hbW204.mono HBW203.out.size))
        have SA_W204 := Lib.hid (SA_W203.out.keep hbW204)
        have SB_W204 := Lib.hid (SB_W203.out.keep hbW204)
        have BS_W204 := Lib.hid (BS_W203.out.keep hbW204)
        have BP_W204 := Lib.hid (BP_W203.out.keep hbW204)
        have OA_W204 := Lib.hid (OA_W203.out.keep hbW204)
        have PX_W204 := Lib.hid (PX_W203.out.keep hbW204)
        have PY_W204 := Lib.hid hpW204
        clear hbW204 hpW204
        simp only [Act.put, List.setIfInBounds_toArray, List.set_cons_zero, List.set_cons_succ]
        refine callW (i := 18) (oi := { dst := some 37, op := Op.call { callee := Callee.value (Operand.func 19), args := #[Operand.tmp 36], argTypes := #[49] }, type := 35, pos := "law.go:38", after := #[{ on := 17, ground := Ground.data }, { on := 15, ground := Ground.chain }, { on := 11, ground := Ground.guard }], guard := some (11, true) }) rfl (by kernel_rfl) (by rfl) ?_ ((PY_W204.out.rsum256 la (by simp) HLA.out 1 rfl (by omega)).mono ?_)
        · go_simp
        rintro eW205 W205 ⟨rfl, hbW205⟩
        refine ⟨_, rfl, fun _ => hbW205.mono HBW204.out.size, ?_⟩
        have HBW205 := Lib.hid (HBW204.out.trans (hbW205.mono HBW204.out.size))
        have SA_W205 := Lib.hid (SA_W204.out.keep hbW205)
        have SB_W205 := Lib.hid (SB_W204.out.keep hbW205)
        have BS_W205 := Lib.hid (BS_W204.out.keep hbW205)
        have BP_W205 := Lib.hid (BP_W204.out.keep hbW205)
        have OA_W205 := Lib.hid (OA_W204.out.keep hbW205)
        have PX_W205 := Lib.hid (PX_W204.out.keep hbW205)
        have PY_W205 := Lib.hid (PY_W204.out.keep hbW205)
        clear hbW205
        simp only [Act.put, List.setIfInBounds_toArray, List.set_cons_zero, List.set_cons_succ]
        exact calls_key2 w w1 W205 A0 A1 c0 c1 la lb hn0 hn1 HCA.out HCB.out s hs p hp PC S5 S2 KA HK Q HPN.out HQN.out _ _ _ _ _ _ _ _ _ _ _ _ _ _ _ _ _ _ _ _ _ _ _ _ _ _ _ _ _ _ _ _ _ _ _ _ _ _ _ _ _ _ _ _ _ _ _ _ _ _ _ _ _ _ _ _ _ _ _ _ _ _ _ _ _ _ _ _ (by kernel_rfl) HBW205 SA_W205 SB_W205 BS_W205 BP_W205
      · refine wpOp_value (i := 17) (oi := { dst := some 36, op := Op.buildSlice 49 1 #[(0, Operand.tmp 35)], type := 49, pos := "law.go:38", after := #[{ on := 16, ground := Ground.data }, { on := 11, ground := Ground.guard }], guard := some (11, true) }) rfl (by rfl) (exec_build1 W202 (.tmp 35) rfl rfl) ⟨fun _ => (below_alloc W202 _).mono HBW202.out.size, ?_⟩
        obtain ⟨W206, hW206, hbW206, hpW206⟩ := mkP1 SA_W202.out HCA.out
        rw [← hW206]
        clear hW206
        have HBW206 := Lib.hid (HBW202.out.trans (hbW206.mono HBW202.out.size))
        have SA_W206 := Lib.hid (SA_W202.out.keep hbW206)
        have SB_W206 := Lib.hid (SB_W202.out.keep hbW206)
        have BS_W206 := Lib.hid (BS_W202.out.keep hbW206)
        have BP_W206 := Lib.hid (BP_W202.out.keep hbW206)
        have OA_W206 := Lib.hid (OA_W202.out.keep hbW206)
        have PX_W206 := Lib.hid (PX_W202.out.keep hbW206)
        have PY_W206 := Lib.hid hpW206
        clear hbW206 hpW206
        simp only [Act.put, List.setIfInBounds_toArray, List.set_cons_zero, List.set_cons_succ]
        refine callW (i := 15) (oi := { dst := some 34, op := Op.call { callee := Callee.value (Operand.func 18), args := #[Operand.tmp 33], argTypes := #[49] }, type := 35, pos := "law.go:38", after := #[{ on := 14, ground := Ground.data }, { on := 13, ground := Ground.chain }, { on := 11, ground := Ground.guard }], guard := some (11, true) }) rfl (by kernel_rfl) (by rfl) ?_ ((PX_W206.out.sum256 la (by simp) HLA.out 1 rfl (by omega)).mono ?_)
        · go_simp
        rintro eW207 W207 ⟨rfl, hbW207⟩
        refine ⟨_, rfl, fun _ => hbW207.mono HBW206.out.size, ?_⟩
        have HBW207 := Lib.hid (HBW206.out.trans (hbW207.mono HBW206.out.size))
        have SA_W207 := Lib.hid (SA_W206.out.keep hbW207)
        have SB_W207 := Lib.hid (SB_W206.out.keep hbW207)
        have BS_W207 := Lib.hid (BS_W206.out.keep hbW207)
        have BP_W207 := Lib.hid (BP_W206.out.keep hbW207)
        have OA_W207 := Lib.hid (OA_W206.out.keep hbW207)
        have PX_W207 := Lib.hid (PX_W206.out.keep hbW207)
        have PY_W207 := Lib.hid (PY_W206.out.keep hbW207)
        clear hbW207
        simp only [Act.put, List.setIfInBounds_toArray, List.set_cons_zero, List.set_cons_succ]
        refine callW (i := 18) (oi := { dst := some 37, op := Op.call { callee := Callee.value (Operand.func 19), args := #[Operand.tmp 36], argTypes := #[49] }, type := 35, pos := "law.go:38", after := #[{ on := 17, ground := Ground.data }, { on := 15, ground := Ground.chain }, { on := 11, ground := Ground.guard }], guard := some (11, true) }) rfl (by kernel_rfl) (by rfl) ?_ ((PY_W207.out.rsum256 la (by simp) HLA.out 1 rfl (by omega)).mono ?_)
        · go_simp
        rintro eW208 W208 ⟨rfl, hbW208⟩
        refine ⟨_, rfl, fun _ => hbW208.mono HBW207.out.size, ?_⟩
        have HBW208 := Lib.hid (HBW207.out.trans (hbW208.mono HBW207.out.size))
        have SA_W208 := Lib.hid (SA_W207.out.keep hbW208)
        have SB_W208 := Lib.hid (SB_W207.out.keep hbW208)
        have BS_W208 := Lib.hid (BS_W207.out.keep hbW208)
        have BP_W208 := Lib.hid (BP_W207.out.keep hbW208)
        have OA_W208 := Lib.hid (OA_W207.out.keep hbW208)
        have PX_W208 := Lib.hid (PX_W207.out.keep hbW208)
        have PY_W208 := Lib.hid (PY_W207.out.keep hbW208)
        clear hbW208
        simp only [Act.put, List.setIfInBounds_toArray, List.set_cons_zero, List.set_cons_succ]
        exact calls_key2 w w1 W208 A0 A1 c0 c1 la lb hn0 hn1 HCA.out HCB.out s hs p hp PC S5 S2 KA HK Q HPN.out HQN.out _ _ _ _ _ _ _ _ _ _ _ _ _ _ _ _ _ _ _ _ _ _ _ _ _ _ _ _ _ _ _ _ _ _ _ _ _ _ _ _ _ _ _ _ _ _ _ _ _ _ _ _ _ _ _ _ _ _ _ _ _ _ _ _ _ _ _ _ (by kernel_rfl) HBW208 SA_W208 SB_W208 BS_W208 BP_W208
    · refine wpOp_value (i := 17) (oi := { dst := some 36, op := Op.buildSlice 49 1 #[(0, Operand.tmp 35)], type := 49, pos := "law.go:38", after := #[{ on := 16, ground := Ground.data }, { on := 11, ground := Ground.guard }], guard := some (11, true) }) rfl (by rfl) (exec_build1 W201 (.tmp 35) rfl rfl) ⟨fun _ => (below_alloc W201 _).mono HBW201.out.size, ?_⟩
      obtain ⟨W209, hW209, hbW209, hpW209⟩ := mkP1 SA_W201.out HCA.out
      rw [← hW209]
      clear hW209
      have HBW209 := Lib.hid (HBW201.out.trans (hbW209.mono HBW201.out.size))
      have SA_W209 := Lib.hid (SA_W201.out.keep hbW209)
      have SB_W209 := Lib.hid (SB_W201.out.keep hbW209)
      have BS_W209 := Lib.hid (BS_W201.out.keep hbW209)
      have BP_W209 := Lib.hid (BP_W201.out.keep hbW209)
      have OA_W209 := Lib.hid (OA_W201.out.keep hbW209)
      have PY_W209 := Lib.hid hpW209
      clear hbW209 hpW209
      simp only [Act.put, List.setIfInBounds_toArray, List.set_cons_zero, List.set_cons_succ]
      refine opW _ _ (i := 14) (oi := { dst := some 33, op := Op.buildSlice 49 1 #[(0, Operand.tmp 32)], type := 49, pos := "law.go:38", after := #[{ on := 13, ground := Ground.data }, { on := 11, ground := Ground.guard }], guard := some (11, true) }) rfl (by kernel_rfl) (by rfl) (exec_build1 W209 (.tmp 32) rfl rfl) (fun _ => (below_alloc W209 _).mono HBW209.out.size) ?_
      obtain ⟨W210, hW210, hbW210, hpW210⟩ := mkP1 OA_W209.out OAc_W201.out
      rw [← hW210]
      clear hW210
      have HBW210 := Lib.hid (HBW209.out.trans (hbW210.mono HBW209.out.size))
      have SA_W210 := Lib.hid (SA_W209.out.keep hbW210)
      have SB_W210 := Lib.hid (SB_W209.out.keep hbW210)
      have BS_W210 := Lib.hid (BS_W209.out.keep hbW210)
      have BP_W210 := Lib.hid (BP_W209.out.keep hbW210)
      have OA_W210 := Lib.hid (OA_W209.out.keep hbW210)
      have PY_W210 := Lib.hid (PY_W209.out.keep hbW210)
      have PX_W210 := Lib.hid hpW210
      clear hbW210 hpW210
      simp only [Act.put, List.setIfInBounds_toArray, List.set_cons_zero, List.set_cons_succ]
      refine callW (i := 15) (oi := { dst := some 34, op := Op.call { callee := Callee.value (Operand.func 18), args := #[Operand.tmp 33], argTypes := #[49] }, type := 35, pos := "law.go:38", after := #[{ on := 14, ground := Ground.data }, { on := 13, ground := Ground.chain }, { on := 11, ground := Ground.guard }], guard := some (11, true) }) rfl (by kernel_rfl) (by rfl) ?_ ((PX_W210.out.sum256 la (by simp) HLA.out 1 rfl (by omega)).mono ?_)
      · go_simp
      rintro eW211 W211 ⟨rfl, hbW211⟩
      refine ⟨_, rfl, fun _ => hbW211.mono HBW210.out.size, ?_⟩
      have HBW211 := Lib.hid (HBW210.out.trans (hbW211.mono HBW210.out.size))
      have SA_W211 := Lib.hid (SA_W210.out.keep hbW211)
      have SB_W211 := Lib.hid (SB_W210.out.keep hbW211)
      have BS_W211 := Lib.hid (BS_W210.out.keep hbW211)
      have BP_W211 := Lib.hid (BP_W210.out.keep hbW211)
      have OA_W211 := Lib.hid (OA_W210.out.keep hbW211)
      have PY_W211 := Lib.hid (PY_W210.out.keep hbW211)
      have PX_W211 := Lib.hid (PX_W210.out.keep hbW211)
      clear hbW211
      simp only [Act.put, List.setIfInBounds_toArray, List.set_cons_zero, List.set_cons_succ]
      refine callW (i := 18) (oi := { dst := some 37, op := Op.call { callee := Callee.value (Operand.func 19), args := #[Operand.tmp 36], argTypes := #[49] }, type := 35, pos := "law.go:38", after := #[{ on := 17, ground := Ground.data }, { on := 15, ground := Ground.chain }, { on := 11, ground := Ground.guard }], guard := some (11, true) }) rfl (by kernel_rfl) (by rfl) ?_ ((PY_W211.out.rsum256 la (by simp) HLA.out 1 rfl (by omega)).mono ?_)
      · go_simp
      rintro eW212 W212 ⟨rfl, hbW212⟩
      refine ⟨_, rfl, fun _ => hbW212.mono HBW211.out.size, ?_⟩
      have HBW212 := Lib.hid (HBW211.out.trans (hbW212.mono HBW211.out.size))
      have SA_W212 := Lib.hid (SA_W211.out.keep hbW212)
      have SB_W212 := Lib.hid (SB_W211.out.keep hbW212)
      have BS_W212 := Lib.hid (BS_W211.out.keep hbW212)
      have BP_W212 := Lib.hid (BP_W211.out.keep hbW212)
      have OA_W212 := Lib.hid (OA_W211.out.keep hbW212)
      have PY_W212 := Lib.hid (PY_W211.out.keep hbW212)
      have PX_W212 := Lib.hid (PX_W211.out.keep hbW212)
      clear hbW212
      simp only [Act.put, List.setIfInBounds_toArray, List.set_cons_zero, List.set_cons_succ]
      exact calls_key2 w w1 W212 A0 A1 c0 c1 la lb hn0 hn1 HCA.out HCB.out s hs p hp PC S5 S2 KA HK Q HPN.out HQN.out _ _ _ _ _ _ _ _ _ _ _ _ _ _ _ _ _ _ _ _ _ _ _ _ _ _ _ _ _ _ _ _ _ _ _ _ _ _ _ _ _ _ _ _ _ _ _ _ _ _ _ _ _ _ _ _ _ _ _ _ _ _ _ _ _ _ _ _ (by kernel_rfl) HBW212 SA_W212 SB_W212 BS_W212 BP_W212
  · refine wpOp_value (i := 17) (oi := { dst := some 36, op := Op.buildSlice 49 1 #[(0, Operand.tmp 35)], type := 49, pos := "law.go:38", after := #[{ on := 16, ground := Ground.data }, { on := 11, ground := Ground.guard }], guard := some (11, true) }) rfl (by rfl) (exec_build1 W0 (.tmp 35) rfl rfl) ⟨fun _ => (below_alloc W0 _).mono HBW0.out.size, ?_⟩
    obtain ⟨W213, hW213, hbW213, hpW213⟩ := mkP1 SA_0.out HCA.out
    rw [← hW213]
    clear hW213
    have HBW213 := Lib.hid (HBW0.out.trans (hbW213.mono HBW0.out.size))
    have SA_W213 := Lib.hid (SA_0.out.keep hbW213)
    have SB_W213 := Lib.hid (SB_0.out.keep hbW213)
    have BS_W213 := Lib.hid (BS_0.out.keep hbW213)
    have BP_W213 := Lib.hid (BP_0.out.keep hbW213)
    have PY_W213 := Lib.hid hpW213
    clear hbW213 hpW213
    simp only [Act.put, List.setIfInBounds_toArray, List.set_cons_zero, List.set_cons_succ]
    refine callW (i := 13) (oi := { dst := some 32, op := Op.call { callee := Callee.value (Operand.func 16), args := #[Operand.tmp 31], argTypes := #[30] }, type := 30, pos := "law.go:38", after := #[{ on := 12, ground := Ground.data }, { on := 11, ground := Ground.chain }, { on := 11, ground := Ground.guard }], guard := some (11, true) }) rfl (by kernel_rfl) (by rfl) ?_ ((own_any la W213 _ A0 la.length c0 SA_W213.out (fun b h => h) HLA.out).mono ?_)
    · go_simp
    rintro eW214 W214 ⟨vW214, rfl, hoW214, hbW214⟩
    obtain ⟨AOAW214, cOAW214, rfl, hcW214, hmW214, hsW214⟩ := hoW214.src
    refine ⟨_, rfl, fun _ => hbW214.mono HBW213.out.size, ?_⟩
    have HBW214 := Lib.hid (HBW213.out.trans (hbW214.mono HBW213.out.size))
    have SA_W214 := Lib.hid (SA_W213.out.keep hbW214)
    have SB_W214 := Lib.hid (SB_W213.out.keep hbW214)
    have BS_W214 := Lib.hid (BS_W213.out.keep hbW214)
    have BP_W214 := Lib.hid (BP_W213.out.keep hbW214)
    have PY_W214 := Lib.hid (PY_W213.out.keep hbW214)
    have OA_W214 := Lib.hid (SL.own hsW214)
    have OAc_W214 := Lib.hid (And.intro hcW214 hmW214)
    clear hbW214 hoW214 hsW214 hcW214 hmW214
    simp only [Act.put, List.setIfInBounds_toArray, List.set_cons_zero, List.set_cons_succ]
    refine opW _ _ (i := 14) (oi := { dst := some 33, op := Op.buildSlice 49 1 #[(0, Operand.tmp 32)], type := 49, pos := "law.go:38", after := #[{ on := 13, ground := Ground.data }, { on := 11, ground := Ground.guard }], guard := some (11, true) }) rfl (by kernel_rfl) (by rfl) (exec_build1 W214 (.tmp 32) rfl rfl) (fun _ => (below_alloc W214 _).mono HBW214.out.size) ?_
    obtain ⟨W215, hW215, hbW215, hpW215⟩ := mkP1 OA_W214.out OAc_W214.out
    rw [← hW215]
    clear hW215
    have HBW215 := Lib.hid (HBW214.out.trans (hbW215.mono HBW214.out.size))
    have SA_W215 := Lib.hid (SA_W214.out.keep hbW215)
    have SB_W215 := Lib.hid (SB_W214.out.keep hbW215)
    have BS_W215 := Lib.hid (BS_W214.out.keep hbW215)
    have BP_W215 := Lib.hid (BP_W214.out.keep hbW215)
    have PY_W215 := Lib.hid (PY_W214.out.keep hbW215)
    have OA_W215 := Lib.hid (OA_W214.out.keep hbW215)
    have PX_W215 := Lib.hid hpW215
    clear hbW215 hpW215
    simp only [Act.put, List.setIfInBounds_toArray, List.set_cons_zero, List.set_cons_succ]
    refine callW (i := 15) (oi := { dst := some 34, op := Op.call { callee := Callee.value (Operand.func 18), args := #[Operand.tmp 33], argTypes := #[49] }, type := 35, pos := "law.go:38", after := #[{ on := 14, ground := Ground.data }, { on := 13, ground := Ground.chain }, { on := 11, ground := Ground.guard }], guard := some (11, true) }) rfl (by kernel_rfl) (by rfl) ?_ ((PX_W215.out.sum256 la (by simp) HLA.out 1 rfl (by omega)).mono ?_)
    · go_simp
    rintro eW216 W216 ⟨rfl, hbW216⟩
    refine ⟨_, rfl, fun _ => hbW216.mono HBW215.out.size, ?_⟩
    have HBW216 := Lib.hid (HBW215.out.trans (hbW216.mono HBW215.out.size))
    have SA_W216 := Lib.hid (SA_W215.out.keep hbW216)
    have SB_W216 := Lib.hid (SB_W215.out.keep hbW216)
    have BS_W216 := Lib.hid (BS_W215.out.keep hbW216)
    have BP_W216 := Lib.hid (BP_W215.out.keep hbW216)
    have PY_W216 := Lib.hid (PY_W215.out.keep hbW216)
    have OA_W216 := Lib.hid (OA_W215.out.keep hbW216)
    have PX_W216 := Lib.hid (PX_W215.out.keep hbW216)
    clear hbW216
    simp only [Act.put, List.setIfInBounds_toArray, List.set_cons_zero, List.set_cons_succ]
    refine callW (i := 18) (oi := { dst := some 37, op := Op.call { callee := Callee.value (Operand.func 19), args := #[Operand.tmp 36], argTypes := #[49] }, type := 35, pos := "law.go:38", after := #[{ on := 17, ground := Ground.data }, { on := 15, ground := Ground.chain }, { on := 11, ground := Ground.guard }], guard := some (11, true) }) rfl (by kernel_rfl) (by rfl) ?_ ((PY_W216.out.rsum256 la (by simp) HLA.out 1 rfl (by omega)).mono ?_)
    · go_simp
    rintro eW217 W217 ⟨rfl, hbW217⟩
    refine ⟨_, rfl, fun _ => hbW217.mono HBW216.out.size, ?_⟩
    have HBW217 := Lib.hid (HBW216.out.trans (hbW217.mono HBW216.out.size))
    have SA_W217 := Lib.hid (SA_W216.out.keep hbW217)
    have SB_W217 := Lib.hid (SB_W216.out.keep hbW217)
    have BS_W217 := Lib.hid (BS_W216.out.keep hbW217)
    have BP_W217 := Lib.hid (BP_W216.out.keep hbW217)
    have PY_W217 := Lib.hid (PY_W216.out.keep hbW217)
    have OA_W217 := Lib.hid (OA_W216.out.keep hbW217)
    have PX_W217 := Lib.hid (PX_W216.out.keep hbW217)
    clear hbW217
    simp only [Act.put, List.setIfInBounds_toArray, List.set_cons_zero, List.set_cons_succ]
    exact calls_key2 w w1 W217 A0 A1 c0 c1 la lb hn0 hn1 HCA.out HCB.out s hs p hp PC S5 S2 KA HK Q HPN.out HQN.out _ _ _ _ _ _ _ _ _ _ _ _ _ _ _ _ _ _ _ _ _ _ _ _ _ _ _ _ _ _ _ _ _ _ _ _ _ _ _ _ _ _ _ _ _ _ _ _ _ _ _ _ _ _ _ _ _ _ _ _ _ _ _ _ _ _ _ _ (by kernel_rfl) HBW217 SA_W217 SB_W217 BS_W217 BP_W217
end Go.Proofs.Ytphalfpmgbmcaaa
