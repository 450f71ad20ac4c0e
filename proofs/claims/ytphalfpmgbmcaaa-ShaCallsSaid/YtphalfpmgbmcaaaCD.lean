/- The reference's piece. No statement is proved here. -/
import Derived.Test.YtphalfpmgbmcaaaCB
namespace Go.Proofs.Ytphalfpmgbmcaaa
open Go.RowKit
set_option linter.unusedVariables false
set_option linter.unusedSimpArgs false

set_option maxRecDepth 100000 in
set_option maxHeartbeats 2000000 in
theorem rK_any (w : World) : Calls Try.prog 23 #[] w (Gives (.agg K80a) w) := by
  go_enter Try.func23, Try.ntmps23
  go_wp2_with (first | (with_reducible refine wpList_alloc_row rfl 25 rfl (.agg (zw 80)) zero25 ?_; intro w1 hh1 hz1 hg1) | ((with_reducible show wpList _ _ _ (⟨some 1, .build 25 _, _, _, _, _⟩ :: _) _ _); refine wpList_exec (w' := w1) ?g1 (.agg K80a) ?g2 ?_; exact rfl; kernel_rfl) | ((with_reducible show wpList _ _ _ (⟨none, .store 25 (.tmp 0) (.tmp 1), _, _, _, _⟩ :: _) _ _); refine wpList_store_all rfl 25 (.tmp 0) (.tmp 1) rfl w.heap.size rfl K80a rfl 25 (zw 80) hh1 (by rw [size25, K80a_size]) (by rw [K80a_size]; rfl) K80a_one ?_; intro w2 hh2 hg2 hz2))
  go_wp2
  refine bodyPost_ret (results_cell_row rfl _ _ w.heap.size 25 K80a _ _ rfl hh2 under25 rfl (by rw [size25, K80a_size])) rfl ?_
  exact ⟨rfl, (below_of_grownBy hg1).grown hg2 (by omega) (by simp)⟩

/-- The memory of a piece: the words before it, the result, K, the schedule. -/
structure Rp (w0 : World) (g5 g6 : Nat) (s X : List Nat) (W : World) : Prop where
  st : W.heap[w0.heap.size]? = some (.cells (ucs s).toArray 27 (0, 0))
  res : W.heap[w0.heap.size + 1]? = some (.cells (zw 8) 27 (0, 0))
  ks : W.heap[g5]? = some (.cells K80a 25 (0, 0))
  ws : W.heap[g6]? = some (.cells (ucs X).toArray 25 (0, 0))
  l5 : w0.heap.size + 2 ≤ g5
  l6 : g5 < g6
  lt : g6 < W.heap.size
  bel : Below w0.heap.size w0 W
theorem Rp.drewN {w0 : World} {g5 g6 : Nat} {s X : List Nat} {W : World} (h : Rp w0 g5 g6 s X W) (k : Nat) : Rp w0 g5 g6 s X (W.drewN k) := ⟨h.st, h.res, h.ks, h.ws, h.l5, h.l6, h.lt, below_drewN' h.bel k⟩
theorem Rp.put {w0 : World} {g5 g6 : Nat} {s X X' : List Nat} {W W' : World} (h : Rp w0 g5 g6 s X W) (hh : W'.heap[g6]? = some (.cells (ucs X').toArray 25 (0, 0))) (hg : W.grownBy W' (some g6)) (hz : W'.heap.size = W.heap.size) : Rp w0 g5 g6 s X' W' := by
  have h1 := h.l5
  have h2 := h.l6
  have h3 := h.lt
  exact ⟨(hg.block _ (by omega) (by simp; omega)).trans h.st, (hg.block _ (by omega) (by simp; omega)).trans h.res, (hg.block _ (by omega) (by simp; omega)).trans h.ks, hh, h1, h2, by omega, h.bel.grown hg (by omega) (fun r hr => by injection hr; omega)⟩
/-- And the words as they go. -/
structure Rq (w0 : World) (g5 g6 g7 : Nat) (s X T : List Nat) (W : World) : Prop where
  rp : Rp w0 g5 g6 s X W
  ts : W.heap[g7]? = some (.cells (ucs T).toArray 27 (0, 0))
  l7 : g6 < g7
  lt : g7 < W.heap.size
theorem Rq.drewN {w0 : World} {g5 g6 g7 : Nat} {s X T : List Nat} {W : World} (h : Rq w0 g5 g6 g7 s X T W) (k : Nat) : Rq w0 g5 g6 g7 s X T (W.drewN k) := ⟨h.rp.drewN k, h.ts, h.l7, h.lt⟩
theorem Rq.put {w0 : World} {g5 g6 g7 : Nat} {s X T T' : List Nat} {W W' : World} (h : Rq w0 g5 g6 g7 s X T W) (hh : W'.heap[g7]? = some (.cells (ucs T').toArray 27 (0, 0))) (hg : W.grownBy W' (some g7)) (hz : W'.heap.size = W.heap.size) : Rq w0 g5 g6 g7 s X T' W' := by
  have h1 := h.rp.l5
  have h2 := h.rp.l6
  have h3 := h.l7
  have h4 := h.lt
  exact ⟨⟨(hg.block _ (by omega) (by simp; omega)).trans h.rp.st, (hg.block _ (by omega) (by simp; omega)).trans h.rp.res, (hg.block _ (by omega) (by simp; omega)).trans h.rp.ks, (hg.block _ (by omega) (by simp; omega)).trans h.rp.ws, h1, h2, by omega, h.rp.bel.grown hg (by omega) (fun r hr => by injection hr; omega)⟩, hh, h3, by omega⟩
theorem tri_bits {x : Nat} (i j k : Nat) (hx : x < 18446744073709551616) : bits .xor .u64 (bits .xor .u64 (rotr x i : Nat) (rotr x j : Nat)) (rotr x k : Nat) = ((tri x i j k : Nat) : Int) := by
  rw [xor_nat (rotr_lt i hx) (rotr_lt j hx), xor_nat (xor64 (rotr_lt i hx) (rotr_lt j hx)) (rotr_lt k hx)]
  rfl
theorem szeq8 (s t : St) : (ucs s.words).toArray.size = (ucs t.words).toArray.size := rfl
theorem words_len (s : St) : s.words.length = 8 := rfl
theorem mix_full (A Z : List Nat) (hA : A.length = 8) (hZ : Z.length = 8) : mix A Z 8 = A := by
  unfold mix
  rw [List.take_of_length_le (by omega), List.drop_of_length_le (by omega), List.append_nil]
theorem mix_none (A Z : List Nat) : mix A Z 0 = Z := by simp [mix]
theorem K80a_zw : K80a.size = (zw 80).size := by rw [K80a_size]; rfl
theorem sz25K : (Try.prog.info? 25).map (·.size) = some K80a.size := by rw [size25, K80a_size]

/-- A part of a function's text. -/
def findAt (p : Code → Bool) : Code → Option Code
  | .seq a b => if p (.seq a b) then some (.seq a b) else (match findAt p a with | some c => some c | none => findAt p b)
  | .block _ c => findAt p c
  | .loop c => findAt p c
  | .scope c => findAt p c
  | .cond _ a b => (match findAt p a with | some c => some c | none => findAt p b)
  | _ => none
def atRegion (r : Nat) : Code → Bool
  | .seq (.seq (.region k _ _) _) _ => k == r
  | _ => false
/-- What follows the rounds. -/
noncomputable def rest42 : Code := (Try.f42.body.bind (findAt (atRegion 21))).getD .skip

set_option maxRecDepth 100000 in
set_option maxHeartbeats 4000000 in
theorem tail42 (v0 v1 v3 v5 v6 v7 v8 v9 v10 v12 v13 v14 v15 v16 v17 v18 v19 v20 v21 v22 v23 v24 v25 v26 v27 v28 v29 v30 v31 v32 v33 v34 v35 v36 v37 v38 v39 v40 v41 v42 v43 v44 v45 v46 v47 v48 v49 v50 v51 v52 v53 v54 v55 v56 v57 v58 v59 v60 v61 v62 v63 v64 v65 v66 v67 v68 v69 v70 v71 v72 v73 v74 v75 v76 v77 v78 v79 v80 v81 v82 v83 v84 v85 v86 v87 v88 v89 v90 v91 v92 v93 v94 v95 v96 v97 v98 v99 v100 v101 v102 v103 v104 v105 v106 v107 v108 v109 v110 v111 v112 v113 v114 v115 v116 v117 v118 v119 v120 v121 v122 v123 v124 v125 v126 v127 v128 v129 v130 v131 v132 v133 v134 v135 v136 v137 v138 v139 v140 v141 v142 v143 v144 v145 v146 v147 v148 v149 v150 v151 v152 v153 v154 v155 v156 v157 v158 v159 v160 v161 v162 v163 v164 v165 v166 v167 v168 v169 v170 v171 v172 v173 v174 v175 : Value) (w wr : World) (g5 g6 g7 : Nat) (s T PP : St) (X : List Nat) (HPC : Hid (PP = s.plus T)) (HM0 : Hid (Rq w g5 g6 g7 s.words X (mix (s.plus T).words T.words 0) wr)) :
    Code.wp Try.prog rest42 (bodyPost Try.prog Try.f42 (Gives (.agg (ucs PP.words).toArray) w)) ⟨#[v0, v1, .pointer (some ⟨w.heap.size, 0, none⟩), v3, .pointer (some ⟨w.heap.size + 1, 0, none⟩), v5, v6, v7, v8, v9, v10, .pointer (some ⟨g7, 0, none⟩), v12, v13, v14, v15, v16, v17, v18, v19, v20, v21, v22, v23, v24, v25, v26, v27, v28, v29, v30, v31, v32, v33, v34, v35, v36, v37, v38, v39, v40, v41, v42, v43, v44, v45, v46, v47, v48, v49, v50, v51, v52, v53, v54, v55, v56, v57, v58, v59, v60, v61, v62, v63, v64, v65, v66, v67, v68, v69, v70, v71, v72, v73, v74, v75, v76, v77, v78, v79, v80, v81, v82, v83, v84, v85, v86, v87, v88, v89, v90, v91, v92, v93, v94, v95, v96, v97, v98, v99, v100, v101, v102, v103, v104, v105, v106, v107, v108, v109, v110, v111, v112, v113, v114, v115, v116, v117, v118, v119, v120, v121, v122, v123, v124, v125, v126, v127, v128, v129, v130, v131, v132, v133, v134, v135, v136, v137, v138, v139, v140, v141, v142, v143, v144, v145, v146, v147, v148, v149, v150, v151, v152, v153, v154, v155, v156, v157, v158, v159, v160, v161, v162, v163, v164, v165, v166, v167, v168, v169, v170, v171, v172, v173, v174, v175], []⟩ wr := by
  conv => arg 2; whnf
  go_wp2_with fail
  go_loopw [17] (fun i wr => ∃ j : Nat, j ≤ 8 ∧ i = .int .i64 j ∧ Rq w g5 g6 g7 s.words X (mix (s.plus T).words T.words j) wr) (fun i _ => 8 - (intOf i).toNat)
  case atStart => exact ⟨0, by omega, rfl, HM0.out⟩
  case round =>
    obtain ⟨j, hj, rfl, hq⟩ := hrel
    have H := Lib.hid hq
    clear hq HM0
    by_cases hlt : j < 8
    · have hlen : ∀ s : St, s.words.length = 8 := fun _ => rfl
      have HG := Lib.hid (plus_getD s T j hlt)
      have HM := Lib.hid (mix_set (s.plus T).words T.words j (hlen _) (hlen _) hlt)
      have HL := Lib.hid (mix_len (s.plus T).words T.words j (hlen _) (hlen _) hj)
      have c1 := word_cell H.out.ts j (by rw [HL.out]; exact hlt)
      rw [mix_get (s.plus T).words T.words j (hlen _) (hlen _) hlt] at c1
      have c2 := word_cell H.out.rp.st j (by rw [hlen]; exact hlt)
      rw [HG.out, Nat.add_comm] at HM
      have HA := Lib.hid (add_bits (T.words.getD j 0) (s.words.getD j 0))
      clear HG hlen
      generalize s.words.getD j 0 = x at *
      generalize T.words.getD j 0 = y at *
      generalize (y + x) % 18446744073709551616 = v at *
      generalize mix (s.plus T).words T.words = MM at *
      have hji : (j : Int) < 8 := by omega
      have c1' : ({ heap := wr.heap, tape := wr.tape, drawn := wr.drawn + 1, os := wr.os, output := wr.output } : World).cell? ⟨g7, j, none⟩ = some (.int .u64 (y : Int)) := c1
      have c2' : ({ heap := wr.heap, tape := wr.tape, drawn := wr.drawn + 1, os := wr.os, output := wr.output } : World).cell? ⟨w.heap.size, j, none⟩ = some (.int .u64 (x : Int)) := c2
      go_wp2_with fail
      go_still_tail 9, (by kernel_rfl)
      have H2 : Hid (Rq w g5 g6 g7 s.words X (MM j) { heap := wr.heap, tape := wr.tape, drawn := wr.drawn + 1, os := wr.os, output := wr.output }) := Lib.hid (H.out.drewN 1)
      clear c1 c2 c1' c2' H
      generalize ({ heap := wr.heap, tape := wr.tape, drawn := wr.drawn + 1, os := wr.os, output := wr.output } : World) = wd at *
      rw [HA.out]
      refine wpList_store_one rfl 24 (.tmp 174) (.tmp 173) rfl g7 j rfl .u64 _ rfl 27 _ H2.out.ts size24 (by simp [ucs_len, HL.out]; omega) ?_
      intro w3 hh3 hg3 hz3
      rw [ucs_set, HM.out] at hh3
      have H3 := Lib.hid (H2.out.put hh3 hg3 hz3)
      clear hh3 hg3 hz3 H2
      go_wp2
      go_roundw
      case rel =>
        first | exact ⟨j + 1, by omega, by go_num, H3.out⟩ | ((repeat apply Exists.intro); exact ⟨⟨j + 1, by omega, by go_num, H3.out⟩, rfl⟩)
      case measure => simp [intOf]; omega
    · obtain rfl : j = 8 := by omega
      have hmix : mix (s.plus T).words T.words 8 = PP.words := by rw [HPC.out]; exact mix_full _ _ (words_len _) (words_len _)
      rw [hmix] at H
      clear hmix hlt hj
      rw [show ((8 : Nat) : Int) = 8 from rfl]
      have HC : Hid (∀ i u, (ucs PP.words)[i]? = some u → wr.cell? ⟨g7, 0 + i, none⟩ = some u) := Lib.hid (fun i u hu => by
        rw [Nat.zero_add]
        exact row_cells H.out.ts i u (by simpa using hu))
      have HSz : Hid ((Try.prog.info? 27).map (·.size) = some (ucs PP.words).length) := Lib.hid (by rw [size27]; rfl)
      have hb5 := H.out.rp.l5
      have hb6 := H.out.rp.l6
      have hb7 := H.out.rp.lt
      go_wp2_with (first | ((with_reducible show wpList _ _ _ (⟨_, .load 27 (.tmp 11), _, _, _, _⟩ :: _) _ _); go_must (refine wpList_load_arr rfl 27 (.tmp 11) rfl g7 0 rfl (ucs PP.words) HC.out _ under27 rfl HSz.out ?_)) | ((with_reducible show wpList _ _ _ (⟨none, .store 27 (.tmp 4) (.tmp 175), _, _, _, _⟩ :: _) _ _); go_must (refine wpList_store_all rfl 27 (.tmp 4) (.tmp 175) rfl (w.heap.size + 1) rfl (ucs PP.words).toArray rfl 27 (zw 8) H.out.rp.res (sz27 _) rfl (ucs_one _) ?_; intro w3 hh3 hg3 hz3)))
      have H3 := Lib.hid hh3
      have G3 := Lib.hid hg3
      clear hh3 hg3
      go_wp2
      refine bodyPost_ret (results_cell_row rfl _ _ (w.heap.size + 1) 27 (ucs PP.words).toArray _ _ rfl H3.out under27 rfl (sz27 _)) rfl ?_
      exact ⟨rfl, H.out.rp.bel.grown G3.out (by omega) (fun r hr => by injection hr; omega)⟩

end Go.Proofs.Ytphalfpmgbmcaaa
