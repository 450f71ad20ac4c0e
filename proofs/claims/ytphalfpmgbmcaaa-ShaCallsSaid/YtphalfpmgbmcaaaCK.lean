/- The reference's Sum. No statement is proved here. -/
import Derived.Test.YtphalfpmgbmcaaaCJ
namespace Go.Proofs.Ytphalfpmgbmcaaa
open Go.RowKit
set_option linter.unusedVariables false
set_option linter.unusedSimpArgs false

theorem info5size : (Try.prog.info? 5).map (·.size) = some 1 := by kernel_rfl
theorem copy_half {w : World} {g3 g4 : Nat} {R : List UInt8} (h3 : w.heap[g3]? = some (.cells (bcs R).toArray 22 (0, 0))) (hR : R.length = 64) (h4 : w.heap[g4]? = some (.cells (zbs 32) 35 (0, 0))) :
    ∃ r w', (Builtin.copy_ #[30, 30] 3 #[.slice (some ⟨g4, 0, none⟩) 32 32, .slice (some ⟨g3, 0, none⟩) 32 64]).run Try.prog w = .ok r w' ∧ w'.heap[g4]? = some (.cells (bcs (R.take 32)).toArray 35 (0, 0)) ∧ w.grownBy w' (some g4) ∧ w'.heap.size = w.heap.size := by
  have hl : (R.take 32).length = 32 := by rw [List.length_take]; omega
  have hadd : ∀ j, (⟨g3, 0, none⟩ : Addr).add j = ⟨g3, 0 + j, none⟩ := fun j => by unfold Addr.add; split <;> simp_all
  have hrun := run_copy_row (P := Try.prog) w 30 30 3 5 g4 0 32 32 ⟨g3, 0, none⟩ 32 64 (zbs 32) 35 (bcs (R.take 32)) Try.underlying30 info5size h4 (by rw [bcs_len, hl]; exact rfl) (fun j u hu => by
    rw [hadd, Nat.zero_add]
    rw [bcs_takeD, List.getElem?_take] at hu
    split at hu
    · exact row_cells h3 j u (by simpa using hu)
    · cases hu) (by rw [bcs_len, hl]; exact Nat.le_refl _) (bcs_one _)
  have he : ((zbs 32).toList.take 0 ++ bcs (R.take 32) ++ (zbs 32).toList.drop (0 + (bcs (R.take 32)).length)).toArray = (bcs (R.take 32)).toArray := by
    have : (zbs 32).toList.drop (0 + (bcs (R.take 32)).length) = [] := by rw [bcs_len, hl]; simp [zbs, bcs]
    rw [this]
    simp
  rw [he] at hrun
  exact ⟨_, _, hrun, setRow_heap w g4 _ _ 35 _ h4, setRow_grown w g4 _, by simp⟩
theorem copyW {md : Region.Mode} {W : Nat → Bool} {ops : Array Oper} {lo : Nat} {Q : Exit → Act → World → Prop} {fuel : Nat} {listed : Array Bool} {a : Act} {w w' : World} {r : Value} {i : Nat} {oi : Oper} (hi : ops[i]? = some oi) (hr : Region.ready md ops listed = [i]) (hw : Region.wanted oi (yielded ops a.tmps) = true) (d x : Operand) (ho : oi.op = .call { callee := .builtin .copy, args := #[d, x], argTypes := #[30, 30] })
    (hrun : (Builtin.copy_ #[30, 30] oi.type #[a.eval d, a.eval x]).run Try.prog w = .ok r w') (hW : W i = true)
    (h : wpAnyW Try.prog md ops Q W lo fuel (listed.setIfInBounds i true) (a.put oi.dst r) w') : wpAnyW Try.prog md ops Q W lo (fuel + 1) listed a w := by
  refine opW r w' hi hr hw ?_ (fun h => by rw [hW] at h; cases h) h
  unfold execOp
  simp only [ho, resolve, invoke, builtin, Sem.run_bind, Sem.run_pure, Result.andThen_ok, List.map_toArray, List.map_cons, List.map_nil, hrun]
theorem sz35' (l : List UInt8) (h : l.length = 32) : (Try.prog.info? 35).map (·.size) = some (bcs l).toArray.size := by rw [size35]; simp [bcs_len, h]
theorem sz35l (l : List UInt8) (h : l.length = 32) : (Try.prog.info? 35).map (·.size) = some (bcs l).length := by rw [size35]; simp [bcs_len, h]
theorem fit35' (l : List UInt8) (h : l.length = 32) : (bcs l).toArray.size = (zbs 32).size := by simp [bcs_len, h, zbs]

set_option maxRecDepth 100000 in
set_option maxHeartbeats 1000000 in
theorem rsum256_any (L : List (List UInt8)) (w : World) (S : Nat → Prop) (P : Option Addr) (pc : Nat) (hp : Parts w S P L) (hS : ∀ b, S b → b < w.heap.size) (hsum : L.flatten.length ≤ 1000000000) (hm : L.length ≤ 1000000000) :
    Calls Try.prog 19 #[.slice P L.length pc] w (Gives (.agg (bcs (sum256 L.flatten)).toArray) w) := by
  have HP := Lib.hid hp
  clear hp
  have HLS : Hid (sum256 L.flatten = (oct (sumS start256 L.flatten).words).take 32) := rfl
  have HRL := Lib.hid (sum256_len L.flatten)
  have HOL := Lib.hid (oct_len (sumS start256 L.flatten).words)
  have CB := Lib.hid (rbytes_any _ rfl (words_lt (sumS_fits start256 L.flatten start256_fits)))
  have CR := Lib.hid (fun W S A n c h1 h2 h3 => rrun_any start256 start256_fits L.flatten W S A n c h1 h2 h3)
  have CJ := Lib.hid (fun W S c h1 h2 => rjoin_any L W S P c h1 h2 hsum hm)
  generalize sum256 L.flatten = R at *
  generalize sumS start256 L.flatten = Z at *
  generalize oct Z.words = F8 at *
  generalize L.flatten = F at *
  go_enter Try.func19, Try.ntmps19
  go_wp2_with (first | (with_reducible refine wpList_alloc_row rfl 35 rfl (.agg (zbs 32)) zero35 ?_; intro w1 hh1 hz1 hg1; have H1 := Lib.hid hh1; have G1 := Lib.hid hg1; clear hh1 hg1))
  refine (rshort_any _).mono ?_
  rintro e2 w2 ⟨rfl, hb2⟩
  have B2 := Lib.hid hb2
  have z2 := hb2.size
  clear hb2
  go_wp2_with fail
  refine (CJ.out w2 S pc ((HP.out.below (below_of_grownBy G1.out) hS).below B2.out (fun b hb => by have := hS b hb; omega)) (fun b hb => by have := hS b hb; omega)).mono ?_
  rintro e3 w3 ⟨v3, rfl, ho3, hb3⟩
  obtain ⟨A3, c3, rfl, _, _, hs3⟩ := ho3.src
  have S3 := Lib.hid hs3
  have B3 := Lib.hid hb3
  have z3 := hb3.size
  clear hb3 ho3 hs3
  go_wp2_with fail
  refine (CR.out w3 _ A3 F.length c3 S3.out (fun b hb => hb.2) hsum).mono ?_
  rintro e4 w4 ⟨rfl, hb4⟩
  have B4 := Lib.hid hb4
  have z4 := hb4.size
  clear hb4 S3
  go_wp2_with fail
  refine (CB.out w4).mono ?_
  rintro e5 w5 ⟨rfl, hb5⟩
  have H5 : Hid (w5.heap[w.heap.size]? = some (.cells (zbs 32) 35 (0, 0)) ∧ Below w.heap.size w w5 ∧ w.heap.size < w5.heap.size) := Lib.hid ⟨(hb5.block _ (by omega)).trans ((B4.out.block _ (by omega)).trans ((B3.out.block _ (by omega)).trans ((B2.out.block _ (by omega)).trans H1.out))), ((((below_of_grownBy G1.out).trans (B2.out.mono (by omega))).trans (B3.out.mono (by omega))).trans (B4.out.mono (by omega))).trans (hb5.mono (by omega)), by have := hb5.size; omega⟩
  clear hb5 B2 B3 B4 H1 G1 z2 z3 z4 hz1 HP CR CB CJ
  have HT : Hid (∀ w6 w7 w8 : World, w6.heap.size = w5.heap.size + 1 → w5.grownBy w6 none → w7.heap[w5.heap.size]? = some (.cells (bcs F8).toArray 22 (0, 0)) → w6.grownBy w7 (some w5.heap.size) → w7.heap.size = w6.heap.size → w8.heap[w7.heap.size]? = some (.cells (zbs 32) 35 (0, 0)) → w8.heap.size = w7.heap.size + 1 → w7.grownBy w8 none →
      w8.heap[w5.heap.size]? = some (.cells (bcs F8).toArray 22 (0, 0)) ∧ w8.heap[w.heap.size]? = some (.cells (zbs 32) 35 (0, 0)) ∧ w8.heap[w7.heap.size]? = some (.cells (zbs 32) 35 (0, 0)) ∧ Below w.heap.size w w8 ∧ w.heap.size < w7.heap.size ∧ w7.heap.size < w8.heap.size) := Lib.hid (fun w6 w7 w8 z6 g6 a7 g7 z7 a8 z8 g8 => by
    obtain ⟨b1, b2, b3⟩ := H5.out
    exact ⟨(g8.block _ (by omega) (by simp)).trans a7, (g8.block _ (by omega) (by simp)).trans ((g7.block _ (by omega) (by simp; omega)).trans ((g6.block _ b3 (by simp)).trans b1)), a8, ((b2.grown g6 (by omega) (by simp)).grown g7 (by omega) (fun r hr => by injection hr; omega)).grown g8 (by omega) (by simp), by omega, by omega⟩)
  go_wp2_with (first | ((with_reducible refine wpList_alloc_row rfl 22 rfl (.agg (zbs 64)) zero22 ?_); intro w6 hh6 hz6 hg6; have A6 := Lib.hid hh6; have G6 := Lib.hid hg6; have Z6 := Lib.hid hz6; clear hh6 hg6 hz6) | ((with_reducible show wpList _ _ _ (⟨none, .store 22 (.tmp 3) (.tmp 9), _, _, _, _⟩ :: _) _ _); go_must (refine wpList_store_all rfl 22 (.tmp 3) (.tmp 9) rfl w5.heap.size rfl (bcs F8).toArray rfl 22 (zbs 64) A6.out (sz22' _ HOL.out) (fit22' _ HOL.out) (bcs_one _) ?_; intro w7 hh7 hg7 hz7; have A7 := Lib.hid hh7; have G7 := Lib.hid hg7; have Z7 := Lib.hid hz7; clear hh7 hg7 hz7)) | ((with_reducible refine wpList_alloc_row rfl 35 rfl (.agg (zbs 32)) zero35 ?_); intro w8 hh8 hz8 hg8; have H8 := Lib.hid (HT.out w6 w7 w8 Z6.out G6.out A7.out G7.out Z7.out hh8 hz8 hg8); clear hh8 hg8 hz8 A6 G6 Z6 A7 G7 Z7 HT))
  generalize w5.heap.size = g3 at *
  generalize w7.heap.size = g4 at *
  obtain ⟨r9, w9, hrun9, hh9, hg9, hz9⟩ := copy_half (w := w8.drew) (g3 := g3) (g4 := g4) (R := F8) H8.out.1 HOL.out H8.out.2.2.1
  rw [← HLS.out] at hh9
  have HRUN := Lib.hid hrun9
  have H9 : Hid (w9.heap[g4]? = some (.cells (bcs R).toArray 35 (0, 0)) ∧ w9.heap[w.heap.size]? = some (.cells (zbs 32) 35 (0, 0)) ∧ Below w.heap.size w w9) := Lib.hid (by
    obtain ⟨a1, a2, a3, a4, a5, a6⟩ := H8.out
    exact ⟨hh9, (hg9.block _ (by show _ < w8.heap.size; omega) (by simp; omega)).trans a2, (below_drewN' a4 1).grown hg9 (by show _ ≤ w8.heap.size; omega) (fun r hr => by injection hr; omega)⟩)
  clear hrun9 hh9 hg9 hz9 H8 H5
  refine startW (fun i => i == 2) w8.heap.size (by kernel_rfl) ?_
  refine takeAE (i := 0) (oi := { dst := some 10, op := Op.slice 35 (Operand.tmp 4) none none none, type := 30, pos := "ref.go:191", after := #[], guard := none }) rfl (by kernel_rfl) (by kernel_rfl) (by kernel_rfl) (fun _ _ _ _ h => h) (by rfl) ?_
  refine ⟨.slice (some ⟨g4, 0, none⟩) 32 32, fun w' => (by go_simp <;> with_reducible rfl), ?_⟩
  simp only [Act.put, List.setIfInBounds_toArray, List.set_cons_zero, List.set_cons_succ]
  refine takeAE (i := 1) (oi := { dst := some 11, op := Op.slice 22 (Operand.tmp 3) none (some (Operand.const (Value.int IntKind.i64 32))) none, type := 30, pos := "ref.go:191", after := #[], guard := none }) rfl (by kernel_rfl) (by kernel_rfl) (by kernel_rfl) (fun _ _ _ _ h => h) (by rfl) ?_
  refine ⟨.slice (some ⟨g3, 0, none⟩) 32 64, fun w' => (by go_simp <;> with_reducible rfl), ?_⟩
  simp only [Act.put, List.setIfInBounds_toArray, List.set_cons_zero, List.set_cons_succ]
  refine copyW (i := 2) (oi := { dst := some 12, op := Op.call { callee := Callee.builtin Builtin.copy, args := #[Operand.tmp 10, Operand.tmp 11], argTypes := #[30, 30] }, type := 3, pos := "ref.go:191", after := #[{ on := 0, ground := Ground.data }, { on := 1, ground := Ground.data }], guard := none }) (w' := w9) (r := r9) rfl (by kernel_rfl) (by rfl) (.tmp 10) (.tmp 11) rfl HRUN.out rfl ?_
  simp only [Act.put, List.setIfInBounds_toArray, List.set_cons_zero, List.set_cons_succ]
  refine doneW (by kernel_rfl) ?_ _
  have HC : Hid (∀ i u, (bcs R)[i]? = some u → w9.cell? ⟨g4, 0 + i, none⟩ = some u) := Lib.hid (fun i u hu => by
    rw [Nat.zero_add]; exact row_cells H9.out.1 i u (by simpa using hu))
  go_wp2_with (first | ((with_reducible show wpList _ _ _ (⟨_, .load 35 (.tmp 4), _, _, _, _⟩ :: _) _ _); go_must (refine wpList_load_arr rfl 35 (.tmp 4) rfl g4 0 rfl (bcs R) HC.out _ under35 rfl (sz35l _ HRL.out) ?_)) | ((with_reducible show wpList _ _ _ (⟨none, .store 35 (.tmp 2) (.tmp 13), _, _, _, _⟩ :: _) _ _); go_must (refine wpList_store_all rfl 35 (.tmp 2) (.tmp 13) rfl w.heap.size rfl (bcs R).toArray rfl 35 (zbs 32) H9.out.2.1 (sz35' _ HRL.out) (fit35' _ HRL.out) (bcs_one _) ?_; intro wz hhz hgz hzz)))
  have HZ := Lib.hid hhz
  have GZ := Lib.hid hgz
  clear hhz hgz
  go_wp2
  refine bodyPost_ret (results_cell_row rfl _ _ w.heap.size 35 (bcs R).toArray _ _ rfl HZ.out under35 rfl (sz35' _ HRL.out)) rfl ?_
  exact ⟨rfl, H9.out.2.2.grown GZ.out H9.out.2.2.size (fun r hr => by injection hr; omega)⟩
end Go.Proofs.Ytphalfpmgbmcaaa
