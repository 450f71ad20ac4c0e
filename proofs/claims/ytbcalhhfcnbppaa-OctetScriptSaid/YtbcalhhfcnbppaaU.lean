/- The document's own reader: a digest; and the choice of a call. No statement is proved here. -/
import Derived.Test.YtbcalhhfcnbppaaK
import Derived.Test.YtbcalhhfcnbppaaQ
namespace Go.Proofs.Ytbcalhhfcnbppaa
open Go.RowKit

theorem Rf.below {w w' : World} {lo hi g : Nat} {l : List UInt8} {k e B : Nat} (h : Rf w lo hi g l k e) (hb : Below B w w') (hB : hi ≤ B) : Rf w' lo hi g l k e := by
  obtain ⟨A, c, hr, hs, h1, h2⟩ := h.ex
  have := h.g_lt
  exact ⟨⟨A, c, rfb_below hr hb (by omega), hs.below' hb (fun b hb => by omega), h1, h2⟩, h.k_le, h.lo_le, h.g_lt, Nat.le_trans h.hi_le hb.size⟩
theorem info5size : (Try.prog.info? 5).map (·.size) = some 1 := by kernel_rfl
theorem copy_dig {w : World} {B B1 : Nat} {v : Value} {out : List UInt8} (ho : w.ownsRow B 5 1 v out.length (bcs out)) (h32 : out.length = 32 ∨ out = []) (hg : w.heap[B1]? = some (.cells (zarr 32) 33 (0, 0))) :
    ∃ r w', (Builtin.copy_ #[24, 24] 3 #[.slice (some ⟨B1, 0, none⟩) 32 32, v]).run Try.prog w = .ok r w' ∧ w'.heap[B1]? = some (.cells (dcells out) 33 (0, 0)) ∧ w.grownBy w' (some B1) ∧ w'.heap.size = w.heap.size := by
  obtain ⟨A, c, rfl, hc, _, hs⟩ := own_shape ho
  rcases h32 with h32 | rfl
  · obtain ⟨b, o, rfl, _, hcell⟩ := hs.lies (by omega)
    have hadd : ∀ j, (⟨b, o, none⟩ : Addr).add j = ⟨b, o + j, none⟩ := fun j => by unfold Addr.add; split <;> simp_all
    have hrun := run_copy_row (P := Try.prog) w 24 24 3 5 B1 0 32 32 ⟨b, o, none⟩ out.length c (zarr 32) 33 (bcs out) Try.underlying24 info5size hg (by rw [bcs_len, h32]; exact rfl) (fun j u hu => by rw [hadd]; exact arr_cells hcell j u hu) (by rw [bcs_len, h32]; exact Nat.le_refl _) (bcs_one _)
    have he : ((zarr 32).toList.take 0 ++ bcs out ++ (zarr 32).toList.drop (0 + (bcs out).length)).toArray = dcells out := by
      have : (zarr 32).toList.drop (0 + (bcs out).length) = [] := by rw [bcs_len, h32]; simp [zarr]
      rw [this]
      unfold dcells
      rw [if_pos h32]
      simp
    rw [he] at hrun
    exact ⟨_, _, hrun, setRow_heap w B1 _ _ 33 _ hg, setRow_grown w B1 _, by simp⟩
  · rcases ho.2 with ⟨e, _⟩ | ⟨b, cap, cur, e, _, _⟩
    · rw [e]
      exact ⟨_, _, run_copy_nil (P := Try.prog) w 24 24 3 5 ⟨B1, 0, none⟩ 32 32 Try.underlying24 (by rw [info5size]; rfl), hg, World.grownBy.refl w _, rfl⟩
    · rw [e]
      have hrun := run_copy_row (P := Try.prog) w 24 24 3 5 B1 0 32 32 ⟨b, 0, none⟩ 0 cap (zarr 32) 33 [] Try.underlying24 info5size hg rfl (fun j u hu => by simp at hu) (by simp) (by simp)
      have he : ((zarr 32).toList.take 0 ++ [] ++ (zarr 32).toList.drop (0 + ([] : List Value).length)).toArray = zarr 32 := by simp
      rw [he] at hrun
      exact ⟨_, _, hrun, setRow_heap w B1 _ _ 33 _ hg, setRow_grown w B1 _, by simp⟩
theorem wp_copy {P : Program} {Q : Exit → Act → World → Prop} {a : Act} {w w' : World} {o : Oper} {K : Act → World → Prop} {r : Value} (d x : Operand) (t : TypeId) (ho : o.op = .call { callee := .builtin .copy, args := #[d, x], argTypes := #[t, t] })
    (hrun : (Builtin.copy_ #[t, t] o.type #[a.eval d, a.eval x]).run P w = .ok r w') (h : K (a.put o.dst r) w') : o.wp P a w K Q := by
  unfold Oper.wp execOp
  simp only [ho, resolve, invoke, builtin, Sem.run_bind, Sem.run_pure, Result.andThen_ok, List.map_toArray, List.map_cons, List.map_nil, hrun]
  exact h
theorem dcells_as (out : List UInt8) : ∃ X : List Value, dcells out = X.toArray ∧ X.length = 32 ∧ ∀ u ∈ X, u.oneCell' = true := by
  unfold dcells
  split
  · rename_i h
    exact ⟨bcs out, rfl, by rw [bcs_len]; exact h, bcs_one _⟩
  · exact ⟨(zarr 32).toList, by simp, by simp [zarr], zarr_one 32⟩
theorem eq33_dc (out : List UInt8) (w : World) : (Op.equalIn 10000 33 (.agg (dcells out)) (.agg (dcells out))).run Try.prog w = .ok true w := by
  unfold dcells
  split
  · rename_i h
    rw [eq33 _ _ h h]
    simp
  · exact eq33_zero w

set_option maxHeartbeats 2000000 in
theorem Rf.digest {w : World} {lo hi g : Nat} {l : List UInt8} {k e : Nat} (h : Rf w lo hi g l k e) (hl : l.length ≤ 1000000000) :
    Calls Try.prog 32 #[.pointer (some ⟨g, 0, none⟩)] w (RfGives w lo hi g l (.agg (dcells (takeS l k e 32).1)) (takeS l k e 32).2.1 (takeS l k e 32).2.2) := by
  have CT : Hid (∀ w1, Rf w1 lo hi g l k e → Calls Try.prog 31 #[.pointer (some ⟨g, 0, none⟩), .int .i64 32] w1 (RfBytes w1 lo hi g l (takeS l k e 32).1 (takeS l k e 32).2.1 (takeS l k e 32).2.2)) := fun w1 hr => hr.takeN hl 32 (by omega)
  have HE : Hid ((takeS l k e 32).1.length = 32 ∨ (takeS l k e 32).1 = []) := by
    unfold takeS
    split
    · exact .inr rfl
    · split
      · exact .inr rfl
      · refine .inl ?_
        simp only [List.length_take, List.length_drop]
        omega
  generalize takeS l k e 32 = r at *
  obtain ⟨out, k2, e2⟩ := r
  simp only at CT HE
  have hhi := h.hi_le
  have hlo := h.g_lt
  have HH := Lib.hid h
  clear h
  have M1 : Hid True := trivial
  go_enter Try.func32, Try.ntmps32
  go_wp2_with (first | (clear M1; with_reducible refine wpList_alloc_row rfl 33 rfl (.agg (zarr 32)) zero33 ?_; intro w1 hh1 hz1 hg1; have HG1 := Lib.hid hg1; have HH1 := Lib.hid hh1; clear hg1 hh1) | (with_reducible refine wpList_alloc_row rfl 33 rfl (.agg (zarr 32)) zero33 ?_; intro w2 hh2 hz2 hg2; have HG2 := Lib.hid hg2; have HH2 := Lib.hid hh2; clear hg2 hh2))
  have HZ1 := Lib.hid hz1
  obtain ⟨w3, hw3⟩ : ∃ w3, w3 = w2.drew := ⟨_, rfl⟩
  have hg3 : w.grownBy w3 none := by rw [hw3]; exact grownBy_trans (grownBy_trans HG1.out HG2.out) ⟨rfl, rfl, rfl, Nat.le_refl _, fun _ _ _ => rfl⟩
  have HR3 : Rf w3 lo hi g l k e := HH.out.far hg3 (by simp)
  have hh3 : w3.heap[w1.heap.size]? = some (.cells (zarr 32) 33 (0, 0)) := by rw [hw3]; exact HH2.out
  have hb3 : w3.heap[w.heap.size]? = some (.cells (zarr 32) 33 (0, 0)) := by rw [hw3]; exact (HG2.out.block w.heap.size (by omega) (by simp)).trans HH1.out
  have hz3 : w3.heap.size = w1.heap.size + 1 := by rw [hw3]; exact hz2
  clear hz1
  refine anyStart (fun b => b = g ∨ b = w1.heap.size) (by kernel_rfl) ?_
  rw [← hw3]
  clear hw3
  refine anyTakeE (i := 0) (oi := { dst := some 4, op := Op.slice 33 (Operand.tmp 3) none none none, type := 24, pos := "ref.go:125", after := #[], guard := none }) rfl (by kernel_rfl) (by kernel_rfl) (by kernel_rfl) (fun _ _ _ _ h => h) (by rfl) ?_
  apply Exists.intro
  refine ⟨fun w' hk => ?_, ?_⟩
  · go_simp <;> with_reducible rfl
  simp only [Act.put, List.setIfInBounds_toArray, List.set_cons_zero, List.set_cons_succ]
  refine anyTakeE (i := 1) (oi := { dst := some 5, op := Op.move (Operand.tmp 0), type := 42, pos := "ref.go:125", after := #[], guard := none }) rfl (by kernel_rfl) (by kernel_rfl) (by kernel_rfl) (fun _ _ _ _ h => h) (by rfl) ?_
  apply Exists.intro
  refine ⟨fun w' hk => ?_, ?_⟩
  · go_simp <;> with_reducible rfl
  simp only [Act.put, List.setIfInBounds_toArray, List.set_cons_zero, List.set_cons_succ]
  refine anyCall (i := 2) (oi := { dst := some 6, op := Op.call { callee := Callee.value (Operand.func 31), args := #[Operand.tmp 5, Operand.const (Value.int IntKind.i64 32)], argTypes := #[42, 3] }, type := 24, pos := "ref.go:125", after := #[{ on := 1, ground := Ground.data }], guard := none }) rfl (by kernel_rfl) (by rfl) ?_ ((CT.out w3 HR3).mono ?_)
  · go_simp
  rintro e4 w4 ⟨v, rfl, ho4, hg4, hr4⟩
  refine ⟨_, rfl, Keeps.of_grown hg4 (by simp), ?_⟩
  simp only [Act.put, List.setIfInBounds_toArray, List.set_cons_zero, List.set_cons_succ]
  have hh4 : w4.heap[w1.heap.size]? = some (.cells (zarr 32) 33 (0, 0)) := (hg4.block _ (by omega) (by have := HZ1.out; simp; omega)).trans hh3
  obtain ⟨r5, w5, hrun5, hh5, hg5, hz5⟩ := copy_dig ho4 HE.out hh4
  refine anyOp (i := 3) (oi := { dst := some 7, op := Op.call { callee := Callee.builtin Builtin.copy, args := #[Operand.tmp 4, Operand.tmp 6], argTypes := #[24, 24] }, type := 3, pos := "ref.go:125", after := #[{ on := 0, ground := Ground.data }, { on := 2, ground := Ground.data }, { on := 2, ground := Ground.chain }], guard := none }) rfl (by kernel_rfl) (by rfl) (wp_copy (.tmp 4) (.tmp 6) 24 rfl hrun5 ?_)
  refine ⟨Keeps.of_grown hg5 (by simp), ?_⟩
  simp only [Act.put, List.setIfInBounds_toArray, List.set_cons_zero, List.set_cons_succ]
  refine anyDone (by kernel_rfl) ?_ _
  obtain ⟨X, hX, hXl, hX1⟩ := dcells_as out
  rw [hX] at hh5
  have HXX := Lib.hid hX
  have HS : Hid ((Try.prog.info? 33).map (·.size) = some X.toArray.size) := by rw [size33]; simp only [List.size_toArray, hXl]; exact rfl
  have HZ : Hid (X.toArray.size = (zarr 32).size) := by simp only [List.size_toArray, hXl]; exact rfl
  have HC : Hid (∀ i u, X[i]? = some u → w5.cell? ⟨w1.heap.size, 0 + i, none⟩ = some u) := fun i u hu => by
    rw [cell_of_row w5 w1.heap.size (0 + i) _ _ _ hh5, Nat.zero_add]
    simpa using hu
  have HB5 : Hid (w5.heap[w.heap.size]? = some (.cells (zarr 32) 33 (0, 0))) := (hg5.block _ (by have := hg4.size; have := HZ1.out; omega) (by have := HZ1.out; simp; omega)).trans ((hg4.block _ (by have := HZ1.out; omega) (by simp; omega)).trans hb3)
  have HX1 := Lib.hid hX1
  have HG4 := Lib.hid hg4
  have HG5 := Lib.hid hg5
  have HG3 := Lib.hid hg3
  have HR4 := Lib.hid hr4
  have z4 := hg4.size
  clear hX hX1 hg4 hg5 hh4 hh5 hg3 hh3 hb3 HR3 hr4 ho4 hrun5 CT HE HH2 HH1
  go_wp2_with (first | ((with_reducible show wpList _ _ _ (⟨_, .load 33 (.tmp 3), _, _, _, _⟩ :: _) _ _); refine wpList_load_arr rfl 33 (.tmp 3) rfl w1.heap.size 0 rfl X HC.out _ under33 rfl HS.out ?_) | ((with_reducible show wpList _ _ _ (⟨none, .store 33 (.tmp 2) (.tmp 8), _, _, _, _⟩ :: _) _ _); refine wpList_store_all rfl 33 (.tmp 2) (.tmp 8) rfl w.heap.size rfl X.toArray rfl 33 (zarr 32) HB5.out HS.out HZ.out (by simpa using HX1.out) ?_; intro w6 hh6 hg6 hz6))
  have H6 := Lib.hid hh6
  have G6 := Lib.hid hg6
  clear hh6 hg6
  go_wp2
  refine bodyPost_ret (results_cell_row rfl _ _ w.heap.size 33 X.toArray _ _ rfl H6.out under33 rfl HS.out) rfl ?_
  have hz1 := HZ1.out
  have hg4 : w.grownBy w4 (some g) := grownBy_trans (grownBy_of_below (below_of_grownBy HG3.out) _) HG4.out
  have hb6 : Below w.heap.size w4 w6 := ((Below.refl _ _).grown HG5.out (by omega) (by simp; omega)).grown G6.out (by omega) (by simp)
  exact ⟨by rw [HXX.out], grown_mix hg4 hb6, HR4.out.below hb6 hhi⟩

theorem pick_any (z : Int) (w : World) : Calls Try.prog 26 #[.int .i64 z, .int .i64 5] w fun e w' => ∃ p : Int, e = .returned (.int .i64 p) ∧ 0 ≤ p ∧ p < 5 ∧ w' = w := by
  have h1 := Int.tmod_lt_of_pos z (show (0 : Int) < 5 by omega)
  have h2 := Int.lt_tmod_of_pos z (show (0 : Int) < 5 by omega)
  go_enter Try.func26, Try.ntmps26
  by_cases ht : z.tmod 5 < 0
  · go_wp2
    go_ret
    exact ⟨z.tmod 5 + 5, by go_num, by omega, by omega, rfl⟩
  · go_wp2
    go_ret
    exact ⟨z.tmod 5, by go_num, by omega, by omega, rfl⟩
end Go.Proofs.Ytbcalhhfcnbppaa
