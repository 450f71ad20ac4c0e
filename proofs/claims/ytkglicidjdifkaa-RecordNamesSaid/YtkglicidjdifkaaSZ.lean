/- The sum of parts. No statement is proved here. -/
import Derived.Test.YtkglicidjdifkaaSY

namespace Go.Proofs.Ytkglicidjdifkaa
open Go.RowKit
set_option linter.unusedVariables false

/-- A slice of slices of bytes that reads as L. -/
structure Parts (w : World) (S : Nat → Prop) (P : Option Addr) (L : List (List UInt8)) : Prop where
  at_ : ∀ i, i < L.length → ∃ b o A n c, P = some ⟨b, o, none⟩ ∧ S b ∧ w.cell? ⟨b, o + i, none⟩ = some (.slice A n c) ∧ Src w S A n (bcs (L.getD i [])) ∧ n ≤ c ∧ c ≤ maxLen
theorem flat_snoc (L : List (List UInt8)) (j : Nat) (h : j < L.length) : (L.take (j + 1)).flatten = (L.take j).flatten ++ L.getD j [] := by
  rw [List.take_succ_eq_append_getElem h, List.flatten_append]
  simp [List.getD_eq_getElem?_getD, List.getElem?_eq_getElem h]
theorem flat_le (L : List (List UInt8)) (j : Nat) : (L.take j).flatten.length ≤ L.flatten.length := by
  have h : L.flatten = (L.take j).flatten ++ (L.drop j).flatten := by rw [← List.flatten_append, List.take_append_drop]
  rw [h, List.length_append]
  omega

set_option maxRecDepth 100000 in
set_option maxHeartbeats 1000000 in
theorem sum_any (s : St) (hs : s.Fits) (L : List (List UInt8)) (w : World) (S : Nat → Prop) (P : Option Addr) (pc : Nat) (hp : Parts w S P L) (hS : ∀ b, S b → b < w.heap.size) (hsum : L.flatten.length ≤ 1000000000) (hm : L.length ≤ 1000000000) :
    Calls Try.prog 29 #[.agg (ucs s.words).toArray, .slice P L.length pc] w (Gives (.agg (ucs (sumS s L.flatten).words).toArray) w) := by
  have HP := Lib.hid hp
  have HFIN : Hid (sumS s L.flatten = whole (whole s L.flatten) (rest L.flatten ++ padL L.flatten.length)) := (feed s L.flatten (padL L.flatten.length)).1.symm
  clear hp
  go_enter Try.func29, Try.ntmps29
  go_wp2_with (first | (with_reducible refine wpList_alloc_row rfl 64 rfl (.agg (zw 8)) zero64 ?_; intro w1 hh1 hz1 hg1) | (at_make; refine wpList_makeB rfl _ _ rfl .i64 .i64 0 128 rfl rfl (by omega) (by omega) ?_; intro w2 hh2 hz2 hg2))
  simp only [World.size_alloc] at hz1 hh1 ⊢
  have HZ : Hid (Pz w.heap.size w s w2 ∧ OwnB w2 (w.heap.size + 2) (.slice (some ⟨w.heap.size + 2, 0, none⟩) 0 128) []) := by
    rw [hz1] at hh2 hz2
    refine ⟨⟨?_, (hg2.block _ (by omega) (by simp)).trans hh1, by omega, ?_⟩, ?_⟩
    · exact (hg2.block _ (by omega) (by simp)).trans ((hg1.block _ (by simp) (by simp)).trans (heap_alloc_new w _))
    · exact ((below_alloc w _).grown hg1 (by simp) (by simp)).grown hg2 (by omega) (by simp)
    · exact OwnB.of_row (l := []) (by omega) hh2 (by simp [zbs, bcs_len]) (by simp) (by unfold maxLen; omega) rfl
  clear hh1 hg1 hh2 hg2
  go_loopw [5, 6, 14] (fun z r i wr => ∃ j : Nat, j ≤ L.length ∧ i = .int .i64 j ∧ z = .int .u64 ((L.take j).flatten.length : Nat) ∧ OwnB wr (w.heap.size + 2) r (rest (L.take j).flatten) ∧ Pz w.heap.size w (whole s (L.take j).flatten) wr) (fun _ _ i _ => L.length - (intOf i).toNat)
  case atStart => exact ⟨0, by omega, rfl, rfl, (by simpa [rest_nil] using HZ.out.2), (by simpa [whole_nil] using HZ.out.1)⟩
  case round =>
    obtain ⟨j, hj, rfl, rfl, ho, hpz⟩ := hrel
    have HO := Lib.hid ho
    have H := Lib.hid hpz
    have hlt0 := hpz.lt
    clear ho hpz HZ
    by_cases hlt : j < L.length
    · have HFS := Lib.hid (flat_snoc L j hlt)
      have hfl := flat_le L (j + 1)
      rw [flat_snoc L j hlt] at hfl
      obtain ⟨b, o, A, n, c, rfl, hb, hcell, hsrc, hnc, hcm⟩ := HP.out.at_ j hlt
      have hbl := hS b hb
      have hpl : (L.getD j []).length = n := src_len hsrc
      have hcw : wr.cell? ⟨b, o + j, none⟩ = some (.slice A n c) := (H.out.bel.cell (p := ⟨b, o + j, none⟩) hbl).trans hcell
      have HSR : Hid (Src wr S A n (bcs (L.getD j []))) := hsrc.below' H.out.bel hS
      have hji : (j : Int) < (L.length : Int) := by omega
      clear hcell hsrc
      have HWR := Lib.hid H.out.bel
      generalize L.getD j [] = p at *
      generalize (L.take j).flatten = D at *
      have hdl : D.length + n ≤ 1000000000 := by rw [List.length_append, hpl] at hfl; omega
      have hrl := rest_len D
      obtain ⟨A0, c0, rfl, hr0, hrm, _⟩ := HO.out.src
      have hr128 : (rest D).length < 128 := by omega
      have hmin : min (n : Int) (128 - ((rest D).length : Int)) = ((min n (128 - (rest D).length) : Nat) : Int) := by omega
      have HMI := Lib.hid hmin
      have HHR := Lib.hid hrl
      have HPL := Lib.hid hpl
      clear hmin hrl hpl hfl
      have hx : ∀ x : Nat, x = 128 - (rest D).length → (128 : Int) - ((rest D).length : Int) = (x : Int) := fun x hx => by omega
      have HX := Lib.hid hx
      clear hx
      rcases (Nat.le_total n (128 - (rest D).length)).symm with h9x | h9x
      · have hmX : min (n : Int) (128 - ((rest D).length : Int)) = 128 - ((rest D).length : Int) := by omega
        go_wp2_with fail
        clear hmX
        have h9a : 128 - (rest D).length ≤ n := h9x
        have h9b : 128 - (rest D).length + (rest D).length = 128 := by omega
        rw [HX.out _ rfl]
        clear HX HMI hcw hr128
        generalize 128 - (rest D).length = m9 at *
        have H9C : Hid (m9 = n ∨ m9 + (rest D).length = 128) := .inr h9b
        have h9d : m9 + (rest D).length ≤ 128 := by omega
        have h9i : (m9 : Int) ≤ (c : Int) := by omega
        have HC0 : Hid (∀ w', Below (w.heap.size + 2) wr.drew w' → ∀ i u, (ucs (whole s D).words)[i]? = some u → w'.cell? ⟨w.heap.size, 0 + i, none⟩ = some u) := fun w' hk i u hu => by
          rw [Nat.zero_add]
          exact row_cells ((hk.block w.heap.size (by omega)).trans H.out.st) i u (by simpa using hu)
        have HSz0 : Hid ((Try.prog.info? 64).map (·.size) = some (ucs (whole s D).words).length) := by rw [size64, ucs_len]; exact rfl
        refine startW (fun j => j == 10) (w.heap.size + 2) (by kernel_rfl) ?_
        refine takeW (i := 0) (oi := { dst := some 30, op := Op.load 64 (Operand.tmp 2), type := 64, pos := "sha.go:35", after := #[], guard := none }) (.agg (ucs (whole s D).words).toArray) rfl (by kernel_rfl) (by kernel_rfl) (by kernel_rfl) (by kernel_rfl) (fun _ _ _ h => h) (by rfl) (fun w' hk => exec_load 64 (.tmp 2) rfl w.heap.size 0 rfl (ucs (whole s D).words) (HC0.out w' hk) _ under64 rfl HSz0.out) ?_
        simp only [Act.put, List.setIfInBounds_toArray, List.set_cons_zero, List.set_cons_succ]
        refine takeAE (i := 1) (oi := { dst := some 31, op := Op.move (Operand.tmp 6), type := 26, pos := "sha.go:35", after := #[], guard := none }) rfl (by kernel_rfl) (by kernel_rfl) (by kernel_rfl) (fun _ _ _ _ h => h) (by rfl) ?_
        apply Exists.intro
        refine ⟨fun w' => ?_, ?_⟩
        · go_simp <;> with_reducible rfl
        simp only [Act.put, List.setIfInBounds_toArray, List.set_cons_zero, List.set_cons_succ]
        refine takeAE (i := 2) (oi := { dst := some 32, op := Op.move (Operand.tmp 8), type := 26, pos := "sha.go:35", after := #[], guard := none }) rfl (by kernel_rfl) (by kernel_rfl) (by kernel_rfl) (fun _ _ _ _ h => h) (by rfl) ?_
        apply Exists.intro
        refine ⟨fun w' => ?_, ?_⟩
        · go_simp <;> with_reducible rfl
        simp only [Act.put, List.setIfInBounds_toArray, List.set_cons_zero, List.set_cons_succ]
        refine takeAE (i := 3) (oi := { dst := some 33, op := Op.move (Operand.tmp 9), type := 3, pos := "sha.go:35", after := #[], guard := none }) rfl (by kernel_rfl) (by kernel_rfl) (by kernel_rfl) (fun _ _ _ _ h => h) (by rfl) ?_
        apply Exists.intro
        refine ⟨fun w' => ?_, ?_⟩
        · go_simp <;> with_reducible rfl
        simp only [Act.put, List.setIfInBounds_toArray, List.set_cons_zero, List.set_cons_succ]
        refine takeAE (i := 4) (oi := { dst := some 34, op := Op.slice 26 (Operand.tmp 32) none (some (Operand.tmp 33)) none, type := 26, pos := "sha.go:35", after := #[{ on := 2, ground := Ground.data }, { on := 3, ground := Ground.data }], guard := none }) rfl (by kernel_rfl) (by kernel_rfl) (by kernel_rfl) (fun _ _ _ _ h => h) (by rfl) ?_
        apply Exists.intro
        refine ⟨fun w' => ?_, ?_⟩
        · go_simp <;> with_reducible rfl
        simp only [Act.put, List.setIfInBounds_toArray, List.set_cons_zero, List.set_cons_succ]
        have HT : Hid (Src wr.drew S A m9 (bcs (p.take m9))) := by rw [bcs_takeD]; exact (HSR.out.take_ m9 h9a).drewN 1
        have HTL := Lib.hid (show (p.take m9).length = m9 from by have := HPL.out; rw [List.length_take]; omega)
        refine appW (i := 5) (oi := { dst := some 35, op := Op.call { callee := Callee.builtin Builtin.append, args := #[Operand.tmp 31, Operand.tmp 34], argTypes := #[26, 26] }, type := 26, pos := "sha.go:35", after := #[{ on := 1, ground := Ground.data }, { on := 4, ground := Ground.data }], guard := none }) rfl (by kernel_rfl) rfl (.tmp 31) (.tmp 34) rfl (.slice A0 (rest D).length c0) (rest D) rfl (HO.out.drewN 1) S A m9 c (p.take m9) rfl HT.out (by omega) hlt0 ?_
        intro v5 w5 ho5 hb5
        simp only [Act.put, List.setIfInBounds_toArray, List.set_cons_zero, List.set_cons_succ]
        have H5 : Hid (Pz w.heap.size w (whole s D) w5) := ⟨(hb5.block _ (by omega)).trans H.out.st, (hb5.block _ (by omega)).trans H.out.res, Nat.le_trans hlt0 hb5.size, (below_drewN' H.out.bel 1).trans (hb5.mono (by omega))⟩
        obtain ⟨A5, c5, rfl, h5c, h5m, hsrc5⟩ := ho5.src
        have HO5 := Lib.hid ho5
        have HS5 := Lib.hid hsrc5
        have HXL := Lib.hid (show (rest D ++ p.take m9).length = (rest D).length + m9 from by rw [List.length_append, HTL.out])
        clear ho5 hsrc5 hb5 HC0 HSz0 HT
        refine callW (i := 6) (oi := { dst := some 36, op := Op.call { callee := Callee.value (Operand.func 38), args := #[Operand.tmp 30, Operand.tmp 35], argTypes := #[64, 26] }, type := 73, pos := "sha.go:35", after := #[{ on := 0, ground := Ground.data }, { on := 5, ground := Ground.data }, { on := 5, ground := Ground.chain }], guard := none }) rfl (by kernel_rfl) (by rfl) ?_ ((pieces_any (whole s D) (whole_fits s D hs) (rest D ++ p.take m9) w5 _ A5 _ c5 HS5.out (fun b hb => hb.2) (by rw [HXL.out]; omega) h5c h5m).mono ?_)
        · go_simp
        rintro e6 w6 ⟨A6, c6, rfl, h6c, h6m, hsrc6, hsh6, hb6⟩
        refine ⟨_, rfl, fun _ => hb6.mono (by have := H5.out.lt; omega), ?_⟩
        simp only [Act.put, List.setIfInBounds_toArray, List.set_cons_zero, List.set_cons_succ]
        have HO6 : Hid (OwnB w6 (w.heap.size + 2) (.slice A6 ((rest D ++ p.take m9).length % 128) c6) (rest (D ++ p.take m9))) := by rw [← (feed s D (p.take m9)).2]; exact HO5.out.after hsh6 h6c h6m hb6
        have H6 := Lib.hid (H5.out.below hb6)
        clear hsrc6 hsh6 hb6 HO5 HS5 H5
        rw [show runN (whole s D) (rest D ++ p.take m9) ((rest D ++ p.take m9).length / 128) = whole s (D ++ p.take m9) from (feed s D (p.take m9)).1]
        refine takeAE (i := 7) (oi := { dst := some 29, op := Op.move (Operand.tmp 36), type := 73, pos := "sha.go:35", after := #[{ on := 6, ground := Ground.data }], guard := none }) rfl (by kernel_rfl) (by kernel_rfl) (by kernel_rfl) (fun _ _ _ _ h => h) (by rfl) ?_
        apply Exists.intro
        refine ⟨fun w' => ?_, ?_⟩
        · go_simp <;> with_reducible rfl
        simp only [Act.put, List.setIfInBounds_toArray, List.set_cons_zero, List.set_cons_succ]
        refine takeAE (i := 8) (oi := { dst := some 37, op := Op.extract (Operand.tmp 29) 0, type := 64, pos := "sha.go:35", after := #[{ on := 7, ground := Ground.data }], guard := none }) rfl (by kernel_rfl) (by kernel_rfl) (by kernel_rfl) (fun _ _ _ _ h => h) (by rfl) ?_
        apply Exists.intro
        refine ⟨fun w' => ?_, ?_⟩
        · go_simp <;> with_reducible rfl
        simp only [Act.put, List.setIfInBounds_toArray, List.set_cons_zero, List.set_cons_succ]
        refine takeAE (i := 9) (oi := { dst := some 38, op := Op.extract (Operand.tmp 29) 1, type := 26, pos := "sha.go:35", after := #[{ on := 7, ground := Ground.data }, { on := 10, ground := Ground.gcOnly Departure.lateStores }], guard := none }) rfl (by kernel_rfl) (by kernel_rfl) (by kernel_rfl) (fun _ _ _ _ h => h) (by rfl) ?_
        apply Exists.intro
        refine ⟨fun w' => ?_, ?_⟩
        · go_simp <;> with_reducible rfl
        simp only [Act.put, List.setIfInBounds_toArray, List.set_cons_zero, List.set_cons_succ]
        refine storeW_all (i := 10) (oi := { dst := none, op := Op.store 64 (Operand.tmp 2) (Operand.tmp 37), type := 0, pos := "sha.go:35", after := #[{ on := 8, ground := Ground.data }, { on := 6, ground := Ground.chain }, { on := 0, ground := Ground.phase }, { on := 1, ground := Ground.phase }, { on := 2, ground := Ground.phase }, { on := 3, ground := Ground.phase }, { on := 4, ground := Ground.phase }, { on := 5, ground := Ground.phase }, { on := 6, ground := Ground.phase }, { on := 7, ground := Ground.phase }, { on := 8, ground := Ground.phase }, { on := 9, ground := Ground.textOnly Departure.lateStores }], guard := none }) rfl (by kernel_rfl) rfl 64 (.tmp 2) (.tmp 37) rfl w.heap.size rfl (ucs (whole s (D ++ p.take m9)).words).toArray rfl 64 (ucs (whole s D).words).toArray H6.out.st (sz64 _) (fit64 _ _) (ucs_one _) rfl ?_
        intro w7 hh7 hg7 hz7
        have H7 : Hid (Pz w.heap.size w (whole s (D ++ p.take m9)) w7) := ⟨hh7, (hg7.block _ (by have := H6.out.lt; omega) (by simp)).trans H6.out.res, by have := H6.out.lt; omega, H6.out.bel.grown hg7 (by have := H6.out.lt; omega) (fun r hr => by injection hr; omega)⟩
        have HO7 := Lib.hid (HO6.out.grown hg7 (fun r hr => by injection hr; omega))
        clear hh7 hg7 hz7 H6 HO6
        simp only [Act.put]
        refine takeAE (i := 11) (oi := { dst := some 6, op := Op.assign (Operand.tmp 38), type := 26, pos := "sha.go:35", after := #[{ on := 9, ground := Ground.data }, { on := 10, ground := Ground.chain }, { on := 0, ground := Ground.phase }, { on := 1, ground := Ground.phase }, { on := 2, ground := Ground.phase }, { on := 3, ground := Ground.phase }, { on := 4, ground := Ground.phase }, { on := 5, ground := Ground.phase }, { on := 6, ground := Ground.phase }, { on := 7, ground := Ground.phase }, { on := 8, ground := Ground.phase }, { on := 9, ground := Ground.phase }, { on := 10, ground := Ground.phase }], guard := none }) rfl (by kernel_rfl) (by kernel_rfl) (by kernel_rfl) (fun _ _ _ _ h => h) (by rfl) ?_
        apply Exists.intro
        refine ⟨fun w' => ?_, ?_⟩
        · go_simp <;> with_reducible rfl
        simp only [Act.put, List.setIfInBounds_toArray, List.set_cons_zero, List.set_cons_succ]
        refine doneW (by kernel_rfl) ?_ _
        rw [List.length_append, List.length_take] at HO7
        clear HTL HXL H HO h9i
        have Hm9 := Lib.hid h9d
        generalize ((rest D).length + min m9 p.length) % 128 = q6 at *
        have hlt7 := H7.out.lt
        have HC1 : Hid (∀ w', Below (w.heap.size + 2) w7.drew w' → ∀ i u, (ucs (whole s (D ++ p.take m9)).words)[i]? = some u → w'.cell? ⟨w.heap.size, 0 + i, none⟩ = some u) := fun w' hk i u hu => by
          rw [Nat.zero_add]
          exact row_cells ((hk.block w.heap.size (by omega)).trans H7.out.st) i u (by simpa using hu)
        have HSz1 : Hid ((Try.prog.info? 64).map (·.size) = some (ucs (whole s (D ++ p.take m9)).words).length) := by rw [size64, ucs_len]; exact rfl
        have h9i : (m9 : Int) ≤ (c : Int) := by omega
        go_wp2_with fail
        refine startW (fun j => j == 8) (w.heap.size + 2) (by kernel_rfl) ?_
        refine takeW (i := 0) (oi := { dst := some 40, op := Op.load 64 (Operand.tmp 2), type := 64, pos := "sha.go:37", after := #[], guard := none }) (.agg (ucs (whole s (D ++ p.take m9)).words).toArray) rfl (by kernel_rfl) (by kernel_rfl) (by kernel_rfl) (by kernel_rfl) (fun _ _ _ h => h) (by rfl) (fun w' hk => exec_load 64 (.tmp 2) rfl w.heap.size 0 rfl (ucs (whole s (D ++ p.take m9)).words) (HC1.out w' hk) _ under64 rfl HSz1.out) ?_
        simp only [Act.put, List.setIfInBounds_toArray, List.set_cons_zero, List.set_cons_succ]
        refine takeAE (i := 1) (oi := { dst := some 41, op := Op.move (Operand.tmp 8), type := 26, pos := "sha.go:37", after := #[], guard := none }) rfl (by kernel_rfl) (by kernel_rfl) (by kernel_rfl) (fun _ _ _ _ h => h) (by rfl) ?_
        apply Exists.intro
        refine ⟨fun w' => ?_, ?_⟩
        · go_simp <;> with_reducible rfl
        simp only [Act.put, List.setIfInBounds_toArray, List.set_cons_zero, List.set_cons_succ]
        refine takeAE (i := 2) (oi := { dst := some 42, op := Op.move (Operand.tmp 9), type := 3, pos := "sha.go:37", after := #[], guard := none }) rfl (by kernel_rfl) (by kernel_rfl) (by kernel_rfl) (fun _ _ _ _ h => h) (by rfl) ?_
        apply Exists.intro
        refine ⟨fun w' => ?_, ?_⟩
        · go_simp <;> with_reducible rfl
        simp only [Act.put, List.setIfInBounds_toArray, List.set_cons_zero, List.set_cons_succ]
        refine takeAE (i := 3) (oi := { dst := some 43, op := Op.slice 26 (Operand.tmp 41) (some (Operand.tmp 42)) none none, type := 26, pos := "sha.go:37", after := #[{ on := 1, ground := Ground.data }, { on := 2, ground := Ground.data }], guard := none }) rfl (by kernel_rfl) (by kernel_rfl) (by kernel_rfl) (fun _ _ _ _ h => h) (by rfl) ?_
        apply Exists.intro
        refine ⟨fun w' => ?_, ?_⟩
        · go_simp <;> with_reducible rfl
        simp only [Act.put, List.setIfInBounds_toArray, List.set_cons_zero, List.set_cons_succ]
        have HT8 : Hid (Src w7.drew S (if c = m9 then A else A.map (·.add m9)) (n - m9) (bcs (p.drop m9))) := by
          have := HSR.out.drop_ (c := c) m9 h9a hnc
          rw [← bcs_drop] at this
          have this := (this.keep (w' := w7) (S' := S) (fun b o hb => (H7.out.bel.cell (p := ⟨b, o, none⟩) (hS b hb)).trans (HWR.out.cell (p := ⟨b, o, none⟩) (hS b hb)).symm) (fun _ h => h)).drewN 1
          first | exact this | (rw [Nat.sub_self] at this; exact this)
        have HNN := Lib.hid (src_len HT8.out)
        refine callW (i := 4) (oi := { dst := some 44, op := Op.call { callee := Callee.value (Operand.func 38), args := #[Operand.tmp 40, Operand.tmp 43], argTypes := #[64, 26] }, type := 73, pos := "sha.go:37", after := #[{ on := 0, ground := Ground.data }, { on := 3, ground := Ground.data }], guard := none }) rfl (by kernel_rfl) (by rfl) ?_ ((pieces_any (whole s (D ++ p.take m9)) (whole_fits s _ hs) (p.drop m9) w7.drew S _ (n - m9) (c - m9) HT8.out (fun b hb => by have := hS b hb; show b < w7.heap.size; omega) (by omega) (by omega) (by omega)).mono ?_)
        · go_simp
        rintro e8 w8 ⟨A8, c8, rfl, h8c, h8m, hsrc8, _, hb8⟩
        refine ⟨_, rfl, fun _ => hb8.mono hlt7, ?_⟩
        simp only [Act.put, List.setIfInBounds_toArray, List.set_cons_zero, List.set_cons_succ]
        have H8 : Hid (Pz w.heap.size w (whole s (D ++ p.take m9)) w8) := (H7.out.below (w' := w8) ((below_drewN' (Below.refl w7.heap.size w7) 1).trans hb8))
        have HO8 : Hid (OwnB w8 (w.heap.size + 2) (.slice A6 q6 c6) (rest (D ++ p.take m9))) := HO7.out.keep ((below_drewN' (Below.refl w7.heap.size w7) 1).trans hb8)
        have HS8 : Hid (Src w8 S A8 ((n - m9) % 128) (bcs (rest (p.drop m9)))) := by
          unfold rest
          rw [HNN.out]
          exact hsrc8
        have HWE : runN (whole s (D ++ p.take m9)) (p.drop m9) ((n - m9) / 128) = whole s (D ++ p) := by
          rw [← (feed2 s D p m9 (by rw [HPL.out]; exact H9C.out) (by rw [HPL.out]; exact h9a)).1]
          unfold whole
          rw [HNN.out]
        rw [HWE]
        clear HWE hsrc8 hb8 HC1 HSz1 HT8 H7 HO7
        refine takeAE (i := 5) (oi := { dst := some 39, op := Op.move (Operand.tmp 44), type := 73, pos := "sha.go:37", after := #[{ on := 4, ground := Ground.data }], guard := none }) rfl (by kernel_rfl) (by kernel_rfl) (by kernel_rfl) (fun _ _ _ _ h => h) (by rfl) ?_
        apply Exists.intro
        refine ⟨fun w' => ?_, ?_⟩
        · go_simp <;> with_reducible rfl
        simp only [Act.put, List.setIfInBounds_toArray, List.set_cons_zero, List.set_cons_succ]
        refine takeAE (i := 6) (oi := { dst := some 45, op := Op.extract (Operand.tmp 39) 0, type := 64, pos := "sha.go:37", after := #[{ on := 5, ground := Ground.data }], guard := none }) rfl (by kernel_rfl) (by kernel_rfl) (by kernel_rfl) (fun _ _ _ _ h => h) (by rfl) ?_
        apply Exists.intro
        refine ⟨fun w' => ?_, ?_⟩
        · go_simp <;> with_reducible rfl
        simp only [Act.put, List.setIfInBounds_toArray, List.set_cons_zero, List.set_cons_succ]
        refine takeAE (i := 7) (oi := { dst := some 46, op := Op.extract (Operand.tmp 39) 1, type := 26, pos := "sha.go:37", after := #[{ on := 5, ground := Ground.data }, { on := 8, ground := Ground.gcOnly Departure.lateStores }], guard := none }) rfl (by kernel_rfl) (by kernel_rfl) (by kernel_rfl) (fun _ _ _ _ h => h) (by rfl) ?_
        apply Exists.intro
        refine ⟨fun w' => ?_, ?_⟩
        · go_simp <;> with_reducible rfl
        simp only [Act.put, List.setIfInBounds_toArray, List.set_cons_zero, List.set_cons_succ]
        refine storeW_all (i := 8) (oi := { dst := none, op := Op.store 64 (Operand.tmp 2) (Operand.tmp 45), type := 0, pos := "sha.go:37", after := #[{ on := 6, ground := Ground.data }, { on := 4, ground := Ground.chain }, { on := 0, ground := Ground.phase }, { on := 1, ground := Ground.phase }, { on := 2, ground := Ground.phase }, { on := 3, ground := Ground.phase }, { on := 4, ground := Ground.phase }, { on := 5, ground := Ground.phase }, { on := 6, ground := Ground.phase }, { on := 7, ground := Ground.textOnly Departure.lateStores }], guard := none }) rfl (by kernel_rfl) rfl 64 (.tmp 2) (.tmp 45) rfl w.heap.size rfl (ucs (whole s (D ++ p)).words).toArray rfl 64 (ucs (whole s (D ++ p.take m9)).words).toArray H8.out.st (sz64 _) (fit64 _ _) (ucs_one _) rfl ?_
        intro w9 hh9 hg9 hz9
        have hlt8 := H8.out.lt
        have H9 : Hid (Pz w.heap.size w (whole s (D ++ p)) w9) := ⟨hh9, (hg9.block _ (by omega) (by simp)).trans H8.out.res, by omega, H8.out.bel.grown hg9 (by omega) (fun r hr => by injection hr; omega)⟩
        have HO9 := Lib.hid (HO8.out.grown hg9 (fun r hr => by injection hr; omega))
        have HS9 : Hid (Src w9 S A8 ((n - m9) % 128) (bcs (rest (p.drop m9)))) := HS8.out.keep (fun b o hb => (H9.out.bel.cell (p := ⟨b, o, none⟩) (hS b hb)).trans (H8.out.bel.cell (p := ⟨b, o, none⟩) (hS b hb)).symm) (fun _ h => h)
        clear hh9 hg9 hz9 H8 HO8 HS8
        simp only [Act.put]
        refine takeAE (i := 9) (oi := { dst := some 10, op := Op.assign (Operand.tmp 46), type := 26, pos := "sha.go:37", after := #[{ on := 7, ground := Ground.data }, { on := 8, ground := Ground.chain }, { on := 0, ground := Ground.phase }, { on := 1, ground := Ground.phase }, { on := 2, ground := Ground.phase }, { on := 3, ground := Ground.phase }, { on := 4, ground := Ground.phase }, { on := 5, ground := Ground.phase }, { on := 6, ground := Ground.phase }, { on := 7, ground := Ground.phase }, { on := 8, ground := Ground.phase }], guard := none }) rfl (by kernel_rfl) (by kernel_rfl) (by kernel_rfl) (fun _ _ _ _ h => h) (by rfl) ?_
        apply Exists.intro
        refine ⟨fun w' => ?_, ?_⟩
        · go_simp <;> with_reducible rfl
        simp only [Act.put, List.setIfInBounds_toArray, List.set_cons_zero, List.set_cons_succ]
        refine doneW (by kernel_rfl) ?_ _
        have hlt9 := H9.out.lt
        have HRL := Lib.hid (rest_len (D ++ p.take m9))
        go_wp2_with (at_builtin; refine wpList_appB ?g1 _ _ rfl (w.heap.size + 2) _ _ rfl HO9.out S A8 ((n - m9) % 128) c8 (rest (p.drop m9)) rfl HS9.out (by rw [HRL.out]; omega) hlt9 ?_; exact rfl; intro v10 w10 ho10 hb10)
        have HO10 : Hid (OwnB w10 (w.heap.size + 2) v10 (rest (D ++ p))) := by
          rw [(feed2 s D p m9 (by rw [HPL.out]; exact H9C.out) (by rw [HPL.out]; exact h9a)).2] at ho10
          exact ho10
        have H10 : Hid (Pz w.heap.size w (whole s (D ++ p)) w10) := ⟨(hb10.block _ (by omega)).trans H9.out.st, (hb10.block _ (by omega)).trans H9.out.res, Nat.le_trans hlt9 hb10.size, H9.out.bel.trans (hb10.mono (by omega))⟩
        clear ho10 hb10 H9 HO9 HS9
        go_wp2
        go_roundw
        case rel =>
          have hsz : ((D.length : Int) + (n : Int)) = ((D ++ p).length : Int) := by have := HPL.out; rw [List.length_append]; omega
          rw [hsz]
          first | exact ⟨j + 1, by omega, by go_num, by rw [HFS.out], by rw [HFS.out]; exact HO10.out, by rw [HFS.out]; exact H10.out⟩ | ((repeat apply Exists.intro); exact ⟨⟨j + 1, by omega, by go_num, by rw [HFS.out], by rw [HFS.out]; exact HO10.out, by rw [HFS.out]; exact H10.out⟩, rfl⟩)
        case measure => simp [intOf]; omega
      · have hmX : min (n : Int) (128 - ((rest D).length : Int)) = (n : Int) := by omega
        go_wp2_with fail
        clear hmX
        have h9a : n ≤ n := Nat.le_refl n
        have H9C : Hid (n = n ∨ n + (rest D).length = 128) := .inl rfl
        have h9d : n + (rest D).length ≤ 128 := by omega
        clear HX HMI hcw hr128
        have h9i : (n : Int) ≤ (c : Int) := by omega
        have HC0 : Hid (∀ w', Below (w.heap.size + 2) wr.drew w' → ∀ i u, (ucs (whole s D).words)[i]? = some u → w'.cell? ⟨w.heap.size, 0 + i, none⟩ = some u) := fun w' hk i u hu => by
          rw [Nat.zero_add]
          exact row_cells ((hk.block w.heap.size (by omega)).trans H.out.st) i u (by simpa using hu)
        have HSz0 : Hid ((Try.prog.info? 64).map (·.size) = some (ucs (whole s D).words).length) := by rw [size64, ucs_len]; exact rfl
        refine startW (fun j => j == 10) (w.heap.size + 2) (by kernel_rfl) ?_
        refine takeW (i := 0) (oi := { dst := some 30, op := Op.load 64 (Operand.tmp 2), type := 64, pos := "sha.go:35", after := #[], guard := none }) (.agg (ucs (whole s D).words).toArray) rfl (by kernel_rfl) (by kernel_rfl) (by kernel_rfl) (by kernel_rfl) (fun _ _ _ h => h) (by rfl) (fun w' hk => exec_load 64 (.tmp 2) rfl w.heap.size 0 rfl (ucs (whole s D).words) (HC0.out w' hk) _ under64 rfl HSz0.out) ?_
        simp only [Act.put, List.setIfInBounds_toArray, List.set_cons_zero, List.set_cons_succ]
        refine takeAE (i := 1) (oi := { dst := some 31, op := Op.move (Operand.tmp 6), type := 26, pos := "sha.go:35", after := #[], guard := none }) rfl (by kernel_rfl) (by kernel_rfl) (by kernel_rfl) (fun _ _ _ _ h => h) (by rfl) ?_
        apply Exists.intro
        refine ⟨fun w' => ?_, ?_⟩
        · go_simp <;> with_reducible rfl
        simp only [Act.put, List.setIfInBounds_toArray, List.set_cons_zero, List.set_cons_succ]
        refine takeAE (i := 2) (oi := { dst := some 32, op := Op.move (Operand.tmp 8), type := 26, pos := "sha.go:35", after := #[], guard := none }) rfl (by kernel_rfl) (by kernel_rfl) (by kernel_rfl) (fun _ _ _ _ h => h) (by rfl) ?_
        apply Exists.intro
        refine ⟨fun w' => ?_, ?_⟩
        · go_simp <;> with_reducible rfl
        simp only [Act.put, List.setIfInBounds_toArray, List.set_cons_zero, List.set_cons_succ]
        refine takeAE (i := 3) (oi := { dst := some 33, op := Op.move (Operand.tmp 9), type := 3, pos := "sha.go:35", after := #[], guard := none }) rfl (by kernel_rfl) (by kernel_rfl) (by kernel_rfl) (fun _ _ _ _ h => h) (by rfl) ?_
        apply Exists.intro
        refine ⟨fun w' => ?_, ?_⟩
        · go_simp <;> with_reducible rfl
        simp only [Act.put, List.setIfInBounds_toArray, List.set_cons_zero, List.set_cons_succ]
        refine takeAE (i := 4) (oi := { dst := some 34, op := Op.slice 26 (Operand.tmp 32) none (some (Operand.tmp 33)) none, type := 26, pos := "sha.go:35", after := #[{ on := 2, ground := Ground.data }, { on := 3, ground := Ground.data }], guard := none }) rfl (by kernel_rfl) (by kernel_rfl) (by kernel_rfl) (fun _ _ _ _ h => h) (by rfl) ?_
        apply Exists.intro
        refine ⟨fun w' => ?_, ?_⟩
        · go_simp <;> with_reducible rfl
        simp only [Act.put, List.setIfInBounds_toArray, List.set_cons_zero, List.set_cons_succ]
        have HT : Hid (Src wr.drew S A n (bcs (p.take n))) := by rw [bcs_takeD]; exact (HSR.out.take_ n h9a).drewN 1
        have HTL := Lib.hid (show (p.take n).length = n from by have := HPL.out; rw [List.length_take]; omega)
        refine appW (i := 5) (oi := { dst := some 35, op := Op.call { callee := Callee.builtin Builtin.append, args := #[Operand.tmp 31, Operand.tmp 34], argTypes := #[26, 26] }, type := 26, pos := "sha.go:35", after := #[{ on := 1, ground := Ground.data }, { on := 4, ground := Ground.data }], guard := none }) rfl (by kernel_rfl) rfl (.tmp 31) (.tmp 34) rfl (.slice A0 (rest D).length c0) (rest D) rfl (HO.out.drewN 1) S A n c (p.take n) rfl HT.out (by omega) hlt0 ?_
        intro v5 w5 ho5 hb5
        simp only [Act.put, List.setIfInBounds_toArray, List.set_cons_zero, List.set_cons_succ]
        have H5 : Hid (Pz w.heap.size w (whole s D) w5) := ⟨(hb5.block _ (by omega)).trans H.out.st, (hb5.block _ (by omega)).trans H.out.res, Nat.le_trans hlt0 hb5.size, (below_drewN' H.out.bel 1).trans (hb5.mono (by omega))⟩
        obtain ⟨A5, c5, rfl, h5c, h5m, hsrc5⟩ := ho5.src
        have HO5 := Lib.hid ho5
        have HS5 := Lib.hid hsrc5
        have HXL := Lib.hid (show (rest D ++ p.take n).length = (rest D).length + n from by rw [List.length_append, HTL.out])
        clear ho5 hsrc5 hb5 HC0 HSz0 HT
        refine callW (i := 6) (oi := { dst := some 36, op := Op.call { callee := Callee.value (Operand.func 38), args := #[Operand.tmp 30, Operand.tmp 35], argTypes := #[64, 26] }, type := 73, pos := "sha.go:35", after := #[{ on := 0, ground := Ground.data }, { on := 5, ground := Ground.data }, { on := 5, ground := Ground.chain }], guard := none }) rfl (by kernel_rfl) (by rfl) ?_ ((pieces_any (whole s D) (whole_fits s D hs) (rest D ++ p.take n) w5 _ A5 _ c5 HS5.out (fun b hb => hb.2) (by rw [HXL.out]; omega) h5c h5m).mono ?_)
        · go_simp
        rintro e6 w6 ⟨A6, c6, rfl, h6c, h6m, hsrc6, hsh6, hb6⟩
        refine ⟨_, rfl, fun _ => hb6.mono (by have := H5.out.lt; omega), ?_⟩
        simp only [Act.put, List.setIfInBounds_toArray, List.set_cons_zero, List.set_cons_succ]
        have HO6 : Hid (OwnB w6 (w.heap.size + 2) (.slice A6 ((rest D ++ p.take n).length % 128) c6) (rest (D ++ p.take n))) := by rw [← (feed s D (p.take n)).2]; exact HO5.out.after hsh6 h6c h6m hb6
        have H6 := Lib.hid (H5.out.below hb6)
        clear hsrc6 hsh6 hb6 HO5 HS5 H5
        rw [show runN (whole s D) (rest D ++ p.take n) ((rest D ++ p.take n).length / 128) = whole s (D ++ p.take n) from (feed s D (p.take n)).1]
        refine takeAE (i := 7) (oi := { dst := some 29, op := Op.move (Operand.tmp 36), type := 73, pos := "sha.go:35", after := #[{ on := 6, ground := Ground.data }], guard := none }) rfl (by kernel_rfl) (by kernel_rfl) (by kernel_rfl) (fun _ _ _ _ h => h) (by rfl) ?_
        apply Exists.intro
        refine ⟨fun w' => ?_, ?_⟩
        · go_simp <;> with_reducible rfl
        simp only [Act.put, List.setIfInBounds_toArray, List.set_cons_zero, List.set_cons_succ]
        refine takeAE (i := 8) (oi := { dst := some 37, op := Op.extract (Operand.tmp 29) 0, type := 64, pos := "sha.go:35", after := #[{ on := 7, ground := Ground.data }], guard := none }) rfl (by kernel_rfl) (by kernel_rfl) (by kernel_rfl) (fun _ _ _ _ h => h) (by rfl) ?_
        apply Exists.intro
        refine ⟨fun w' => ?_, ?_⟩
        · go_simp <;> with_reducible rfl
        simp only [Act.put, List.setIfInBounds_toArray, List.set_cons_zero, List.set_cons_succ]
        refine takeAE (i := 9) (oi := { dst := some 38, op := Op.extract (Operand.tmp 29) 1, type := 26, pos := "sha.go:35", after := #[{ on := 7, ground := Ground.data }, { on := 10, ground := Ground.gcOnly Departure.lateStores }], guard := none }) rfl (by kernel_rfl) (by kernel_rfl) (by kernel_rfl) (fun _ _ _ _ h => h) (by rfl) ?_
        apply Exists.intro
        refine ⟨fun w' => ?_, ?_⟩
        · go_simp <;> with_reducible rfl
        simp only [Act.put, List.setIfInBounds_toArray, List.set_cons_zero, List.set_cons_succ]
        refine storeW_all (i := 10) (oi := { dst := none, op := Op.store 64 (Operand.tmp 2) (Operand.tmp 37), type := 0, pos := "sha.go:35", after := #[{ on := 8, ground := Ground.data }, { on := 6, ground := Ground.chain }, { on := 0, ground := Ground.phase }, { on := 1, ground := Ground.phase }, { on := 2, ground := Ground.phase }, { on := 3, ground := Ground.phase }, { on := 4, ground := Ground.phase }, { on := 5, ground := Ground.phase }, { on := 6, ground := Ground.phase }, { on := 7, ground := Ground.phase }, { on := 8, ground := Ground.phase }, { on := 9, ground := Ground.textOnly Departure.lateStores }], guard := none }) rfl (by kernel_rfl) rfl 64 (.tmp 2) (.tmp 37) rfl w.heap.size rfl (ucs (whole s (D ++ p.take n)).words).toArray rfl 64 (ucs (whole s D).words).toArray H6.out.st (sz64 _) (fit64 _ _) (ucs_one _) rfl ?_
        intro w7 hh7 hg7 hz7
        have H7 : Hid (Pz w.heap.size w (whole s (D ++ p.take n)) w7) := ⟨hh7, (hg7.block _ (by have := H6.out.lt; omega) (by simp)).trans H6.out.res, by have := H6.out.lt; omega, H6.out.bel.grown hg7 (by have := H6.out.lt; omega) (fun r hr => by injection hr; omega)⟩
        have HO7 := Lib.hid (HO6.out.grown hg7 (fun r hr => by injection hr; omega))
        clear hh7 hg7 hz7 H6 HO6
        simp only [Act.put]
        refine takeAE (i := 11) (oi := { dst := some 6, op := Op.assign (Operand.tmp 38), type := 26, pos := "sha.go:35", after := #[{ on := 9, ground := Ground.data }, { on := 10, ground := Ground.chain }, { on := 0, ground := Ground.phase }, { on := 1, ground := Ground.phase }, { on := 2, ground := Ground.phase }, { on := 3, ground := Ground.phase }, { on := 4, ground := Ground.phase }, { on := 5, ground := Ground.phase }, { on := 6, ground := Ground.phase }, { on := 7, ground := Ground.phase }, { on := 8, ground := Ground.phase }, { on := 9, ground := Ground.phase }, { on := 10, ground := Ground.phase }], guard := none }) rfl (by kernel_rfl) (by kernel_rfl) (by kernel_rfl) (fun _ _ _ _ h => h) (by rfl) ?_
        apply Exists.intro
        refine ⟨fun w' => ?_, ?_⟩
        · go_simp <;> with_reducible rfl
        simp only [Act.put, List.setIfInBounds_toArray, List.set_cons_zero, List.set_cons_succ]
        refine doneW (by kernel_rfl) ?_ _
        rw [List.length_append, List.length_take] at HO7
        clear HTL HXL H HO h9i
        have Hn := Lib.hid h9d
        generalize ((rest D).length + min n p.length) % 128 = q6 at *
        have hlt7 := H7.out.lt
        have HC1 : Hid (∀ w', Below (w.heap.size + 2) w7.drew w' → ∀ i u, (ucs (whole s (D ++ p.take n)).words)[i]? = some u → w'.cell? ⟨w.heap.size, 0 + i, none⟩ = some u) := fun w' hk i u hu => by
          rw [Nat.zero_add]
          exact row_cells ((hk.block w.heap.size (by omega)).trans H7.out.st) i u (by simpa using hu)
        have HSz1 : Hid ((Try.prog.info? 64).map (·.size) = some (ucs (whole s (D ++ p.take n)).words).length) := by rw [size64, ucs_len]; exact rfl
        have h9i : (n : Int) ≤ (c : Int) := by omega
        go_wp2_with fail
        refine startW (fun j => j == 8) (w.heap.size + 2) (by kernel_rfl) ?_
        refine takeW (i := 0) (oi := { dst := some 40, op := Op.load 64 (Operand.tmp 2), type := 64, pos := "sha.go:37", after := #[], guard := none }) (.agg (ucs (whole s (D ++ p.take n)).words).toArray) rfl (by kernel_rfl) (by kernel_rfl) (by kernel_rfl) (by kernel_rfl) (fun _ _ _ h => h) (by rfl) (fun w' hk => exec_load 64 (.tmp 2) rfl w.heap.size 0 rfl (ucs (whole s (D ++ p.take n)).words) (HC1.out w' hk) _ under64 rfl HSz1.out) ?_
        simp only [Act.put, List.setIfInBounds_toArray, List.set_cons_zero, List.set_cons_succ]
        refine takeAE (i := 1) (oi := { dst := some 41, op := Op.move (Operand.tmp 8), type := 26, pos := "sha.go:37", after := #[], guard := none }) rfl (by kernel_rfl) (by kernel_rfl) (by kernel_rfl) (fun _ _ _ _ h => h) (by rfl) ?_
        apply Exists.intro
        refine ⟨fun w' => ?_, ?_⟩
        · go_simp <;> with_reducible rfl
        simp only [Act.put, List.setIfInBounds_toArray, List.set_cons_zero, List.set_cons_succ]
        refine takeAE (i := 2) (oi := { dst := some 42, op := Op.move (Operand.tmp 9), type := 3, pos := "sha.go:37", after := #[], guard := none }) rfl (by kernel_rfl) (by kernel_rfl) (by kernel_rfl) (fun _ _ _ _ h => h) (by rfl) ?_
        apply Exists.intro
        refine ⟨fun w' => ?_, ?_⟩
        · go_simp <;> with_reducible rfl
        simp only [Act.put, List.setIfInBounds_toArray, List.set_cons_zero, List.set_cons_succ]
        refine takeAE (i := 3) (oi := { dst := some 43, op := Op.slice 26 (Operand.tmp 41) (some (Operand.tmp 42)) none none, type := 26, pos := "sha.go:37", after := #[{ on := 1, ground := Ground.data }, { on := 2, ground := Ground.data }], guard := none }) rfl (by kernel_rfl) (by kernel_rfl) (by kernel_rfl) (fun _ _ _ _ h => h) (by rfl) ?_
        apply Exists.intro
        refine ⟨fun w' => ?_, ?_⟩
        · go_simp <;> with_reducible rfl
        simp only [Act.put, List.setIfInBounds_toArray, List.set_cons_zero, List.set_cons_succ]
        have HT8 : Hid (Src w7.drew S (if c = n then A else A.map (·.add n)) 0 (bcs (p.drop n))) := by
          have := HSR.out.drop_ (c := c) n h9a hnc
          rw [← bcs_drop] at this
          have this := (this.keep (w' := w7) (S' := S) (fun b o hb => (H7.out.bel.cell (p := ⟨b, o, none⟩) (hS b hb)).trans (HWR.out.cell (p := ⟨b, o, none⟩) (hS b hb)).symm) (fun _ h => h)).drewN 1
          first | exact this | (rw [Nat.sub_self] at this; exact this)
        have HNN := Lib.hid (src_len HT8.out)
        refine callW (i := 4) (oi := { dst := some 44, op := Op.call { callee := Callee.value (Operand.func 38), args := #[Operand.tmp 40, Operand.tmp 43], argTypes := #[64, 26] }, type := 73, pos := "sha.go:37", after := #[{ on := 0, ground := Ground.data }, { on := 3, ground := Ground.data }], guard := none }) rfl (by kernel_rfl) (by rfl) ?_ ((pieces_any (whole s (D ++ p.take n)) (whole_fits s _ hs) (p.drop n) w7.drew S _ 0 (c - n) HT8.out (fun b hb => by have := hS b hb; show b < w7.heap.size; omega) (by omega) (by omega) (by omega)).mono ?_)
        · go_simp
        rintro e8 w8 ⟨A8, c8, rfl, h8c, h8m, hsrc8, _, hb8⟩
        refine ⟨_, rfl, fun _ => hb8.mono hlt7, ?_⟩
        simp only [Act.put, List.setIfInBounds_toArray, List.set_cons_zero, List.set_cons_succ]
        have H8 : Hid (Pz w.heap.size w (whole s (D ++ p.take n)) w8) := (H7.out.below (w' := w8) ((below_drewN' (Below.refl w7.heap.size w7) 1).trans hb8))
        have HO8 : Hid (OwnB w8 (w.heap.size + 2) (.slice A6 q6 c6) (rest (D ++ p.take n))) := HO7.out.keep ((below_drewN' (Below.refl w7.heap.size w7) 1).trans hb8)
        have HS8 : Hid (Src w8 S A8 (0 % 128) (bcs (rest (p.drop n)))) := by
          unfold rest
          rw [HNN.out]
          exact hsrc8
        have HWE : runN (whole s (D ++ p.take n)) (p.drop n) (0 / 128) = whole s (D ++ p) := by
          rw [← (feed2 s D p n (by rw [HPL.out]; exact .inl rfl) (by rw [HPL.out]; exact h9a)).1]
          unfold whole
          rw [HNN.out]
        rw [HWE]
        clear HWE hsrc8 hb8 HC1 HSz1 HT8 H7 HO7
        refine takeAE (i := 5) (oi := { dst := some 39, op := Op.move (Operand.tmp 44), type := 73, pos := "sha.go:37", after := #[{ on := 4, ground := Ground.data }], guard := none }) rfl (by kernel_rfl) (by kernel_rfl) (by kernel_rfl) (fun _ _ _ _ h => h) (by rfl) ?_
        apply Exists.intro
        refine ⟨fun w' => ?_, ?_⟩
        · go_simp <;> with_reducible rfl
        simp only [Act.put, List.setIfInBounds_toArray, List.set_cons_zero, List.set_cons_succ]
        refine takeAE (i := 6) (oi := { dst := some 45, op := Op.extract (Operand.tmp 39) 0, type := 64, pos := "sha.go:37", after := #[{ on := 5, ground := Ground.data }], guard := none }) rfl (by kernel_rfl) (by kernel_rfl) (by kernel_rfl) (fun _ _ _ _ h => h) (by rfl) ?_
        apply Exists.intro
        refine ⟨fun w' => ?_, ?_⟩
        · go_simp <;> with_reducible rfl
        simp only [Act.put, List.setIfInBounds_toArray, List.set_cons_zero, List.set_cons_succ]
        refine takeAE (i := 7) (oi := { dst := some 46, op := Op.extract (Operand.tmp 39) 1, type := 26, pos := "sha.go:37", after := #[{ on := 5, ground := Ground.data }, { on := 8, ground := Ground.gcOnly Departure.lateStores }], guard := none }) rfl (by kernel_rfl) (by kernel_rfl) (by kernel_rfl) (fun _ _ _ _ h => h) (by rfl) ?_
        apply Exists.intro
        refine ⟨fun w' => ?_, ?_⟩
        · go_simp <;> with_reducible rfl
        simp only [Act.put, List.setIfInBounds_toArray, List.set_cons_zero, List.set_cons_succ]
        refine storeW_all (i := 8) (oi := { dst := none, op := Op.store 64 (Operand.tmp 2) (Operand.tmp 45), type := 0, pos := "sha.go:37", after := #[{ on := 6, ground := Ground.data }, { on := 4, ground := Ground.chain }, { on := 0, ground := Ground.phase }, { on := 1, ground := Ground.phase }, { on := 2, ground := Ground.phase }, { on := 3, ground := Ground.phase }, { on := 4, ground := Ground.phase }, { on := 5, ground := Ground.phase }, { on := 6, ground := Ground.phase }, { on := 7, ground := Ground.textOnly Departure.lateStores }], guard := none }) rfl (by kernel_rfl) rfl 64 (.tmp 2) (.tmp 45) rfl w.heap.size rfl (ucs (whole s (D ++ p)).words).toArray rfl 64 (ucs (whole s (D ++ p.take n)).words).toArray H8.out.st (sz64 _) (fit64 _ _) (ucs_one _) rfl ?_
        intro w9 hh9 hg9 hz9
        have hlt8 := H8.out.lt
        have H9 : Hid (Pz w.heap.size w (whole s (D ++ p)) w9) := ⟨hh9, (hg9.block _ (by omega) (by simp)).trans H8.out.res, by omega, H8.out.bel.grown hg9 (by omega) (fun r hr => by injection hr; omega)⟩
        have HO9 := Lib.hid (HO8.out.grown hg9 (fun r hr => by injection hr; omega))
        have HS9 : Hid (Src w9 S A8 (0 % 128) (bcs (rest (p.drop n)))) := HS8.out.keep (fun b o hb => (H9.out.bel.cell (p := ⟨b, o, none⟩) (hS b hb)).trans (H8.out.bel.cell (p := ⟨b, o, none⟩) (hS b hb)).symm) (fun _ h => h)
        clear hh9 hg9 hz9 H8 HO8 HS8
        simp only [Act.put]
        refine takeAE (i := 9) (oi := { dst := some 10, op := Op.assign (Operand.tmp 46), type := 26, pos := "sha.go:37", after := #[{ on := 7, ground := Ground.data }, { on := 8, ground := Ground.chain }, { on := 0, ground := Ground.phase }, { on := 1, ground := Ground.phase }, { on := 2, ground := Ground.phase }, { on := 3, ground := Ground.phase }, { on := 4, ground := Ground.phase }, { on := 5, ground := Ground.phase }, { on := 6, ground := Ground.phase }, { on := 7, ground := Ground.phase }, { on := 8, ground := Ground.phase }], guard := none }) rfl (by kernel_rfl) (by kernel_rfl) (by kernel_rfl) (fun _ _ _ _ h => h) (by rfl) ?_
        apply Exists.intro
        refine ⟨fun w' => ?_, ?_⟩
        · go_simp <;> with_reducible rfl
        simp only [Act.put, List.setIfInBounds_toArray, List.set_cons_zero, List.set_cons_succ]
        refine doneW (by kernel_rfl) ?_ _
        have hlt9 := H9.out.lt
        have HRL := Lib.hid (rest_len (D ++ p.take n))
        go_wp2_with (at_builtin; refine wpList_appB ?g2 _ _ rfl (w.heap.size + 2) _ _ rfl HO9.out S A8 0 c8 (rest (p.drop n)) rfl HS9.out (by rw [HRL.out]; omega) hlt9 ?_; exact rfl; intro v10 w10 ho10 hb10)
        have HO10 : Hid (OwnB w10 (w.heap.size + 2) v10 (rest (D ++ p))) := by
          rw [(feed2 s D p n (by rw [HPL.out]; exact .inl rfl) (by rw [HPL.out]; exact h9a)).2] at ho10
          exact ho10
        have H10 : Hid (Pz w.heap.size w (whole s (D ++ p)) w10) := ⟨(hb10.block _ (by omega)).trans H9.out.st, (hb10.block _ (by omega)).trans H9.out.res, Nat.le_trans hlt9 hb10.size, H9.out.bel.trans (hb10.mono (by omega))⟩
        clear ho10 hb10 H9 HO9 HS9
        go_wp2
        go_roundw
        case rel =>
          have hsz : ((D.length : Int) + (n : Int)) = ((D ++ p).length : Int) := by have := HPL.out; rw [List.length_append]; omega
          rw [hsz]
          first | exact ⟨j + 1, by omega, by go_num, by rw [HFS.out], by rw [HFS.out]; exact HO10.out, by rw [HFS.out]; exact H10.out⟩ | ((repeat apply Exists.intro); exact ⟨⟨j + 1, by omega, by go_num, by rw [HFS.out], by rw [HFS.out]; exact HO10.out, by rw [HFS.out]; exact H10.out⟩, rfl⟩)
        case measure => simp [intOf]; omega
    · obtain rfl : j = L.length := by omega
      clear hlt hj
      have hfl : (L.take L.length).flatten = L.flatten := by rw [List.take_length]
      rw [hfl] at HO H
      rw [hfl]
      clear hfl
      generalize L.flatten = D at *
      obtain ⟨A0, c0, rfl, hr0, hrm, _⟩ := HO.out.src
      have HHR := Lib.hid (rest_len D)
      have HC0 : Hid (∀ w', Below (w.heap.size + 2) wr.drew w' → ∀ i u, (ucs (whole s D).words)[i]? = some u → w'.cell? ⟨w.heap.size, 0 + i, none⟩ = some u) := fun w' hk i u hu => by
        rw [Nat.zero_add]
        exact row_cells ((hk.block w.heap.size (by omega)).trans H.out.st) i u (by simpa using hu)
      have HSz0 : Hid ((Try.prog.info? 64).map (·.size) = some (ucs (whole s D).words).length) := by rw [size64, ucs_len]; exact rfl
      go_wp2_with fail
      refine startW (fun j => j == 9) (w.heap.size + 2) (by kernel_rfl) ?_
      refine takeW (i := 0) (oi := { dst := some 52, op := Op.load 64 (Operand.tmp 2), type := 64, pos := "sha.go:40", after := #[], guard := none }) (.agg (ucs (whole s D).words).toArray) rfl (by kernel_rfl) (by kernel_rfl) (by kernel_rfl) (by kernel_rfl) (fun _ _ _ h => h) (by rfl) (fun w' hk => exec_load 64 (.tmp 2) rfl w.heap.size 0 rfl (ucs (whole s D).words) (HC0.out w' hk) _ under64 rfl HSz0.out) ?_
      simp only [Act.put, List.setIfInBounds_toArray, List.set_cons_zero, List.set_cons_succ]
      refine takeAE (i := 1) (oi := { dst := some 53, op := Op.move (Operand.tmp 6), type := 26, pos := "sha.go:40", after := #[], guard := none }) rfl (by kernel_rfl) (by kernel_rfl) (by kernel_rfl) (fun _ _ _ _ h => h) (by rfl) ?_
      apply Exists.intro
      refine ⟨fun w' => ?_, ?_⟩
      · go_simp <;> with_reducible rfl
      simp only [Act.put, List.setIfInBounds_toArray, List.set_cons_zero, List.set_cons_succ]
      refine takeAE (i := 2) (oi := { dst := some 54, op := Op.move (Operand.tmp 5), type := 25, pos := "sha.go:40", after := #[], guard := none }) rfl (by kernel_rfl) (by kernel_rfl) (by kernel_rfl) (fun _ _ _ _ h => h) (by rfl) ?_
      apply Exists.intro
      refine ⟨fun w' => ?_, ?_⟩
      · go_simp <;> with_reducible rfl
      simp only [Act.put, List.setIfInBounds_toArray, List.set_cons_zero, List.set_cons_succ]
      refine callW (i := 3) (oi := { dst := some 55, op := Op.call { callee := Callee.value (Operand.func 39), args := #[Operand.tmp 54], argTypes := #[25] }, type := 26, pos := "sha.go:40", after := #[{ on := 2, ground := Ground.data }], guard := none }) rfl (by kernel_rfl) (by rfl) ?_ ((padding_any D.length (by omega) wr.drew).mono ?_)
      · go_simp
      rintro e4 w4 ⟨v4, rfl, ho4, hb4⟩
      refine ⟨_, rfl, fun _ => hb4.mono hlt0, ?_⟩
      simp only [Act.put, List.setIfInBounds_toArray, List.set_cons_zero, List.set_cons_succ]
      obtain ⟨A4, c4, rfl, h4c, h4m, hsrc4⟩ := ho4.src
      have HS4 := Lib.hid hsrc4
      have HPD := Lib.hid (padL_len D.length)
      have HZN := Lib.hid (zn_lt D.length)
      have hbw : Below wr.heap.size wr w4 := (below_drewN' (Below.refl wr.heap.size wr) 1).trans hb4
      have H4 := Lib.hid (H.out.below hbw)
      have HO4 := Lib.hid (HO.out.keep hbw)
      have hlt4 := H4.out.lt
      clear hsrc4 ho4 hb4 hbw HC0 HSz0
      refine appW (i := 4) (oi := { dst := some 56, op := Op.call { callee := Callee.builtin Builtin.append, args := #[Operand.tmp 53, Operand.tmp 55], argTypes := #[26, 26] }, type := 26, pos := "sha.go:40", after := #[{ on := 1, ground := Ground.data }, { on := 3, ground := Ground.data }, { on := 3, ground := Ground.chain }], guard := none }) rfl (by kernel_rfl) rfl (.tmp 53) (.tmp 55) rfl (.slice A0 (rest D).length c0) (rest D) rfl HO4.out _ A4 _ c4 (padL D.length) rfl HS4.out (by rw [HPD.out, HHR.out]; have := HZN.out; omega) hlt4 ?_
      intro v5 w5 ho5 hb5
      simp only [Act.put, List.setIfInBounds_toArray, List.set_cons_zero, List.set_cons_succ]
      have H5 : Hid (Pz w.heap.size w (whole s D) w5) := ⟨(hb5.block _ (by omega)).trans H4.out.st, (hb5.block _ (by omega)).trans H4.out.res, Nat.le_trans hlt4 hb5.size, H4.out.bel.trans (hb5.mono (by omega))⟩
      obtain ⟨A5, c5, rfl, h5c, h5m, hsrc5⟩ := ho5.src
      have HS5 := Lib.hid hsrc5
      have HXL := Lib.hid (show (rest D ++ padL D.length).length ≤ 1099511627776 from by rw [List.length_append, HPD.out, HHR.out]; have := HZN.out; omega)
      clear ho5 hsrc5 hb5 H4 HO4 HS4
      refine callW (i := 5) (oi := { dst := some 57, op := Op.call { callee := Callee.value (Operand.func 38), args := #[Operand.tmp 52, Operand.tmp 56], argTypes := #[64, 26] }, type := 73, pos := "sha.go:40", after := #[{ on := 0, ground := Ground.data }, { on := 4, ground := Ground.data }, { on := 4, ground := Ground.chain }], guard := none }) rfl (by kernel_rfl) (by rfl) ?_ ((pieces_any (whole s D) (whole_fits s D hs) (rest D ++ padL D.length) w5 _ A5 _ c5 HS5.out (fun b hb => hb.2) HXL.out h5c h5m).mono ?_)
      · go_simp
      rintro e6 w6 ⟨A6, c6, rfl, h6c, h6m, _, _, hb6⟩
      refine ⟨_, rfl, fun _ => hb6.mono (by have := H5.out.lt; omega), ?_⟩
      simp only [Act.put, List.setIfInBounds_toArray, List.set_cons_zero, List.set_cons_succ]
      have H6 := Lib.hid (H5.out.below hb6)
      clear hb6 HS5 H5
      rw [show runN (whole s D) (rest D ++ padL D.length) ((rest D ++ padL D.length).length / 128) = sumS s D from HFIN.out.symm]
      refine takeAE (i := 6) (oi := { dst := some 51, op := Op.move (Operand.tmp 57), type := 73, pos := "sha.go:40", after := #[{ on := 5, ground := Ground.data }], guard := none }) rfl (by kernel_rfl) (by kernel_rfl) (by kernel_rfl) (fun _ _ _ _ h => h) (by rfl) ?_
      apply Exists.intro
      refine ⟨fun w' => ?_, ?_⟩
      · go_simp <;> with_reducible rfl
      simp only [Act.put, List.setIfInBounds_toArray, List.set_cons_zero, List.set_cons_succ]
      refine takeAE (i := 7) (oi := { dst := some 58, op := Op.extract (Operand.tmp 51) 0, type := 64, pos := "sha.go:40", after := #[{ on := 6, ground := Ground.data }], guard := none }) rfl (by kernel_rfl) (by kernel_rfl) (by kernel_rfl) (fun _ _ _ _ h => h) (by rfl) ?_
      apply Exists.intro
      refine ⟨fun w' => ?_, ?_⟩
      · go_simp <;> with_reducible rfl
      simp only [Act.put, List.setIfInBounds_toArray, List.set_cons_zero, List.set_cons_succ]
      refine takeAE (i := 8) (oi := { dst := some 59, op := Op.extract (Operand.tmp 51) 1, type := 26, pos := "sha.go:40", after := #[{ on := 6, ground := Ground.data }, { on := 9, ground := Ground.gcOnly Departure.lateStores }], guard := none }) rfl (by kernel_rfl) (by kernel_rfl) (by kernel_rfl) (fun _ _ _ _ h => h) (by rfl) ?_
      apply Exists.intro
      refine ⟨fun w' => ?_, ?_⟩
      · go_simp <;> with_reducible rfl
      simp only [Act.put, List.setIfInBounds_toArray, List.set_cons_zero, List.set_cons_succ]
      refine storeW_all (i := 9) (oi := { dst := none, op := Op.store 64 (Operand.tmp 2) (Operand.tmp 58), type := 0, pos := "sha.go:40", after := #[{ on := 7, ground := Ground.data }, { on := 5, ground := Ground.chain }, { on := 0, ground := Ground.phase }, { on := 1, ground := Ground.phase }, { on := 2, ground := Ground.phase }, { on := 3, ground := Ground.phase }, { on := 4, ground := Ground.phase }, { on := 5, ground := Ground.phase }, { on := 6, ground := Ground.phase }, { on := 7, ground := Ground.phase }, { on := 8, ground := Ground.textOnly Departure.lateStores }], guard := none }) rfl (by kernel_rfl) rfl 64 (.tmp 2) (.tmp 58) rfl w.heap.size rfl (ucs (sumS s D).words).toArray rfl 64 (ucs (whole s D).words).toArray H6.out.st (sz64 _) (fit64 _ _) (ucs_one _) rfl ?_
      intro w7 hh7 hg7 hz7
      have H7 : Hid (Pz w.heap.size w (sumS s D) w7) := ⟨hh7, (hg7.block _ (by have := H6.out.lt; omega) (by simp)).trans H6.out.res, by have := H6.out.lt; omega, H6.out.bel.grown hg7 (by have := H6.out.lt; omega) (fun r hr => by injection hr; omega)⟩
      clear hh7 hg7 hz7 H6
      simp only [Act.put]
      refine doneW (by kernel_rfl) ?_ _
      have HC7 : Hid (∀ i u, (ucs (sumS s D).words)[i]? = some u → w7.cell? ⟨w.heap.size, 0 + i, none⟩ = some u) := fun i u hu => by
        rw [Nat.zero_add]
        exact row_cells H7.out.st i u (by simpa using hu)
      have HSz7 : Hid ((Try.prog.info? 64).map (·.size) = some (ucs (sumS s D).words).length) := by rw [size64, ucs_len]; exact rfl
      have hlt7 := H7.out.lt
      go_wp2_with (first | ((with_reducible show wpList _ _ _ (⟨_, .load 64 (.tmp 2), _, _, _, _⟩ :: _) _ _); refine wpList_load_arr rfl 64 (.tmp 2) rfl w.heap.size 0 rfl (ucs (sumS s D).words) HC7.out _ under64 rfl HSz7.out ?_) | ((with_reducible show wpList _ _ _ (⟨none, .store 64 (.tmp 4) (.tmp 60), _, _, _, _⟩ :: _) _ _); refine wpList_store_all rfl 64 (.tmp 4) (.tmp 60) rfl (w.heap.size + 1) rfl (ucs (sumS s D).words).toArray rfl 64 (zw 8) H7.out.res (sz64 _) rfl (ucs_one _) ?_; intro w8 hh8 hg8 hz8))
      have H8 := Lib.hid hh8
      have G8 := Lib.hid hg8
      clear hh8 hg8
      go_wp2
      refine bodyPost_ret (results_cell_row rfl _ _ (w.heap.size + 1) 64 (ucs (sumS s D).words).toArray _ _ rfl H8.out under64 rfl (sz64 _)) rfl ?_
      exact ⟨rfl, H7.out.bel.grown G8.out (by omega) (fun r hr => by injection hr; omega)⟩
end Go.Proofs.Ytkglicidjdifkaa
