/- A call of a disk, in plain words and in memory. No statement is proved here. -/
import Derived.Test.YtfhjcfoecmbhkaaLC
namespace Go.Proofs.Ytfhjcfoecmbhkaa
open Go.RowKit Go.Maps
set_option linter.unusedVariables false
set_option linter.unusedSimpArgs false

/-- Does a call write? -/
def okW (n : Nat) (v : ActV) : Bool := decide (0 ≤ v.at_ ∧ v.at_ < (n : Int)) && !v.long
/-- A disk behind a call. -/
def stepA (n : Nat) (v : ActV) (s : (Nat → List UInt8) × (Nat → Option (List UInt8))) : (Nat → List UInt8) × (Nat → Option (List UInt8)) :=
  if pk v.kind 5 = 0 then s
  else if pk v.kind 5 = 3 then (crash s.2 (fun _ => true) s.1, fun _ => none)
  else if pk v.kind 5 = 4 then (crash s.2 (fun k => v.ks.getD k false) s.1, fun _ => none)
  else if okW n v = true then (s.1, upd s.2 v.at_.toNat (some (actB v.b false))) else s

theorem Bx.cells {w : World} {g : Nat} {v : ActV} (h : Bx w g v) : ∀ j u, v.cells[j]? = some u → w.cell? ⟨g, j, none⟩ = some u := by
  intro j u hj
  have : j < 5 := (List.getElem?_eq_some_iff.1 hj).1
  have hc : j = 0 ∨ j = 1 ∨ j = 2 ∨ j = 3 ∨ j = 4 := by omega
  rcases hc with rfl | rfl | rfl | rfl | rfl <;> (cases hj)
  · exact h.c0
  · exact h.c1
  · exact h.c2
  · exact h.c3
  · exact h.c4
theorem size46 : (Try.prog.info? 46).map (·.size) = some 5 := by kernel_rfl
theorem stepA_def (n : Nat) (v : ActV) (S : Nat → List UInt8) (C : Nat → Option (List UInt8)) : stepA n v (S, C) = if pk v.kind 5 = 0 then (S, C)
  else if pk v.kind 5 = 3 then (crash C (fun _ => true) S, fun _ => none)
  else if pk v.kind 5 = 4 then (crash C (fun k => v.ks.getD k false) S, fun _ => none)
  else if okW n v = true then (S, upd C v.at_.toNat (some (actB v.b false))) else (S, C) := rfl
section
variable {w : World} {lo hi p n : Nat} {S : Nat → List UInt8} {C : Nat → Option (List UInt8)}
theorem read_all (h : Dk w lo hi p n S C) (z : Int) : Calls Try.prog 11 #[.pointer (some ⟨p, 0, none⟩), .int .i64 z] w fun e w' => ∃ r x, e = .returned (.tuple #[r, .int .i64 x]) ∧ Below w.heap.size w w' := by
  by_cases hz : 0 ≤ z ∧ z < (n : Int)
  · obtain ⟨i, rfl⟩ := Int.eq_ofNat_of_zero_le hz.1
    refine (read_in h i (by omega)).mono ?_
    rintro e w' ⟨v, rfl, _, hb⟩
    exact ⟨v, 0, rfl, hb⟩
  · refine (read_out h z (by omega)).mono ?_
    rintro e w' ⟨rfl, rfl⟩
    exact ⟨_, 2, rfl, Below.refl _ _⟩
theorem write_act (h : Dk w lo hi p n S C) (v : ActV) (u : Value) (B : Nat) (ho : w.ownsRow B 5 1 u (actB v.b v.long).length (bcs (actB v.b v.long))) :
    Calls Try.prog 12 #[.pointer (some ⟨p, 0, none⟩), .int .i64 v.at_, u] w fun e w' => e = .returned (.int .i64 (if okW n v = true then 0 else 2)) ∧ Dk w' lo hi p n S (if okW n v = true then upd C v.at_.toNat (some (actB v.b false)) else C) ∧ Keeps (fun b => lo ≤ b ∧ b < hi) w w' := by
  obtain ⟨A, c, rfl, hs⟩ := own_src ho
  by_cases hz : 0 ≤ v.at_ ∧ v.at_ < (n : Int)
  · obtain ⟨i, hi'⟩ := Int.eq_ofNat_of_zero_le hz.1
    rw [hi'] at hz
    cases hl : v.long
    · have hok : okW n v = true := by unfold okW; rw [hl, hi']; simp; omega
      rw [hl] at hs
      rw [if_pos hok, if_pos hok, hi']
      have hlen : (actB v.b false).length = 256 := by rw [actB_len]; rfl
      rw [hlen] at hs
      rw [hlen]
      exact write_in h i (by omega) _ A c _ hs
    · have hok : ¬ okW n v = true := by unfold okW; rw [hl]; simp
      rw [if_neg hok, if_neg hok, hi']
      have hlen : (actB v.b true).length = 257 := by rw [actB_len]; rfl
      rw [hlen]
      refine (write_len h i (by omega) A 257 c (by omega) (by omega)).mono ?_
      rintro e w' ⟨rfl, rfl⟩
      exact ⟨rfl, h, Keeps.refl _ _⟩
  · have hok : ¬ okW n v = true := by unfold okW; simp; intro h1 h2; exact absurd ⟨h1, h2⟩ hz
    rw [if_neg hok, if_neg hok]
    refine (write_out h v.at_ (by omega) A _ c).mono ?_
    rintro e w' ⟨rfl, rfl⟩
    exact ⟨rfl, h, Keeps.refl _ _⟩
theorem write_do (h : Dk w lo hi p n S C) (v : ActV) (u : Value) (B : Nat) (ho : w.ownsRow B 5 1 u (actB v.b v.long).length (bcs (actB v.b v.long))) (st : (Nat → List UInt8) × (Nat → Option (List UInt8))) (hst : st = if okW n v = true then (S, upd C v.at_.toNat (some (actB v.b false))) else (S, C)) :
    Calls Try.prog 12 #[.pointer (some ⟨p, 0, none⟩), .int .i64 v.at_, u] w fun e w' => ∃ x, e = .returned (.int .i64 x) ∧ Dk w' lo hi p n st.1 st.2 ∧ Keeps (fun b => lo ≤ b ∧ b < hi) w w' := by
  refine (write_act h v u B ho).mono ?_
  rintro e w' ⟨rfl, hd, hk⟩
  refine ⟨_, rfl, ?_, hk⟩
  subst hst
  by_cases hok : okW n v = true
  · rw [if_pos hok] at hd ⊢; exact hd
  · rw [if_neg hok] at hd ⊢; exact hd
theorem Dk.hle (h : Dk w lo hi p n S C) : hi ≤ w.heap.size := by obtain ⟨bs, bm, cap, cur, D, h⟩ := h; exact h.hle
theorem under44 : Try.prog.underlying 44 = some (.slice 4) := by kernel_rfl
theorem info4 : (Try.prog.info? 4).map (fun i => (i.zero, i.size, i.bytes)) = some (some (.bool false), 1, 1) := by kernel_rfl
theorem bools_one (l : List Bool) : ∀ u ∈ l.map Value.bool, u.oneCell' = true := by
  intro u hu
  obtain ⟨b, _, rfl⟩ := List.mem_map.1 hu
  rfl

set_option maxRecDepth 100000 in
set_option maxHeartbeats 2000000 in
theorem do_any (h : Dk w lo hi p n S C) (v : ActV) (hv : v.Ok w) (hkn : v.kn ≤ 80) : Calls Try.prog 30 #[.pointer (some ⟨p, 0, none⟩), .agg v.cells.toArray] w fun e w' => e = .returned (.tuple #[]) ∧ Dk w' lo hi p n (stepA n v (S, C)).1 (stepA n v (S, C)).2 ∧ Keeps (fun b => lo ≤ b ∧ b < hi) w w' := by
  obtain ⟨i0, hi0, hq0, hq1, hq2⟩ := info_parts info4
  have hle := h.hle
  have HD := Lib.hid h
  have HV := Lib.hid hv
  have hpk := pk_lt v.kind 5 (by omega)
  clear h hv
  go_enter Try.func30, Try.ntmps30
  go_wp2_with ((with_reducible show wpList _ _ _ (⟨some 3, .box 46 _, _, _, _, _⟩ :: _) _ _); go_must (refine wpList_box46 rfl _ rfl v rfl ?_; intro w1 hh1 hz1 hg1; have HX1 := Lib.hid (Bx.of hh1); have HB1 := Lib.hid (below_of_grownBy hg1); have c0 := HX1.out.c0; have HZ1 := Lib.hid hz1; clear hh1 hg1 hz1))
  refine (pick_any w1 v.kind 5 (by omega) (by omega)).mono ?_
  rintro e2 w2 ⟨rfl, hw2⟩
  subst hw2
  have HD1 := Lib.hid (HD.out.below HB1.out)
  have HV1 := Lib.hid (HV.out.below HB1.out)
  have c1 := HX1.out.c1
  have c4 := HX1.out.c4
  have hst := stepA_def n v S C
  generalize pk v.kind 5 = q at *
  have hq : q = 0 ∨ q = 1 ∨ q = 2 ∨ q = 3 ∨ q = 4 := by omega
  clear hpk HD HV
  rcases hq with rfl | hq
  · simp only [if_true] at hst
    have HS := Lib.hid hst
    clear hst
    go_wp2_with fail
    refine (read_all HD1.out v.at_).mono ?_
    rintro e3 w3 ⟨r, x, rfl, hb3⟩
    have HD3 := Lib.hid (HD1.out.below hb3)
    have HB3 := Lib.hid (HB1.out.trans (hb3.mono HB1.out.size))
    clear hb3
    go_wp2
    go_end0
    rw [HS.out]
    exact ⟨rfl, HD3.out, Keeps.of_below HB3.out⟩
  · rcases hq with rfl | rfl | rfl | rfl
    rotate_left 2
    · simp only [show ¬ (3 = 0) from by omega, if_true, if_false] at hst
      have HS := Lib.hid hst
      clear hst
      go_wp2_with fail
      refine (flush_any HD1.out).mono ?_
      rintro e3 w3 ⟨rfl, hd3, hk3⟩
      have HD3 := Lib.hid hd3
      have HK3 := Lib.hid ((Keeps.of_below HB1.out).trans hk3)
      clear hd3 hk3
      go_wp2
      go_end0
      rw [HS.out]
      exact ⟨rfl, HD3.out, HK3.out⟩
    · simp only [show ¬ (4 = 0) from by omega, show ¬ (4 = 3) from by omega, if_true, if_false] at hst
      have HS := Lib.hid hst
      clear hst
      have HKP : Hid (Src (w2.alloc (.cells #[] 4)) (· < w2.heap.size) v.A v.kn (v.ks.map Value.bool)) := Lib.hid (HV1.out.keep.alloc (fun _ h => h) _)
      have c4' : (w2.alloc (.cells #[] 4)).cell? ⟨w.heap.size, 4, none⟩ = some (.slice v.A v.kn v.kc) := ((below_alloc w2 (.cells #[] 4)).cell (p := ⟨w.heap.size, 4, none⟩) (by have := HZ1.out; show w.heap.size < _; omega)).trans c4
      have HB2 := Lib.hid (HB1.out.trans ((below_alloc w2 (.cells #[] 4)).mono HB1.out.size))
      have HD2 := Lib.hid (HD1.out.below (below_alloc w2 (.cells #[] 4)))
      go_wp2_with (at_builtin; go_must (refine wpList_app _ rfl _ _ 44 rfl w2.heap.size 4 i0 (.bool false) 1 under44 hi0 hq0 hq1 hq2 rfl _ 0 [] rfl (World.ownsRow_made w2 #[] 0 (Nat.le_refl _) (Nat.zero_le _) (by simp)) _ _ v.kn v.kc (v.ks.map Value.bool) rfl HKP.out (bools_one _) (by unfold maxLen; omega) (by omega) (by simp) ?_; intro u3 w3 ho3 hg3 hl3))
      have hg4 : (w2.alloc (.cells #[] 4)).grownBy w3 (some w2.heap.size) := hg3
      have HZ2 : Hid (w.heap.size < w2.heap.size) := Lib.hid (by have := HZ1.out; omega)
      have HB3 := Lib.hid (HB2.out.grown hg4 HB2.out.size (fun r hr => by cases hr; have := HZ2.out; omega))
      have HD3 := Lib.hid (HD2.out.keeps (Keeps.of_grown (G := fun b => b = w2.heap.size) hg4 (fun r hr => by cases hr; rfl)) (fun b h1 h2 h3 => by have := HZ2.out; omega))
      obtain ⟨A3, c3, rfl, hs3⟩ := own_src ho3
      refine (crash_any HD3.out A3 _ c3 v.ks (fun g => w2.heap.size ≤ g ∧ g < w3.heap.size) (by simpa using hs3) (fun b (hb : w2.heap.size ≤ b ∧ b < w3.heap.size) => ⟨hb.2, by have := HZ2.out; omega⟩) (by omega)).mono ?_
      rintro e4 w4 ⟨rfl, hd4, hk4⟩
      have HD4 := Lib.hid hd4
      have HK4 := Lib.hid ((Keeps.of_below HB3.out).trans hk4)
      clear hd4 hk4
      go_wp2
      go_end0
      rw [HS.out]
      exact ⟨rfl, HD4.out, HK4.out⟩
    all_goals (
      simp only [show ¬ (1 = 0) from by omega, show ¬ (2 = 0) from by omega, show ¬ (1 = 3) from by omega, show ¬ (2 = 3) from by omega, show ¬ (1 = 4) from by omega, show ¬ (2 = 4) from by omega, if_false] at hst
      have HS := Lib.hid hst
      clear hst
      have HCL : Hid (∀ j u, v.cells[j]? = some u → w2.cell? ⟨w.heap.size, j, none⟩ = some u) := Lib.hid HX1.out.cells
      have HXK : ∀ w', Keeps (fun b => lo ≤ b ∧ b < hi) w2.drew w' → Bx w' w.heap.size v := fun w' hk => HX1.out.keeps ((Keeps.drew _ w2).trans hk) (by have := HZ1.out; omega) (by omega)
      go_wp2_with fail
      refine anyStart (fun b => lo ≤ b ∧ b < hi) (by kernel_rfl) ?_
      refine anyTakeE (i := 0) (oi := { dst := some 7, op := Op.move (Operand.tmp 0), type := 22, pos := "law.go:245", after := #[], guard := none }) rfl (by kernel_rfl) (by kernel_rfl) (by kernel_rfl) (fun _ _ _ _ h => h) (by rfl) ?_
      apply Exists.intro
      refine ⟨fun w' hk => ?_, ?_⟩
      · go_simp <;> with_reducible rfl
      simp only [Act.put, List.setIfInBounds_toArray, List.set_cons_zero, List.set_cons_succ]
      refine anyTakeE (i := 1) (oi := { dst := some 8, op := Op.fieldAddr 46 (Operand.tmp 3) 1, type := 0, pos := "law.go:245", after := #[], guard := none }) rfl (by kernel_rfl) (by kernel_rfl) (by kernel_rfl) (fun _ _ _ _ h => h) (by rfl) ?_
      apply Exists.intro
      refine ⟨fun w' hk => ?_, ?_⟩
      · go_simp <;> with_reducible rfl
      simp only [Act.put, List.setIfInBounds_toArray, List.set_cons_zero, List.set_cons_succ]
      refine anyTakeE (i := 2) (oi := { dst := some 9, op := Op.load 3 (Operand.tmp 8), type := 3, pos := "law.go:245", after := #[{ on := 1, ground := Ground.data }], guard := none }) rfl (by kernel_rfl) (by kernel_rfl) (by kernel_rfl) (fun _ _ _ _ h => h) (by rfl) ?_
      apply Exists.intro
      refine ⟨fun w' hk => ?_, ?_⟩
      · have c9 := (HXK w' hk).c1; go_simp <;> with_reducible rfl
      simp only [Act.put, List.setIfInBounds_toArray, List.set_cons_zero, List.set_cons_succ]
      refine anyTake (i := 3) (oi := { dst := some 10, op := Op.load 46 (Operand.tmp 3), type := 46, pos := "law.go:245", after := #[], guard := none }) rfl (by kernel_rfl) (by kernel_rfl) (by kernel_rfl) (fun _ _ _ h => h) (by rfl) (fun w' hk => exec_load 46 (.tmp 3) rfl w.heap.size 0 rfl v.cells (fun j u hj => (hk.cell (b := w.heap.size) (o := 0 + j) (by have := HZ1.out; show _ < w2.heap.size; omega) (by omega)).trans (by show w2.cell? _ = _; rw [Nat.zero_add]; exact HCL.out j u hj)) _ Try.underlying46 rfl (by rw [size46]; rfl)) ?_
      simp only [Act.put, List.setIfInBounds_toArray, List.set_cons_zero, List.set_cons_succ]
      refine anyCall (i := 4) (oi := { dst := some 11, op := Op.call { callee := Callee.value (Operand.func 25), args := #[Operand.tmp 10], argTypes := #[46] }, type := 27, pos := "law.go:245", after := #[{ on := 3, ground := Ground.data }], guard := none }) rfl (by kernel_rfl) (by rfl) ?_ (((bytes_any w2.drew v)).mono ?_)
      · go_simp
      rintro e4 w4 ⟨u4, rfl, ho4, hb4⟩
      have hb4w : Below w2.heap.size w2 w4 := ⟨hb4.os, hb4.tape, hb4.output, hb4.size, hb4.block⟩
      have HD4 := Lib.hid (HD1.out.below hb4w)
      have HB4 := Lib.hid (HB1.out.trans (hb4w.mono HB1.out.size))
      refine ⟨_, rfl, Keeps.of_below hb4, ?_⟩
      simp only [Act.put, List.setIfInBounds_toArray, List.set_cons_zero, List.set_cons_succ]
      refine anyCall (i := 5) (oi := { dst := some 12, op := Op.call { callee := Callee.value (Operand.func 12), args := #[Operand.tmp 7, Operand.tmp 9, Operand.tmp 11], argTypes := #[22, 3, 27] }, type := 23, pos := "law.go:245", after := #[{ on := 0, ground := Ground.data }, { on := 2, ground := Ground.data }, { on := 4, ground := Ground.data }, { on := 4, ground := Ground.chain }], guard := none }) rfl (by kernel_rfl) (by rfl) ?_ (((write_do HD4.out v u4 _ ho4 _ HS.out)).mono ?_)
      · go_simp
      rintro e5 w5 ⟨x5, rfl, hd5, hk5⟩
      refine ⟨_, rfl, hk5, ?_⟩
      simp only [Act.put, List.setIfInBounds_toArray, List.set_cons_zero, List.set_cons_succ]
      refine anyDone (by kernel_rfl) ?_ _
      go_wp2
      go_end0
      exact ⟨rfl, hd5, (Keeps.of_below HB4.out).trans hk5⟩)
end
end Go.Proofs.Ytfhjcfoecmbhkaa
