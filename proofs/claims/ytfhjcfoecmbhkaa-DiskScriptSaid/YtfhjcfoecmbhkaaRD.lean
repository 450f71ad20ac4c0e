/- The document's own disk: a flush, a crash, what is cached, writes that fail. No statement is proved here. -/
import Derived.Test.YtfhjcfoecmbhkaaRC
import Derived.Test.YtfhjcfoecmbhkaaDG
namespace Go.Proofs.Ytfhjcfoecmbhkaa
open Go.RowKit Go.Maps
set_option linter.unusedVariables false
set_option linter.unusedSimpArgs false

section
variable {w : World} {lo up r n : Nat} {S : Nat → List UInt8} {C : Nat → Option (List UInt8)}
set_option maxHeartbeats 600000 in
theorem rflush_any (h : Rf w lo up r n S C) : Calls Try.prog 22 #[.pointer (some ⟨r, 0, none⟩)] w fun e w' => e = .returned (.int .i64 0) ∧ Rf w' lo up r n (crash C (fun _ => true) S) (fun _ => none) ∧ Keeps (fun b => lo ≤ b ∧ b < up) w w' := by
  have HP := Lib.hid (rput_any h (fun _ => true) true none 0 [] (fun _ => False) (Src.nil_ w _ none) (fun b hb => hb.elim) (by simp) (fun k => by simp))
  clear h
  go_enter Try.func22, Try.ntmps22
  go_wp2_with (go_at_call 43; go_must (refine HP.out.mono ?_; rintro e2 w2 ⟨rfl, hd2, hk2⟩))
  go_ret
  exact ⟨rfl, hd2, hk2⟩
set_option maxHeartbeats 600000 in
theorem rcrash_any (h : Rf w lo up r n S C) (A : Option Addr) (c : Nat) (ks : List Bool) (SK : Nat → Prop) (hs : Src w SK A ks.length (ks.map Value.bool)) (hSK : ∀ b, SK b → b < w.heap.size ∧ ¬ lo ≤ b) (hm : ks.length ≤ 1000000000) :
    Calls Try.prog 24 #[.pointer (some ⟨r, 0, none⟩), .slice A ks.length c] w fun e w' => e = .returned (.int .i64 0) ∧ Rf w' lo up r n (crash C (fun k => ks.getD k false) S) (fun _ => none) ∧ Keeps (fun b => lo ≤ b ∧ b < up) w w' := by
  have HP := Lib.hid (rput_any h (fun k => ks.getD k false) false A c ks SK hs hSK hm (fun k => by simp))
  clear h hs
  go_enter Try.func24, Try.ntmps24
  go_wp2_with (go_at_call 43; go_must (refine HP.out.mono ?_; rintro e2 w2 ⟨rfl, hd2, hk2⟩))
  go_ret
  exact ⟨rfl, hd2, hk2⟩
set_option maxHeartbeats 600000 in
theorem rwrite_out (h : Rf w lo up r n S C) (z : Int) (hz : z < 0 ∨ (n : Int) ≤ z) (A : Option Addr) (m c : Nat) :
    Calls Try.prog 26 #[.pointer (some ⟨r, 0, none⟩), .int .i64 z, .slice A m c] w fun e w' => e = .returned (.int .i64 2) ∧ w' = w := by
  have hS := rsize_any h
  clear h
  by_cases h0 : z < 0
  · go_enter Try.func26, Try.ntmps26
    go_wp2_with (go_at_call 42; refine hS.mono ?_; rintro e w' ⟨rfl, rfl⟩)
    go_ret
    exact ⟨rfl, rfl⟩
  · have h1 : (n : Int) ≤ z := by omega
    have h2 : ¬ (z < (n : Int)) := by omega
    go_enter Try.func26, Try.ntmps26
    go_wp2_with (go_at_call 42; refine hS.mono ?_; rintro e w' ⟨rfl, rfl⟩)
    go_ret
    exact ⟨rfl, rfl⟩
set_option maxHeartbeats 600000 in
theorem rwrite_len (h : Rf w lo up r n S C) (i : Nat) (hi' : i < n) (A : Option Addr) (m c : Nat) (hm : m < 256 ∨ 256 < m) (hm2 : m ≤ 1000000000) :
    Calls Try.prog 26 #[.pointer (some ⟨r, 0, none⟩), .int .i64 (i : Int), .slice A m c] w fun e w' => e = .returned (.int .i64 2) ∧ w' = w := by
  have hS := rsize_any h
  have h0 : ¬ ((i : Int) < 0) := by omega
  have h1 : (i : Int) < (n : Int) := by omega
  have hne : ((m : Int) != 256) = true := by simp; omega
  clear h
  go_enter Try.func26, Try.ntmps26
  go_wp2_with (go_at_call 42; refine hS.mono ?_; rintro e w' ⟨rfl, rfl⟩)
  go_ret
  exact ⟨rfl, rfl⟩
theorem info3 : (Try.prog.info? 3).map (fun i => (i.zero, i.size, i.bytes)) = some (some (.int .i64 0), 1, 8) := by kernel_rfl
theorem under32 : Try.prog.underlying 32 = some (.slice 3) := by kernel_rfl
theorem ics_one (l : List Nat) : ∀ u ∈ Ytfhjcfoecmbhkaa.ics l, u.oneCell' = true := by
  intro u hu
  obtain ⟨b, _, rfl⟩ := List.mem_map.1 hu
  rfl
theorem cks_some {C : Nat → Option (List UInt8)} {i : Nat} (h : (C i).isSome = true) : cks (i + 1) C = cks i C ++ [i] := by rw [cks_succ, h]; rfl
theorem cks_none {C : Nat → Option (List UInt8)} {i : Nat} (h : C i = none) : cks (i + 1) C = cks i C := by rw [cks_succ, h]; simp
set_option maxRecDepth 100000 in
set_option maxHeartbeats 1000000 in
theorem rcached_any (h : Rf w lo up r n S C) : Calls Try.prog 28 #[.pointer (some ⟨r, 0, none⟩)] w fun e w' => ∃ v, e = .returned v ∧ w'.ownsRow w.heap.size 3 1 v (cks n C).length (Ytfhjcfoecmbhkaa.ics (cks n C)) ∧ Below w.heap.size w w' := by
  obtain ⟨i0, hi0, hq0, hq1, hq2⟩ := info_parts info3
  have HR := Lib.hid h
  have hnn := neq_nil27
  have hn2 : n ≤ 16384 := by obtain ⟨bb, bc, cs, h, -⟩ := h; exact h.n2
  clear h
  go_enter Try.func28, Try.ntmps28
  go_wp2
  go_loopw [3, 4] (fun v3 v4 wr => ∃ i : Nat, i ≤ n ∧ v4 = .int .i64 (i : Int) ∧ wr.ownsRow w.heap.size 3 1 v3 (cks i C).length (Ytfhjcfoecmbhkaa.ics (cks i C)) ∧ Below w.heap.size w wr) (fun _ v4 _ => n - (valOf v4).toNat)
  case atStart => exact ⟨0, by omega, rfl, ⟨rfl, .inl ⟨rfl, rfl⟩⟩, Below.refl _ _⟩
  case round =>
    obtain ⟨i, hi, rfl, ho, hb⟩ := hrel
    have HRR := Lib.hid (HR.out.below hb)
    have hS := rsize_any HRR.out
    have HB := Lib.hid hb
    have HO := Lib.hid ho
    clear hb ho
    by_cases h1 : i < n
    · have h1' : (i : Int) < (n : Int) := by omega
      have hkl : (cks i C).length ≤ i := cks_len i C
      obtain ⟨bb, bc, cs, h, -⟩ := HRR.out
      have d1 := h.d1
      obtain ⟨u, _, hu, hslot⟩ := h.slot h1
      clear h HRR
      cases hc : C i with
      | none =>
        rw [hc] at hslot
        obtain rfl : u = .slice none 0 0 := hslot
        have HN := Lib.hid (cks_none hc)
        clear hc
        go_wp2_with (go_at_call 42; refine hS.mono ?_; rintro e w' ⟨rfl, rfl⟩)
        exact ⟨⟨i + 1, by omega, by go_num, by rw [HN.out]; exact HO.out, HB.out⟩, by simp [valOf]; omega⟩
      | some s =>
        rw [hc] at hslot
        obtain ⟨g, c2, rfl, _, _, _, _, _⟩ := hslot
        have HN := Lib.hid (cks_some (C := C) (i := i) (by rw [hc]; rfl))
        clear hc
        go_wp2_with (first | (go_at_call 42; refine hS.mono ?_; rintro e w' ⟨rfl, rfl⟩) | (at_builtin; go_must (have HO1 := Lib.hid (ownsRow_keep HO.out (below_alloc w' (.cells #[.int .i64 (i : Int)] 3))); have HS1 := Lib.hid (Src.lit1 w' (.int .i64 (i : Int)) 3); refine wpList_app _ rfl _ _ 32 rfl w.heap.size 3 i0 (.int .i64 0) 8 under32 hi0 hq0 hq1 hq2 rfl _ (cks i C).length _ rfl HO1.out _ _ 1 1 (Ytfhjcfoecmbhkaa.ics [i]) rfl HS1.out (ics_one _) (by unfold maxLen; omega) (by omega) (by have := HB.out.size; simp; omega) ?_; intro v4 w4 ho4 hg4 hl4)))
        have hg5 : (w'.alloc (.cells #[.int .i64 (i : Int)] 3)).grownBy w4 u3.ownBlock := hg4
        have hz := HB.out.size
        refine ⟨⟨i + 1, by omega, by go_num, ?_, ?_⟩, by simp [valOf]; omega⟩
        · rw [HN.out, List.length_append]
          unfold Ytfhjcfoecmbhkaa.ics
          rw [List.map_append]
          exact ho4
        · exact (HB.out.trans ((below_alloc w' (.cells #[.int .i64 (i : Int)] 3)).mono hz)).grown hg5 (by rw [World.size_alloc]; omega) (fun r hr => ownBlock_ge HO.out hr)
    · obtain rfl : i = n := by omega
      clear HRR
      go_wp2_with (go_at_call 42; refine hS.mono ?_; rintro e w' ⟨rfl, rfl⟩)
      go_ret
      exact ⟨_, rfl, HO.out, HB.out⟩
end
end Go.Proofs.Ytfhjcfoecmbhkaa
