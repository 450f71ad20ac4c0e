/- The product of wide numbers, walked. No statement is proved here. -/
import Derived.Test.YtphalfpmgbmcaaaQ
namespace Go.Proofs.Ytphalfpmgbmcaaa
open Go.RowKit
set_option linter.unusedVariables false

theorem val_zero : val [0, 0, 0, 0] = 0 := rfl
theorem zw4 : zw 4 = (ucs [0, 0, 0, 0]).toArray := rfl
theorem Tm.set {B : Nat} {w0 : World} {A C : Nat} {o : List Nat} {w w' : World} (h : Tm B w0 A C o w) (k x : Nat) (hx : x < X64) (hg : w.grownBy w' (some (B + 3))) (hh : w'.heap[B + 3]? = some (.cells (ucs (o.set k x)).toArray 62 (0, 0))) (hz : w'.heap.size = w.heap.size) : Tm B w0 A C (o.set k x) w' := by
  have := h.lt
  exact ⟨(hg.block _ (by omega) (by simp)).trans h.b0, (hg.block _ (by omega) (by simp)).trans h.b1, (hg.block _ (by omega) (by simp)).trans h.b2, hh, by omega, h.bel.grown hg (by omega) (fun r hr => by injection hr; omega), by rw [List.length_set]; exact h.len, set_lt h.fit k x hx⟩
theorem carry_sum {a b c T : Nat} (hT : T < X64 * X64) (h : a + b + c = T / X64) : IntKind.u64.wrap (IntKind.u64.wrap ((a : Int) + b) + c) = ((T / X64 : Nat) : Int) := by
  have h1 : T / X64 < X64 := by rw [Nat.div_lt_iff_lt_mul X64_pos]; exact hT
  rw [← h] at h1 ⊢
  unfold X64 at h1
  simp only [IntKind.wrap_u64]
  omega
set_option maxRecDepth 100000 in
set_option maxHeartbeats 1000000 in
theorem times_any (A C : Nat) (w : World) : Calls Try.prog 53 #[.agg (ucs (wl A)).toArray, .agg (ucs (wl C)).toArray] w (Gives (.agg (ucs (wl (A * C))).toArray) w) := by
  have HLA : Hid (∀ i, i < 4 → (wl A).getD i 0 < X64) := fun i hi => by rw [List.getD_eq_getElem?_getD, List.getElem?_eq_getElem (by exact hi)]; exact wl_lt A _ (List.getElem_mem _)
  have HLC : Hid (∀ i, i < 4 → (wl C).getD i 0 < X64) := fun i hi => by rw [List.getD_eq_getElem?_getD, List.getElem?_eq_getElem (by exact hi)]; exact wl_lt C _ (List.getElem_mem _)
  have HAN : Hid ((wl A).length = 4) := rfl
  have HCN : Hid ((wl C).length = 4) := rfl
  have M1 : Hid True := trivial
  go_enter Try.func53, Try.ntmps53
  go_wp2_with (first | (clear M1; with_reducible refine wpList_alloc_row rfl 62 rfl (.agg (zw 4)) zero62 ?_; intro w0 hh0 hz0 hg0; have HZ0 := Lib.hid hz0) | (with_reducible refine wpList_alloc_row rfl 62 rfl (.agg (zw 4)) zero62 ?_; intro w1 hh1 hz1 hg1; have HZ := Lib.hid hz1))
  have HTm : Hid (Tm w.heap.size w A C [0, 0, 0, 0] w1) := by
    have z0 := HZ0.out
    have z1 := HZ.out
    simp only [World.size_alloc] at z0 hh0
    rw [z0] at z1 hh1
    refine ⟨?_, ?_, ?_, ?_, by omega, ?_, rfl, by simp [X64]⟩
    · exact (hg1.block _ (by omega) (by simp)).trans ((hg0.block _ (by simp; omega) (by simp)).trans ((below_alloc _ _).block _ (by simp) |>.trans (heap_alloc_new w _)))
    · exact (hg1.block _ (by omega) (by simp)).trans ((hg0.block _ (by simp) (by simp)).trans (by have := heap_alloc_new (w.alloc (Obj.cells (ucs (wl A)).toArray 62)) (Obj.cells (ucs (wl C)).toArray 62); simpa using this))
    · exact (hg1.block _ (by omega) (by simp)).trans hh0
    · rw [← zw4]; exact hh1
    · exact ((((below_alloc w _).trans ((below_alloc _ _).mono (by simp))).grown hg0 (by simp; omega) (by simp))).grown hg1 (by omega) (by simp)
  clear hh0 hg0 HZ0 hh1 hg1 HZ
  simp only [World.size_alloc] at *
  go_loopw [6, 7, 13] (fun _ _ i wr => ∃ n : Nat, ∃ o : List Nat, n ≤ 4 ∧ i = .int .i64 n ∧ Inv A C n 0 0 o ∧ Tm w.heap.size w A C o wr) (fun _ _ i _ => 4 - (intOf i).toNat)
  case atStart => exact ⟨0, [0, 0, 0, 0], by omega, rfl, Inv.start val_zero, HTm.out⟩
  case round =>
    obtain ⟨n, o, hn, rfl, hinv, htm⟩ := hrel
    have H := Lib.hid htm
    have HI := Lib.hid hinv
    clear htm hinv HTm
    by_cases hlt : n < 4
    · go_wp2_with fail
      rw [show decide ((n : Int) < 4) = true from by simp; omega]
      obtain ⟨wo, hwo⟩ : ∃ wo : World, wo = wr := ⟨_, rfl⟩
      rw [← hwo] at H ⊢
      clear hwo
      go_loopw [7, 8, 9, 10, 11, 12, 18] (fun c _ _ _ _ _ j wr => ∃ m : Nat, ∃ cy : Nat, ∃ o : List Nat, m ≤ 4 - n ∧ j = .int .i64 m ∧ c = .int .u64 cy ∧ cy < X64 ∧ Inv A C n m cy o ∧ Tm w.heap.size w A C o wr) (fun _ _ _ _ _ _ j _ => (4 - n) - (intOf j).toNat)
      case atStart => exact ⟨0, 0, o, by omega, rfl, rfl, X64_pos, HI.out, H.out⟩
      case round =>
        obtain ⟨m, cy, o1, hm, rfl, rfl, hcy, hinv, htm⟩ := hrel
        have H1 := Lib.hid htm
        have HI1 := Lib.hid hinv
        have HCY := Lib.hid hcy
        clear htm hinv hcy H HI
        by_cases hlt1 : m < 4 - n
        · have ca := word_cell H1.out.b0 n (by rw [wl_len]; exact hlt)
          have cb := word_cell H1.out.b1 m (by rw [wl_len]; omega)
          have co := word_cell H1.out.b3 (n + m) (by rw [H1.out.len]; omega)
          have HA := Lib.hid (HLA.out n hlt)
          have HC := Lib.hid (HLC.out m (by omega))
          have HOK : Hid (o1.getD (n + m) 0 < X64) := by rw [List.getD_eq_getElem?_getD, List.getElem?_eq_getElem (by rw [H1.out.len]; omega)]; exact H1.out.fit _ (List.getElem_mem _)
          have HCOL := Lib.hid (HI1.out.col H1.out.len (by omega))
          clear HLA HLC HI1
          generalize (wl A).getD n 0 = a at *
          generalize (wl C).getD m 0 = c at *
          generalize o1.getD (n + m) 0 = ok at *
          have HMAC := Lib.hid (mac a c cy ok HA.out HC.out HCY.out HOK.out)
          obtain ⟨hi, lo, HHI, HLO, CM⟩ : ∃ hi lo : Nat, Hid (a * c / X64 = hi) ∧ Hid (a * c % X64 = lo) ∧ Hid (∀ w, Calls Try.prog 30 #[.int .u64 a, .int .u64 c] w fun e w' => e = .returned (.tuple #[.int .u64 hi, .int .u64 lo]) ∧ w' = w) :=
            ⟨_, _, rfl, rfl, fun w => Try.bits_Mul64 a c HA.out HC.out w⟩
          rw [HHI.out, HLO.out] at HMAC
          obtain ⟨l1, c1, HL1, HC1, had1⟩ : ∃ l1 c1 : Nat, Hid ((lo + cy + 0) % X64 = l1) ∧ Hid ((lo + cy + 0) / X64 = c1) ∧ ∀ W, (callFunc 31 #[.int .u64 lo, .int .u64 cy, .int .u64 0]).run Try.prog W = .ok (.value (.tuple #[.int .u64 l1, .int .u64 c1])) W :=
            ⟨_, _, rfl, rfl, fun W => add64_run lo cy W⟩
          rw [HL1.out, HC1.out] at HMAC
          obtain ⟨l2, c2, HL2, HC2, had2⟩ : ∃ l2 c2 : Nat, Hid ((ok + l1 + 0) % X64 = l2) ∧ Hid ((ok + l1 + 0) / X64 = c2) ∧ ∀ W, (callFunc 31 #[.int .u64 ok, .int .u64 l1, .int .u64 0]).run Try.prog W = .ok (.value (.tuple #[.int .u64 l2, .int .u64 c2])) W :=
            ⟨_, _, rfl, rfl, fun W => add64_run ok l1 W⟩
          rw [HL2.out, HC2.out] at HMAC
          have CO := Lib.hid co
          have CA := Lib.hid ca
          have CB := Lib.hid cb
          clear ca cb co
          have hni : (n : Int) < 4 := by omega
          have hmi : (m : Int) < 4 := by omega
          have hnm : (n : Int) + (m : Int) < 4 := by omega
          go_wp2_with fail
          have ca := CA.out
          have cb := CB.out
          go_quiet ((go_at_call 30; exact Calls.quiet_of_same (CM.out _)))
          clear ca cb
          obtain ⟨w3, hw3⟩ : ∃ w3, w3 = wr.drewN nq := ⟨_, rfl⟩
          have H3 : Hid (Tm w.heap.size w A C o1 w3) := by rw [hw3]; exact H1.out.drewN nq
          have co : w3.cell? ⟨w.heap.size + 1 + 1 + 1, n + m, none⟩ = some (.int .u64 ok) := by rw [hw3]; exact CO.out
          rw [← hw3]
          clear hw3 H1 CO CA CB CM
          go_wp2_with ((with_reducible show wpList _ _ _ (⟨none, .store 24 (.tmp 50) (.tmp 48), _, _, _, _⟩ :: _) _ _); refine wpList_store_one rfl 24 (.tmp 50) (.tmp 48) rfl (w.heap.size + 3) (n + m) rfl .u64 (l2 : Int) rfl 62 _ H3.out.b3 size24 (by simp [ucs_len, H3.out.len]; omega) ?_; intro w4 hh4 hg4 hz4; rw [ucs_set] at hh4; have H4 : Hid (Tm w.heap.size w A C (o1.set (n + m) l2) w4) := Tm.set H3.out (n + m) l2 (by rw [← HL2.out]; exact Nat.mod_lt _ X64_pos) hg4 hh4 hz4; clear hh4 hg4 hz4)
          rw [carry_sum HMAC.out.1 HMAC.out.2.2]
          rw [HMAC.out.2.1] at H4
          have HCY2 : Hid ((a * c + cy + ok) / X64 < X64) := by rw [Nat.div_lt_iff_lt_mul X64_pos]; exact HMAC.out.1
          clear HMAC HL1 HL2 HC1 HC2 HHI HLO had1 had2
          generalize (a * c + cy + ok) / X64 = cy2 at *
          refine ⟨⟨m + 1, cy2, _, by omega, by go_num, rfl, HCY2.out, HCOL.out, H4.out⟩, by simp [intOf]; omega⟩
        · obtain rfl : m = 4 - n := by omega
          clear hlt1 hm
          have HR := Lib.hid (HI1.out.row hlt)
          clear HI1 HLA HLC
          go_wp2_with fail
          go_roundw
          case rel =>
            first | exact ⟨n + 1, o1, by omega, by go_num, HR.out, H1.out⟩ | ((repeat apply Exists.intro); exact ⟨⟨n + 1, o1, by omega, by go_num, HR.out, H1.out⟩, rfl⟩)
          case measure => simp [intOf]; omega
    · obtain rfl : n = 4 := by omega
      clear hlt hn
      have hR := HI.out.done H.out.len H.out.fit
      subst hR
      have HL4 : Hid ((wl (A * C)).length = 4) := rfl
      clear HI HLA HLC
      generalize wl (A * C) = R at *
      have HC3 : Hid (∀ i u, (ucs R)[i]? = some u → wr.cell? ⟨w.heap.size + 3, 0 + i, none⟩ = some u) := fun i u hu => by
        rw [Nat.zero_add]
        exact row_cells H.out.b3 i u (by simpa using hu)
      have HSz : Hid ((Try.prog.info? 62).map (·.size) = some (ucs R).length) := by rw [size62, ucs_len, HL4.out]; exact rfl
      have HSa : Hid ((Try.prog.info? 62).map (·.size) = some (ucs R).toArray.size) := by rw [HSz.out]; exact rfl
      have HZ := Lib.hid (show (ucs R).toArray.size = (zw 4).size from by simp [ucs_len, HL4.out, zw])
      have HLT := H.out.lt
      go_wp2_with (first | ((with_reducible show wpList _ _ _ (⟨_, .load 62 (.tmp 5), _, _, _, _⟩ :: _) _ _); refine wpList_load_arr rfl 62 (.tmp 5) rfl (w.heap.size + 3) 0 rfl (ucs R) HC3.out _ under62 rfl HSz.out ?_) | ((with_reducible show wpList _ _ _ (⟨none, .store 62 (.tmp 4) (.tmp 58), _, _, _, _⟩ :: _) _ _); refine wpList_store_all rfl 62 (.tmp 4) (.tmp 58) rfl (w.heap.size + 2) rfl (ucs R).toArray rfl 62 (zw 4) H.out.b2 HSa.out HZ.out (ucs_one _) ?_; intro w3 hh3 hg3 hz3))
      have H3 := Lib.hid hh3
      have G3 := Lib.hid hg3
      clear hh3 hg3
      go_wp2
      refine bodyPost_ret (results_cell_row rfl _ _ (w.heap.size + 2) 62 (ucs R).toArray _ _ rfl H3.out under62 rfl HSa.out) rfl ?_
      exact ⟨rfl, H.out.bel.grown G3.out (by omega) (fun r hr => by injection hr; omega)⟩
end Go.Proofs.Ytphalfpmgbmcaaa
