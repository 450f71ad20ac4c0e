/- ShaWords walked, up to the contracts of the reference's roots. No statement is proved here. -/
import Derived.Test.YtphalfpmgbmcaaaT10
namespace Go.Proofs.Ytphalfpmgbmcaaa
open Go.RowKit
set_option linter.unusedVariables false

/-- No number from 2 to below d divides p. -/
def upTo (p : Nat) : Nat → Bool
  | 0 => true
  | d + 1 => upTo p d && (decide (d < 2) || p % d != 0)
theorem isP_bound {q : Nat} (h : isP q = true) (hc : cnt q < 80) : q ≤ 409 := by
  rcases Nat.lt_or_ge 409 q with h' | h'
  · obtain ⟨p, rfl⟩ : ∃ p, q = p + 1 := ⟨q - 1, by omega⟩
    have h1 := cnt_mono (show 409 ≤ p by omega)
    have h3 : decide (3 ≤ p + 1) = true := by simp; omega
    rw [cnt_409] at h1
    simp only [cnt, h, h3, Bool.and_self, if_true] at hc
    omega
  · exact h'
theorem upTo_ok : (List.range 410).all (fun p => (List.range 22).all fun d => !(decide (2 ≤ d) && decide (p < d * d) && decide ((d - 1) * (d - 1) ≤ p)) || upTo p d == isP p) = true := by decide +kernel
theorem upTo_isP (p d : Nat) (hp : p ≤ 409) (h1 : p < d * d) (h2 : (d - 1) * (d - 1) ≤ p) (hd : 2 ≤ d) : upTo p d = isP p := by
  have hd2 : d < 22 := by
    rcases Nat.lt_or_ge d 22 with h | h
    · exact h
    · have := Nat.mul_le_mul (show 21 ≤ d - 1 by omega) (show 21 ≤ d - 1 by omega)
      omega
  have h := List.all_eq_true.1 (List.all_eq_true.1 upTo_ok p (List.mem_range.2 (by omega))) d (List.mem_range.2 hd2)
  simpa [hd, h1, h2] using h
theorem upTo_2 (p : Nat) : upTo p 2 = true := by simp [upTo]
theorem upTo_succ (p j : Nat) (h : 2 ≤ j) : upTo p (j + 1) = (upTo p j && p % j != 0) := by
  have : decide (j < 2) = false := by simp; omega
  simp [upTo, this]
theorem root_x' (n : Nat) (h : n < 4294967296) (w : World) : Calls Try.prog 13 #[.int .u64 n] w (Gives (.int .u64 ((rootN n 2 % X64 : Nat) : Int)) w) := by
  have := root_any n w
  rw [Nat.mod_eq_of_lt h] at this
  exact this
theorem cube_x' (n : Nat) (h : n < 4294967296) (w : World) : Calls Try.prog 14 #[.int .u64 n] w (Gives (.int .u64 ((rootN n 3 % X64 : Nat) : Int)) w) := by
  have := cube_any n w
  rw [Nat.mod_eq_of_lt h] at this
  exact this
set_option maxRecDepth 100000 in
set_option maxHeartbeats 1000000 in
theorem words_walk (HR : ∀ (n : Nat) (w : World), n < 4294967296 → Calls Try.prog 29 #[.int .u64 n] w (Gives (.int .u64 ((rootN n 2 % X64 : Nat) : Int)) w)) (HC : ∀ (n : Nat) (w : World), n < 4294967296 → Calls Try.prog 28 #[.int .u64 n] w (Gives (.int .u64 ((rootN n 3 % X64 : Nat) : Int)) w))
    (at_ : Int) (n : Nat) (hat : -9223372036854775808 ≤ at_ ∧ at_ ≤ 9223372036854775807) (hn : n < 4294967296) (w : World) :
    Calls Try.prog 5 #[.int .i64 at_, .int .u32 n] w fun e w' => e = .returned (.bool true) ∧ Below w.heap.size w w' := by
  have HRR := Lib.hid HR
  have HCC := Lib.hid HC
  clear HR HC
  go_enter Try.func5, Try.ntmps5
  go_wp2_with fail
  refine (lives_any w).mono ?_
  rintro e1 w1 ⟨rfl, hb1⟩
  have B1 := Lib.hid hb1
  clear hb1
  have HPk := Lib.hid (pick_any at_ 80 hat (by omega) (by omega) w1)
  clear hat
  go_wp2_with fail
  refine HPk.out.mono ?_
  rintro e2 w2 ⟨⟨k, hk, rfl⟩, rfl⟩
  clear HPk
  go_wp2_with fail
  go_loopw [6, 7, 8, 9] (fun p c _ _ wr => ∃ q : Nat, 2 ≤ q ∧ cnt q ≤ k ∧ (cnt q = k → isP q = true) ∧ p = .int .i64 (q : Int) ∧ c = .int .i64 ((cnt q : Nat) : Int) ∧ w2 = wr) (fun p _ _ _ _ => 410 - (intOf p).toNat)
  case atStart =>
    exact ⟨2, by omega, by simp [cnt], fun _ => by decide, rfl, by simp [cnt], rfl⟩
  case round =>
    obtain ⟨q, hq2, hqk, hqp, rfl, rfl, rfl⟩ := hrel
    have HQ := Lib.hid hqp
    clear hqp
    by_cases hlt : cnt q < k
    · have hqb := cnt_bound (show cnt q < 79 by omega)
      have hci : ((cnt q : Nat) : Int) < (k : Int) := by omega
      have HCN : Hid (cnt (q + 1) = cnt q + (if isP (q + 1) then 1 else 0)) := Lib.hid (by
        have : decide (3 ≤ q + 1) = true := by simp; omega
        simp only [cnt, this, Bool.true_and])
      go_wp2_with fail
      rw [show (q : Int) + 1 = ((q + 1 : Nat) : Int) from by omega]
      obtain ⟨p, hp⟩ : ∃ p, p = q + 1 := ⟨_, rfl⟩
      have hp409 : p ≤ 409 := by omega
      have hpq : p - 1 = q := by omega
      have HPQ := Lib.hid hp
      rw [← hp] at HCN ⊢
      clear hp hpq
      obtain ⟨c, hc⟩ : ∃ c, c = cnt q := ⟨_, rfl⟩
      have HCQ := Lib.hid hc
      rw [← hc] at hlt hqk hci HQ HCN ⊢
      clear hc
      go_loopw [8, 9] (fun pr d wr => ∃ j : Nat, 2 ≤ j ∧ (j - 1) * (j - 1) ≤ p ∧ pr = .bool (upTo p j) ∧ d = .int .i64 (j : Int) ∧ w2 = wr) (fun _ d _ => 411 - (intOf d).toNat)
      case atStart => exact ⟨2, by omega, by have := HPQ.out; omega, by rw [upTo_2], rfl, rfl⟩
      case round =>
        obtain ⟨j, hj2, hjp, rfl, rfl, rfl⟩ := hrel
        have hj22 : j ≤ 21 := by
          rcases Nat.lt_or_ge 21 j with h | h
          · have := Nat.mul_le_mul (show 21 ≤ j - 1 by omega) (show 21 ≤ j - 1 by omega)
            omega
          · exact h
        obtain ⟨s, hs⟩ : ∃ s, s = j * j := ⟨_, rfl⟩
        have hs2 : s ≤ 441 := by rw [hs]; exact Nat.mul_le_mul hj22 hj22
        have hmul : (j : Int) * (j : Int) = (s : Int) := by rw [hs]; exact (Int.natCast_mul j j).symm
        have HS := Lib.hid hs
        clear hs
        by_cases hjj : s ≤ p
        · have hd : (s : Int) ≤ (p : Int) := by omega
          have HJP : Hid ((j + 1 - 1) * (j + 1 - 1) ≤ p) := Lib.hid (by rw [Nat.add_sub_cancel, ← HS.out]; exact hjj)
          have HU := Lib.hid (upTo_succ p j hj2)
          have hjn : ¬ (j : Int) = 0 := by omega
          have hrem : ((p : Nat) : Int).tmod (j : Int) = ((p % j : Nat) : Int) := (Int.ofNat_tmod p j).symm
          clear hjp hjj
          generalize p % j = r at *
          generalize upTo p j = u at *
          rcases u with _ | _
          · have hu' := Lib.hid (show upTo p (j + 1) = false by rw [HU.out]; simp)
            go_wp2
            go_roundw
            case rel => exact ⟨j + 1, by omega, HJP.out, by rw [hu'.out], by go_num, trivial⟩
            case measure => simp [intOf]; omega
          · rcases Nat.eq_zero_or_pos r with h0 | h0
            · subst h0
              have hu' := Lib.hid (show upTo p (j + 1) = false by rw [HU.out]; simp)
              go_wp2
              go_roundw
              case rel => exact ⟨j + 1, by omega, HJP.out, by rw [hu'.out], by go_num, trivial⟩
              case measure => simp [intOf]; omega
            · have hr0 : ((r : Int) != 0) = true := by simp; omega
              have hr1 : ¬ (r : Int) = 0 := by omega
              have hu' := Lib.hid (show upTo p (j + 1) = true by rw [HU.out]; simp; omega)
              go_wp2
              go_roundw
              case rel => exact ⟨j + 1, by omega, HJP.out, by rw [hu'.out], by go_num, trivial⟩
              case measure => simp [intOf]; omega
        · have hd : ¬ (s : Int) ≤ (p : Int) := by omega
          have HEQ : Hid (upTo p j = isP p) := Lib.hid (upTo_isP p j hp409 (by rw [← HS.out]; omega) hjp hj2)
          rw [HEQ.out]
          clear HEQ hjj
          obtain ⟨u, hu⟩ : ∃ u, isP p = u := ⟨_, rfl⟩
          rw [hu]
          have HUU := Lib.hid hu
          clear hu
          rcases u with _ | _
          · have HCN2 := Lib.hid (show cnt p = c by rw [HCN.out, HUU.out]; simp)
            go_wp2_with fail
            go_roundw
            case rel => exact ⟨p, by have := HPQ.out; omega, by rw [HCN2.out]; exact hqk, fun h => absurd h (by rw [HCN2.out]; omega), rfl, by rw [HCN2.out], trivial⟩
            case measure => have := HPQ.out; simp [intOf]; omega
          · have HCN2 := Lib.hid (show cnt p = c + 1 by rw [HCN.out, HUU.out]; simp)
            go_wp2_with fail
            go_roundw
            case rel => exact ⟨p, by have := HPQ.out; omega, by rw [HCN2.out]; omega, fun h => HUU.out, rfl, by rw [HCN2.out]; go_num, trivial⟩
            case measure => have := HPQ.out; simp [intOf]; omega
    · have hck : cnt q = k := by omega
      have hip := HQ.out hck
      have hq409 : q ≤ 409 := isP_bound hip (by omega)
      obtain ⟨hk3, hk2⟩ := prime_root q hq2 hq409 hip
      rw [hck] at hk3 hk2 ⊢
      clear HQ hqk hlt hck
      go_wp2_with fail
      refine (K_any w2).mono ?_
      rintro e3 w3 ⟨rfl, hb3⟩
      have B3 := Lib.hid (B1.out.trans (hb3.mono B1.out.size))
      clear hb3 B1
      go_wp2_with fail
      refine (start_any w3).mono ?_
      rintro e4 w4 ⟨rfl, hb4⟩
      have B4 := Lib.hid (B3.out.trans (hb4.mono B3.out.size))
      clear hb4 B3
      go_wp2_with (first | (with_reducible refine wpList_alloc_row rfl 25 rfl (.agg (zw 80)) zero25 ?_; intro w5 hh5 hz5 hg5; have H5 := Lib.hid (And.intro hh5 (And.intro hz5 hg5)); clear hh5 hz5 hg5) | (with_reducible refine wpList_alloc_row rfl 27 rfl (.agg (zw 8)) zero27 ?_; intro w6 hh6 hz6 hg6; have H6 := Lib.hid (And.intro hh6 (And.intro hz6 hg6)); have H65 := Lib.hid ((hg6.block _ (by have := H5.out.2.1; omega) (by simp)).trans H5.out.1); clear hh6 hz6 hg6) | ((with_reducible show wpList _ _ _ (⟨none, .store 25 (.tmp 10) (.tmp 38), _, _, _, _⟩ :: _) _ _); refine wpList_store_all rfl 25 (.tmp 10) (.tmp 38) rfl w4.heap.size rfl K80a rfl 25 (zw 80) H65.out (by rw [size25, K80a_size]) (by rw [K80a_size]; rfl) K80a_one ?_; intro w7 hh7 hg7 hz7; have H7 := Lib.hid (And.intro hh7 (And.intro hz7 hg7)); have H76 := Lib.hid ((hg7.block _ (by have := H6.out.2.1; omega) (by have := H5.out.2.1; simp; omega)).trans H6.out.1); clear hh7 hz7 hg7) | ((with_reducible show wpList _ _ _ (⟨none, .store 27 (.tmp 11) (.tmp 39), _, _, _, _⟩ :: _) _ _); refine wpList_store_all rfl 27 (.tmp 11) (.tmp 39) rfl w5.heap.size rfl (ucs start512.words).toArray rfl 27 (zw 8) H76.out (sz27 _) rfl (ucs_one _) ?_; intro w8 hh8 hg8 hz8))
      have H8 : Hid (w8.heap[w4.heap.size]? = some (.cells K80a 25 (0, 0)) ∧ w8.heap[w5.heap.size]? = some (.cells (ucs start512.words).toArray 27 (0, 0)) ∧ Below w.heap.size w w8) := Lib.hid (by
        have a5 := H5.out
        have a6 := H6.out
        have a7 := H7.out
        have hb := B4.out.size
        refine ⟨(hg8.block _ (by omega) (by simp; omega)).trans a7.1, hh8, ?_⟩
        have b5 := B4.out.grown a5.2.2 hb (by simp)
        have b6 := b5.grown a6.2.2 (by omega) (by simp)
        have b7 := b6.grown a7.2.2 (by omega) (fun r hr => by injection hr; omega)
        exact b7.grown hg8 (by omega) (fun r hr => by injection hr; omega))
      clear hh8 hg8 hz8 H5 H6 H65 H7 H76 B4
      have HK3 : Hid (K80.getD k 0 = rootN q 3 % X64) := Lib.hid hk3
      have hcell : ∀ w' : World, Keeps (fun _ => False) w8.drew w' → w'.cell? ⟨w4.heap.size, k, none⟩ = some (.int .u64 ((K80.getD k 0 : Nat) : Int)) := fun w' hk' => by
        have hlt : w4.heap.size < w8.heap.size := (Array.getElem?_eq_some_iff.1 H8.out.1).1
        refine row_cells ((hk'.block _ hlt (by simp)).trans H8.out.1) k _ ?_
        show (ucs K80)[k]? = _
        simp [ucs, List.getElem?_map, List.getElem?_eq_getElem (show k < K80.length from hk)]
        rfl
      have HL1 := Lib.hid hcell
      clear hcell hk3
      have hki : (k : Int) < 80 := by omega
      have hqw : IntKind.u64.wrap (q : Int) = (q : Int) := by rw [IntKind.wrap_u64]; omega
      by_cases hk8 : k < 8
      · have HK2 := Lib.hid (hk2 hk8)
        have hcell2 : ∀ w' : World, Keeps (fun _ => False) w8.drew w' → w'.cell? ⟨w5.heap.size, k, none⟩ = some (.int .u64 ((start512.words.getD k 0 : Nat) : Int)) := fun w' hk' => by
          have hlt : w5.heap.size < w8.heap.size := (Array.getElem?_eq_some_iff.1 H8.out.2.1).1
          refine row_cells ((hk'.block _ hlt (by simp)).trans H8.out.2.1) k _ ?_
          simp [ucs, List.getElem?_map, List.getElem?_eq_getElem (show k < start512.words.length from hk8)]
          rfl
        have HL2 := Lib.hid hcell2
        clear hcell2 hk2
        generalize start512.words.getD k 0 = c2 at *
        generalize K80.getD k 0 = c3 at *
        have hki8 : (k : Int) < 8 := by omega
        refine anyStart (fun _ => False) (by kernel_rfl) ?_
        refine anyTakeE (i := 0) (oi := { dst := some 40, op := Op.move (Operand.tmp 5), type := 3, pos := "law.go:60", after := #[], guard := none }) rfl (by kernel_rfl) (by kernel_rfl) (by kernel_rfl) (fun _ _ _ _ h => h) (by rfl) ?_
        apply Exists.intro
        refine ⟨fun w' hk => ?_, ?_⟩
        · go_simp <;> with_reducible rfl
        simp only [Act.put, List.setIfInBounds_toArray, List.set_cons_zero, List.set_cons_succ]
        refine anyTakeE (i := 1) (oi := { dst := some 41, op := Op.indexAddr 25 (Operand.tmp 10) (Operand.tmp 40), type := 0, pos := "law.go:60", after := #[{ on := 0, ground := Ground.data }], guard := none }) rfl (by kernel_rfl) (by kernel_rfl) (by kernel_rfl) (fun _ _ _ _ h => h) (by rfl) ?_
        apply Exists.intro
        refine ⟨fun w' hk => ?_, ?_⟩
        · go_simp <;> with_reducible rfl
        simp only [Act.put, List.setIfInBounds_toArray, List.set_cons_zero, List.set_cons_succ]
        refine anyTakeE (i := 2) (oi := { dst := some 42, op := Op.load 24 (Operand.tmp 41), type := 24, pos := "law.go:60", after := #[{ on := 1, ground := Ground.data }], guard := none }) rfl (by kernel_rfl) (by kernel_rfl) (by kernel_rfl) (fun _ _ _ _ h => h) (by rfl) ?_
        apply Exists.intro
        refine ⟨fun w' hk => ?_, ?_⟩
        · have hc := HL1.out w' hk; go_simp <;> with_reducible rfl
        simp only [Act.put, List.setIfInBounds_toArray, List.set_cons_zero, List.set_cons_succ]
        refine anyTakeE (i := 3) (oi := { dst := some 43, op := Op.move (Operand.tmp 6), type := 3, pos := "law.go:60", after := #[], guard := none }) rfl (by kernel_rfl) (by kernel_rfl) (by kernel_rfl) (fun _ _ _ _ h => h) (by rfl) ?_
        apply Exists.intro
        refine ⟨fun w' hk => ?_, ?_⟩
        · go_simp <;> with_reducible rfl
        simp only [Act.put, List.setIfInBounds_toArray, List.set_cons_zero, List.set_cons_succ]
        refine anyTakeE (i := 4) (oi := { dst := some 44, op := Op.convert 3 24 (Operand.tmp 43), type := 24, pos := "law.go:60", after := #[{ on := 3, ground := Ground.data }], guard := none }) rfl (by kernel_rfl) (by kernel_rfl) (by kernel_rfl) (fun _ _ _ _ h => h) (by rfl) ?_
        apply Exists.intro
        refine ⟨fun w' hk => ?_, ?_⟩
        · go_simp <;> with_reducible rfl
        simp only [Act.put, List.setIfInBounds_toArray, List.set_cons_zero, List.set_cons_succ]
        refine anyCall (i := 5) (oi := { dst := some 45, op := Op.call { callee := Callee.value (Operand.func 28), args := #[Operand.tmp 44], argTypes := #[24] }, type := 24, pos := "law.go:60", after := #[{ on := 4, ground := Ground.data }], guard := none }) rfl (by kernel_rfl) (by rfl) ?_ ((HCC.out q _ (by omega)).mono ?_)
        · go_simp
        rintro e9 w9 ⟨rfl, hb9⟩
        refine ⟨_, rfl, Keeps.of_below hb9, ?_⟩
        have K9 := Lib.hid hb9
        clear hb9
        rw [← HK3.out]
        simp only [Act.put, List.setIfInBounds_toArray, List.set_cons_zero, List.set_cons_succ]
        refine anyTakeE (i := 6) (oi := { dst := some 46, op := Op.binOp BinOp.neq 24 (Operand.tmp 42) (Operand.tmp 45) 24, type := 4, pos := "law.go:60", after := #[{ on := 2, ground := Ground.data }, { on := 5, ground := Ground.data }], guard := none }) rfl (by kernel_rfl) (by kernel_rfl) (by kernel_rfl) (fun _ _ _ _ h => h) (by rfl) ?_
        apply Exists.intro
        refine ⟨fun w' hk => ?_, ?_⟩
        · go_simp <;> with_reducible rfl
        simp only [Act.put, List.setIfInBounds_toArray, List.set_cons_zero, List.set_cons_succ]
        refine anyTakeE (i := 7) (oi := { dst := some 47, op := Op.move (Operand.tmp 46), type := 4, pos := "law.go:60", after := #[{ on := 6, ground := Ground.data }, { on := 5, ground := Ground.chain }], guard := none }) rfl (by kernel_rfl) (by kernel_rfl) (by kernel_rfl) (fun _ _ _ _ h => h) (by rfl) ?_
        apply Exists.intro
        refine ⟨fun w' hk => ?_, ?_⟩
        · go_simp <;> with_reducible rfl
        simp only [Act.put, List.setIfInBounds_toArray, List.set_cons_zero, List.set_cons_succ]
        refine anyTakeE (i := 8) (oi := { dst := some 48, op := Op.move (Operand.tmp 5), type := 3, pos := "law.go:60", after := #[{ on := 7, ground := Ground.guard }], guard := some (7, false) }) rfl (by kernel_rfl) (by kernel_rfl) (by kernel_rfl) (fun _ _ _ _ h => h) (by rfl) ?_
        apply Exists.intro
        refine ⟨fun w' hk => ?_, ?_⟩
        · go_simp <;> with_reducible rfl
        simp only [Act.put, List.setIfInBounds_toArray, List.set_cons_zero, List.set_cons_succ]
        refine anyTakeE (i := 9) (oi := { dst := some 49, op := Op.binOp BinOp.lss 3 (Operand.tmp 48) (Operand.const (Value.int IntKind.i64 8)) 3, type := 4, pos := "law.go:60", after := #[{ on := 8, ground := Ground.data }, { on := 7, ground := Ground.guard }], guard := some (7, false) }) rfl (by kernel_rfl) (by kernel_rfl) (by kernel_rfl) (fun _ _ _ _ h => h) (by rfl) ?_
        apply Exists.intro
        refine ⟨fun w' hk => ?_, ?_⟩
        · go_simp <;> with_reducible rfl
        simp only [Act.put, List.setIfInBounds_toArray, List.set_cons_zero, List.set_cons_succ]
        refine anyTakeE (i := 10) (oi := { dst := some 50, op := Op.move (Operand.tmp 49), type := 4, pos := "law.go:60", after := #[{ on := 9, ground := Ground.data }, { on := 7, ground := Ground.chain }, { on := 7, ground := Ground.guard }], guard := some (7, false) }) rfl (by kernel_rfl) (by kernel_rfl) (by kernel_rfl) (fun _ _ _ _ h => h) (by rfl) ?_
        apply Exists.intro
        refine ⟨fun w' hk => ?_, ?_⟩
        · go_simp <;> with_reducible rfl
        simp only [Act.put, List.setIfInBounds_toArray, List.set_cons_zero, List.set_cons_succ]
        refine anyTakeE (i := 11) (oi := { dst := some 51, op := Op.move (Operand.tmp 5), type := 3, pos := "law.go:60", after := #[{ on := 10, ground := Ground.guard }], guard := some (10, true) }) rfl (by kernel_rfl) (by kernel_rfl) (by kernel_rfl) (fun _ _ _ _ h => h) (by rfl) ?_
        apply Exists.intro
        refine ⟨fun w' hk => ?_, ?_⟩
        · go_simp <;> with_reducible rfl
        simp only [Act.put, List.setIfInBounds_toArray, List.set_cons_zero, List.set_cons_succ]
        refine anyTakeE (i := 12) (oi := { dst := some 52, op := Op.indexAddr 27 (Operand.tmp 11) (Operand.tmp 51), type := 0, pos := "law.go:60", after := #[{ on := 11, ground := Ground.data }, { on := 10, ground := Ground.guard }], guard := some (10, true) }) rfl (by kernel_rfl) (by kernel_rfl) (by kernel_rfl) (fun _ _ _ _ h => h) (by rfl) ?_
        apply Exists.intro
        refine ⟨fun w' hk => ?_, ?_⟩
        · go_simp <;> with_reducible rfl
        simp only [Act.put, List.setIfInBounds_toArray, List.set_cons_zero, List.set_cons_succ]
        refine anyTakeE (i := 13) (oi := { dst := some 53, op := Op.load 24 (Operand.tmp 52), type := 24, pos := "law.go:60", after := #[{ on := 12, ground := Ground.data }, { on := 10, ground := Ground.guard }], guard := some (10, true) }) rfl (by kernel_rfl) (by kernel_rfl) (by kernel_rfl) (fun _ _ _ _ h => h) (by rfl) ?_
        apply Exists.intro
        refine ⟨fun w' hk => ?_, ?_⟩
        · have hc := HL2.out w' ((Keeps.of_below K9.out).trans hk); go_simp <;> with_reducible rfl
        simp only [Act.put, List.setIfInBounds_toArray, List.set_cons_zero, List.set_cons_succ]
        refine anyTakeE (i := 14) (oi := { dst := some 54, op := Op.move (Operand.tmp 6), type := 3, pos := "law.go:60", after := #[{ on := 10, ground := Ground.guard }], guard := some (10, true) }) rfl (by kernel_rfl) (by kernel_rfl) (by kernel_rfl) (fun _ _ _ _ h => h) (by rfl) ?_
        apply Exists.intro
        refine ⟨fun w' hk => ?_, ?_⟩
        · go_simp <;> with_reducible rfl
        simp only [Act.put, List.setIfInBounds_toArray, List.set_cons_zero, List.set_cons_succ]
        refine anyTakeE (i := 15) (oi := { dst := some 55, op := Op.convert 3 24 (Operand.tmp 54), type := 24, pos := "law.go:60", after := #[{ on := 14, ground := Ground.data }, { on := 10, ground := Ground.guard }], guard := some (10, true) }) rfl (by kernel_rfl) (by kernel_rfl) (by kernel_rfl) (fun _ _ _ _ h => h) (by rfl) ?_
        apply Exists.intro
        refine ⟨fun w' hk => ?_, ?_⟩
        · go_simp <;> with_reducible rfl
        simp only [Act.put, List.setIfInBounds_toArray, List.set_cons_zero, List.set_cons_succ]
        refine anyCall (i := 16) (oi := { dst := some 56, op := Op.call { callee := Callee.value (Operand.func 29), args := #[Operand.tmp 55], argTypes := #[24] }, type := 24, pos := "law.go:60", after := #[{ on := 15, ground := Ground.data }, { on := 10, ground := Ground.chain }, { on := 10, ground := Ground.guard }], guard := some (10, true) }) rfl (by kernel_rfl) (by rfl) ?_ ((HRR.out q _ (by omega)).mono ?_)
        · go_simp
        rintro e10 w10 ⟨rfl, hb10⟩
        refine ⟨_, rfl, Keeps.of_below hb10, ?_⟩
        have K10 := Lib.hid hb10
        clear hb10
        rw [← HK2.out]
        simp only [Act.put, List.setIfInBounds_toArray, List.set_cons_zero, List.set_cons_succ]
        refine anyTakeE (i := 17) (oi := { dst := some 57, op := Op.binOp BinOp.neq 24 (Operand.tmp 53) (Operand.tmp 56) 24, type := 4, pos := "law.go:60", after := #[{ on := 13, ground := Ground.data }, { on := 16, ground := Ground.data }, { on := 10, ground := Ground.guard }], guard := some (10, true) }) rfl (by kernel_rfl) (by kernel_rfl) (by kernel_rfl) (fun _ _ _ _ h => h) (by rfl) ?_
        apply Exists.intro
        refine ⟨fun w' hk => ?_, ?_⟩
        · go_simp <;> with_reducible rfl
        simp only [Act.put, List.setIfInBounds_toArray, List.set_cons_zero, List.set_cons_succ]
        refine anyTakeE (i := 18) (oi := { dst := some 58, op := Op.pick (Operand.tmp 50) (Operand.tmp 57) (Operand.const (Value.bool false)), type := 4, pos := "law.go:60", after := #[{ on := 10, ground := Ground.data }, { on := 17, ground := Ground.data }, { on := 7, ground := Ground.guard }], guard := some (7, false) }) rfl (by kernel_rfl) (by kernel_rfl) (by kernel_rfl) (fun _ _ _ _ h => h) (by rfl) ?_
        apply Exists.intro
        refine ⟨fun w' hk => ?_, ?_⟩
        · go_simp <;> with_reducible rfl
        simp only [Act.put, List.setIfInBounds_toArray, List.set_cons_zero, List.set_cons_succ]
        refine anyTakeE (i := 19) (oi := { dst := some 59, op := Op.pick (Operand.tmp 47) (Operand.const (Value.bool true)) (Operand.tmp 58), type := 4, pos := "law.go:60", after := #[{ on := 7, ground := Ground.data }, { on := 18, ground := Ground.data }], guard := none }) rfl (by kernel_rfl) (by kernel_rfl) (by kernel_rfl) (fun _ _ _ _ h => h) (by rfl) ?_
        apply Exists.intro
        refine ⟨fun w' hk => ?_, ?_⟩
        · go_simp <;> with_reducible rfl
        simp only [Act.put, List.setIfInBounds_toArray, List.set_cons_zero, List.set_cons_succ]
        refine anyDone (by kernel_rfl) ?_ _
        have BE : Hid (Below w.heap.size w w10) := Lib.hid ((H8.out.2.2.trans (below_drewN' (Below.refl w.heap.size w8) 1)).trans (((K9.out.trans (K10.out.mono K9.out.size)).mono (Nat.le_trans H8.out.2.2.size (Nat.le_refl _)))))
        clear K9 HL1 HL2 H8
        go_wp2_with fail
        refine (root_x' n hn w10).mono ?_
        rintro e11 w11 ⟨rfl, hb11⟩
        have B11 := Lib.hid (BE.out.trans (hb11.mono BE.out.size))
        clear hb11 BE
        have CR := Lib.hid (HRR.out n w11 hn)
        have CC := Lib.hid (cube_x' n hn)
        have CD := Lib.hid (fun w => HCC.out n w hn)
        generalize rootN n 2 % X64 = r2 at *
        generalize rootN n 3 % X64 = r3 at *
        go_wp2_with fail
        refine CR.out.mono ?_
        rintro e12 w12 ⟨rfl, hb12⟩
        have B12 := Lib.hid (B11.out.trans (hb12.mono B11.out.size))
        clear hb12 B11 CR
        go_wp2_with fail
        refine (CC.out w12).mono ?_
        rintro e13 w13 ⟨rfl, hb13⟩
        have B13 := Lib.hid (B12.out.trans (hb13.mono B12.out.size))
        clear hb13 B12
        go_wp2_with fail
        refine (CD.out w13).mono ?_
        rintro e14 w14 ⟨rfl, hb14⟩
        have B14 := Lib.hid (B13.out.trans (hb14.mono B13.out.size))
        clear hb14 B13
        go_wp2
        go_ret
        exact ⟨rfl, B14.out⟩
      · clear hk2
        have HL2 := Lib.hid trivial
        generalize K80.getD k 0 = c3 at *
        have hki8 : ¬ (k : Int) < 8 := by omega
        refine anyStart (fun _ => False) (by kernel_rfl) ?_
        refine anyTakeE (i := 0) (oi := { dst := some 40, op := Op.move (Operand.tmp 5), type := 3, pos := "law.go:60", after := #[], guard := none }) rfl (by kernel_rfl) (by kernel_rfl) (by kernel_rfl) (fun _ _ _ _ h => h) (by rfl) ?_
        apply Exists.intro
        refine ⟨fun w' hk => ?_, ?_⟩
        · go_simp <;> with_reducible rfl
        simp only [Act.put, List.setIfInBounds_toArray, List.set_cons_zero, List.set_cons_succ]
        refine anyTakeE (i := 1) (oi := { dst := some 41, op := Op.indexAddr 25 (Operand.tmp 10) (Operand.tmp 40), type := 0, pos := "law.go:60", after := #[{ on := 0, ground := Ground.data }], guard := none }) rfl (by kernel_rfl) (by kernel_rfl) (by kernel_rfl) (fun _ _ _ _ h => h) (by rfl) ?_
        apply Exists.intro
        refine ⟨fun w' hk => ?_, ?_⟩
        · go_simp <;> with_reducible rfl
        simp only [Act.put, List.setIfInBounds_toArray, List.set_cons_zero, List.set_cons_succ]
        refine anyTakeE (i := 2) (oi := { dst := some 42, op := Op.load 24 (Operand.tmp 41), type := 24, pos := "law.go:60", after := #[{ on := 1, ground := Ground.data }], guard := none }) rfl (by kernel_rfl) (by kernel_rfl) (by kernel_rfl) (fun _ _ _ _ h => h) (by rfl) ?_
        apply Exists.intro
        refine ⟨fun w' hk => ?_, ?_⟩
        · have hc := HL1.out w' hk; go_simp <;> with_reducible rfl
        simp only [Act.put, List.setIfInBounds_toArray, List.set_cons_zero, List.set_cons_succ]
        refine anyTakeE (i := 3) (oi := { dst := some 43, op := Op.move (Operand.tmp 6), type := 3, pos := "law.go:60", after := #[], guard := none }) rfl (by kernel_rfl) (by kernel_rfl) (by kernel_rfl) (fun _ _ _ _ h => h) (by rfl) ?_
        apply Exists.intro
        refine ⟨fun w' hk => ?_, ?_⟩
        · go_simp <;> with_reducible rfl
        simp only [Act.put, List.setIfInBounds_toArray, List.set_cons_zero, List.set_cons_succ]
        refine anyTakeE (i := 4) (oi := { dst := some 44, op := Op.convert 3 24 (Operand.tmp 43), type := 24, pos := "law.go:60", after := #[{ on := 3, ground := Ground.data }], guard := none }) rfl (by kernel_rfl) (by kernel_rfl) (by kernel_rfl) (fun _ _ _ _ h => h) (by rfl) ?_
        apply Exists.intro
        refine ⟨fun w' hk => ?_, ?_⟩
        · go_simp <;> with_reducible rfl
        simp only [Act.put, List.setIfInBounds_toArray, List.set_cons_zero, List.set_cons_succ]
        refine anyCall (i := 5) (oi := { dst := some 45, op := Op.call { callee := Callee.value (Operand.func 28), args := #[Operand.tmp 44], argTypes := #[24] }, type := 24, pos := "law.go:60", after := #[{ on := 4, ground := Ground.data }], guard := none }) rfl (by kernel_rfl) (by rfl) ?_ ((HCC.out q _ (by omega)).mono ?_)
        · go_simp
        rintro e9 w9 ⟨rfl, hb9⟩
        refine ⟨_, rfl, Keeps.of_below hb9, ?_⟩
        have K9 := Lib.hid hb9
        clear hb9
        rw [← HK3.out]
        simp only [Act.put, List.setIfInBounds_toArray, List.set_cons_zero, List.set_cons_succ]
        refine anyTakeE (i := 6) (oi := { dst := some 46, op := Op.binOp BinOp.neq 24 (Operand.tmp 42) (Operand.tmp 45) 24, type := 4, pos := "law.go:60", after := #[{ on := 2, ground := Ground.data }, { on := 5, ground := Ground.data }], guard := none }) rfl (by kernel_rfl) (by kernel_rfl) (by kernel_rfl) (fun _ _ _ _ h => h) (by rfl) ?_
        apply Exists.intro
        refine ⟨fun w' hk => ?_, ?_⟩
        · go_simp <;> with_reducible rfl
        simp only [Act.put, List.setIfInBounds_toArray, List.set_cons_zero, List.set_cons_succ]
        refine anyTakeE (i := 7) (oi := { dst := some 47, op := Op.move (Operand.tmp 46), type := 4, pos := "law.go:60", after := #[{ on := 6, ground := Ground.data }, { on := 5, ground := Ground.chain }], guard := none }) rfl (by kernel_rfl) (by kernel_rfl) (by kernel_rfl) (fun _ _ _ _ h => h) (by rfl) ?_
        apply Exists.intro
        refine ⟨fun w' hk => ?_, ?_⟩
        · go_simp <;> with_reducible rfl
        simp only [Act.put, List.setIfInBounds_toArray, List.set_cons_zero, List.set_cons_succ]
        refine anyTakeE (i := 8) (oi := { dst := some 48, op := Op.move (Operand.tmp 5), type := 3, pos := "law.go:60", after := #[{ on := 7, ground := Ground.guard }], guard := some (7, false) }) rfl (by kernel_rfl) (by kernel_rfl) (by kernel_rfl) (fun _ _ _ _ h => h) (by rfl) ?_
        apply Exists.intro
        refine ⟨fun w' hk => ?_, ?_⟩
        · go_simp <;> with_reducible rfl
        simp only [Act.put, List.setIfInBounds_toArray, List.set_cons_zero, List.set_cons_succ]
        refine anyTakeE (i := 9) (oi := { dst := some 49, op := Op.binOp BinOp.lss 3 (Operand.tmp 48) (Operand.const (Value.int IntKind.i64 8)) 3, type := 4, pos := "law.go:60", after := #[{ on := 8, ground := Ground.data }, { on := 7, ground := Ground.guard }], guard := some (7, false) }) rfl (by kernel_rfl) (by kernel_rfl) (by kernel_rfl) (fun _ _ _ _ h => h) (by rfl) ?_
        apply Exists.intro
        refine ⟨fun w' hk => ?_, ?_⟩
        · go_simp <;> with_reducible rfl
        simp only [Act.put, List.setIfInBounds_toArray, List.set_cons_zero, List.set_cons_succ]
        refine anyTakeE (i := 10) (oi := { dst := some 50, op := Op.move (Operand.tmp 49), type := 4, pos := "law.go:60", after := #[{ on := 9, ground := Ground.data }, { on := 7, ground := Ground.chain }, { on := 7, ground := Ground.guard }], guard := some (7, false) }) rfl (by kernel_rfl) (by kernel_rfl) (by kernel_rfl) (fun _ _ _ _ h => h) (by rfl) ?_
        apply Exists.intro
        refine ⟨fun w' hk => ?_, ?_⟩
        · go_simp <;> with_reducible rfl
        simp only [Act.put, List.setIfInBounds_toArray, List.set_cons_zero, List.set_cons_succ]
        refine anySkip (i := 11) (oi := { dst := some 51, op := Op.move (Operand.tmp 5), type := 3, pos := "law.go:60", after := #[{ on := 10, ground := Ground.guard }], guard := some (10, true) }) rfl (by kernel_rfl) (by kernel_rfl) (by kernel_rfl) (fun _ _ _ h => h) (by rfl) ?_
        simp only [Act.put, List.setIfInBounds_toArray, List.set_cons_zero, List.set_cons_succ]
        refine anySkip (i := 12) (oi := { dst := some 52, op := Op.indexAddr 27 (Operand.tmp 11) (Operand.tmp 51), type := 0, pos := "law.go:60", after := #[{ on := 11, ground := Ground.data }, { on := 10, ground := Ground.guard }], guard := some (10, true) }) rfl (by kernel_rfl) (by kernel_rfl) (by kernel_rfl) (fun _ _ _ h => h) (by rfl) ?_
        simp only [Act.put, List.setIfInBounds_toArray, List.set_cons_zero, List.set_cons_succ]
        refine anySkip (i := 13) (oi := { dst := some 53, op := Op.load 24 (Operand.tmp 52), type := 24, pos := "law.go:60", after := #[{ on := 12, ground := Ground.data }, { on := 10, ground := Ground.guard }], guard := some (10, true) }) rfl (by kernel_rfl) (by kernel_rfl) (by kernel_rfl) (fun _ _ _ h => h) (by rfl) ?_
        simp only [Act.put, List.setIfInBounds_toArray, List.set_cons_zero, List.set_cons_succ]
        refine anySkip (i := 14) (oi := { dst := some 54, op := Op.move (Operand.tmp 6), type := 3, pos := "law.go:60", after := #[{ on := 10, ground := Ground.guard }], guard := some (10, true) }) rfl (by kernel_rfl) (by kernel_rfl) (by kernel_rfl) (fun _ _ _ h => h) (by rfl) ?_
        simp only [Act.put, List.setIfInBounds_toArray, List.set_cons_zero, List.set_cons_succ]
        refine anySkip (i := 15) (oi := { dst := some 55, op := Op.convert 3 24 (Operand.tmp 54), type := 24, pos := "law.go:60", after := #[{ on := 14, ground := Ground.data }, { on := 10, ground := Ground.guard }], guard := some (10, true) }) rfl (by kernel_rfl) (by kernel_rfl) (by kernel_rfl) (fun _ _ _ h => h) (by rfl) ?_
        simp only [Act.put, List.setIfInBounds_toArray, List.set_cons_zero, List.set_cons_succ]
        refine anySkip (i := 16) (oi := { dst := some 56, op := Op.call { callee := Callee.value (Operand.func 29), args := #[Operand.tmp 55], argTypes := #[24] }, type := 24, pos := "law.go:60", after := #[{ on := 15, ground := Ground.data }, { on := 10, ground := Ground.chain }, { on := 10, ground := Ground.guard }], guard := some (10, true) }) rfl (by kernel_rfl) (by kernel_rfl) (by kernel_rfl) (fun _ _ _ h => h) (by rfl) ?_
        simp only [Act.put, List.setIfInBounds_toArray, List.set_cons_zero, List.set_cons_succ]
        refine anySkip (i := 17) (oi := { dst := some 57, op := Op.binOp BinOp.neq 24 (Operand.tmp 53) (Operand.tmp 56) 24, type := 4, pos := "law.go:60", after := #[{ on := 13, ground := Ground.data }, { on := 16, ground := Ground.data }, { on := 10, ground := Ground.guard }], guard := some (10, true) }) rfl (by kernel_rfl) (by kernel_rfl) (by kernel_rfl) (fun _ _ _ h => h) (by rfl) ?_
        simp only [Act.put, List.setIfInBounds_toArray, List.set_cons_zero, List.set_cons_succ]
        refine anyTakeE (i := 18) (oi := { dst := some 58, op := Op.pick (Operand.tmp 50) (Operand.tmp 57) (Operand.const (Value.bool false)), type := 4, pos := "law.go:60", after := #[{ on := 10, ground := Ground.data }, { on := 17, ground := Ground.data }, { on := 7, ground := Ground.guard }], guard := some (7, false) }) rfl (by kernel_rfl) (by kernel_rfl) (by kernel_rfl) (fun _ _ _ _ h => h) (by rfl) ?_
        apply Exists.intro
        refine ⟨fun w' hk => ?_, ?_⟩
        · go_simp <;> with_reducible rfl
        simp only [Act.put, List.setIfInBounds_toArray, List.set_cons_zero, List.set_cons_succ]
        refine anyTakeE (i := 19) (oi := { dst := some 59, op := Op.pick (Operand.tmp 47) (Operand.const (Value.bool true)) (Operand.tmp 58), type := 4, pos := "law.go:60", after := #[{ on := 7, ground := Ground.data }, { on := 18, ground := Ground.data }], guard := none }) rfl (by kernel_rfl) (by kernel_rfl) (by kernel_rfl) (fun _ _ _ _ h => h) (by rfl) ?_
        apply Exists.intro
        refine ⟨fun w' hk => ?_, ?_⟩
        · go_simp <;> with_reducible rfl
        simp only [Act.put, List.setIfInBounds_toArray, List.set_cons_zero, List.set_cons_succ]
        refine anyDone (by kernel_rfl) ?_ _
        have BE : Hid (Below w.heap.size w w9) := Lib.hid ((H8.out.2.2.trans (below_drewN' (Below.refl w.heap.size w8) 1)).trans (K9.out.mono H8.out.2.2.size))
        clear K9 HL1 HL2 H8
        go_wp2_with fail
        refine (root_x' n hn w9).mono ?_
        rintro e11 w11 ⟨rfl, hb11⟩
        have B11 := Lib.hid (BE.out.trans (hb11.mono BE.out.size))
        clear hb11 BE
        have CR := Lib.hid (HRR.out n w11 hn)
        have CC := Lib.hid (cube_x' n hn)
        have CD := Lib.hid (fun w => HCC.out n w hn)
        generalize rootN n 2 % X64 = r2 at *
        generalize rootN n 3 % X64 = r3 at *
        go_wp2_with fail
        refine CR.out.mono ?_
        rintro e12 w12 ⟨rfl, hb12⟩
        have B12 := Lib.hid (B11.out.trans (hb12.mono B11.out.size))
        clear hb12 B11 CR
        go_wp2_with fail
        refine (CC.out w12).mono ?_
        rintro e13 w13 ⟨rfl, hb13⟩
        have B13 := Lib.hid (B12.out.trans (hb13.mono B12.out.size))
        clear hb13 B12
        go_wp2_with fail
        refine (CD.out w13).mono ?_
        rintro e14 w14 ⟨rfl, hb14⟩
        have B14 := Lib.hid (B13.out.trans (hb14.mono B13.out.size))
        clear hb14 B13
        go_wp2
        go_ret
        exact ⟨rfl, B14.out⟩
end Go.Proofs.Ytphalfpmgbmcaaa
