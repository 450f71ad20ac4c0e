/- It is proved that ShaNames returns true: the examples of chapter 2. Conditions: none. -/
import Derived.Test.YtphalfpmgbmcaaaRows
import Derived.Test.YtphalfpmgbmcaaaU
import Derived.ProofKit
import Derived.OpenShut
import Derived.ChangeOld
namespace Go.Proofs.Ytphalfpmgbmcaaa.shaNames
open Go.ChangeShapes Go.WideShapes Go.ChangeAt Go.RowKit
set_option linter.unusedVariables false

theorem own : ownKnob Try.prog.godebug = none := by kernel_rfl
theorem laidOut : laidOutB Try.prog = true := by kernel_rfl

theorem nil512_4 : (sum512 []).take 4 = [207, 131, 225, 53] := by
  unfold sum512
  rw [nil512]
  decide +kernel
theorem pad0_len : (padded []).length = 128 := by decide +kernel
theorem pad112_len : (padded (List.replicate 112 0)).length = 256 := by decide +kernel
theorem parts_nil (w : World) : Parts (w.alloc (.cells #[.slice none 0 0] 30)) (· < w.heap.size + 1) (some ⟨w.heap.size, 0, none⟩) [[]] := by
  refine ⟨fun i hi => ?_⟩
  obtain rfl : i = 0 := by simpa using hi
  refine ⟨w.heap.size, 0, none, 0, 0, rfl, by omega, ?_, Src.nil_ _ _ _, Nat.le_refl _, by unfold maxLen; omega⟩
  rw [cell_of_row _ w.heap.size (0 + 0) _ 30 (0, 0) (heap_alloc_new w _)]
  rfl
theorem root_x (n v : Nat) (h : rootN (n % 4294967296) 2 % X64 = v) (w : World) : Calls Try.prog 13 #[.int .u64 n] w (Gives (.int .u64 (v : Int)) w) := by
  rw [← h]
  exact root_any n w
theorem cube_x (n v : Nat) (h : rootN (n % 4294967296) 3 % X64 = v) (w : World) : Calls Try.prog 14 #[.int .u64 n] w (Gives (.int .u64 (v : Int)) w) := by
  rw [← h]
  exact cube_any n w
theorem zbs_bcs (n : Nat) : (zbs n).toList = bcs (List.replicate n 0) := by
  simp [zbs]
set_option maxRecDepth 100000 in
set_option maxHeartbeats 1000000 in
theorem walk (w : World) : Calls Try.prog 3 #[] w fun e w' => e = .returned (.bool true) ∧ Below w.heap.size w w' := by
  have H5 := Lib.hid nil512_4
  have L5 := Lib.hid (sum512_len [])
  have C5 : Hid (∀ (w : World) (S : Nat → Prop) (P : Option Addr) (pc : Nat), Parts w S P [[]] → (∀ b, S b → b < w.heap.size) → Calls Try.prog 9 #[.slice P 1 pc] w (Gives (.agg (bcs (sum512 [])).toArray) w)) :=
    fun w S P pc hp hS => sum512_any [[]] w S P pc hp hS (by simp) (by simp)
  generalize sum512 [] = F5 at *
  have HF5 := Lib.hid (show (Try.prog.info? 22).map (·.size) = some (bcs F5).toArray.size from by rw [size22]; simp [bcs_len, L5.out])
  have HF5z := Lib.hid (show (bcs F5).toArray.size = (zbs 64).size from by simp [bcs_len, L5.out, zbs])
  go_enter Try.func3, Try.ntmps3
  go_wp2_with fail
  refine (C5.out _ (· < w.heap.size + 1) _ _ (parts_nil w) (fun b hb => by simp; omega)).mono ?_
  rintro e1 w1 ⟨rfl, hb1⟩
  have B1 : Hid (Below w.heap.size w w1) := Lib.hid ((below_alloc w _).trans (hb1.mono (by simp)))
  clear hb1 C5
  go_wp2_with (first | (with_reducible refine wpList_alloc_row rfl 22 rfl (.agg (zbs 64)) zero22 ?_; intro w2 hh2 hz2 hg2) | ((with_reducible show wpList _ _ _ (⟨none, .store 22 (.tmp 1) (.tmp 5), _, _, _, _⟩ :: _) _ _); refine wpList_store_all rfl 22 (.tmp 1) (.tmp 5) rfl w1.heap.size rfl (bcs F5).toArray rfl 22 (zbs 64) hh2 HF5.out HF5z.out (bcs_one _) ?_; intro w3 hh3 hg3 hz3))
  have H3 := Lib.hid hh3
  have hlt1 : w1.heap.size < w3.heap.size := by omega
  have B3 : Hid (Below w.heap.size w w3) := Lib.hid ((B1.out.grown hg2 B1.out.size (by simp)).grown hg3 (by have := B1.out.size; omega) (fun r hr => by injection hr; have := B1.out.size; omega))
  clear hh2 hh3 hg2 hg3 hz2 hz3 HF5 HF5z
  refine (K_any w3).mono ?_
  rintro e4 w4 ⟨rfl, hb4⟩
  have H4 := Lib.hid ((hb4.block _ hlt1).trans H3.out)
  have hlt2 : w1.heap.size < w4.heap.size := by have := hb4.size; omega
  have B4 : Hid (Below w.heap.size w w4) := Lib.hid (B3.out.trans (hb4.mono B3.out.size))
  clear hb4 H3 B3
  go_wp2_with (first | (with_reducible refine wpList_alloc_row rfl 25 rfl (.agg (zw 80)) zero25 ?_; intro w5 hh5 hz5 hg5) | ((with_reducible show wpList _ _ _ (⟨none, .store 25 (.tmp 2) (.tmp 6), _, _, _, _⟩ :: _) _ _); refine wpList_store_all rfl 25 (.tmp 2) (.tmp 6) rfl w4.heap.size rfl K80a rfl 25 (zw 80) hh5 (by rw [size25, K80a_size]) (by rw [K80a_size]; rfl) K80a_one ?_; intro w6 hh6 hg6 hz6))
  have H6 : Hid (w6.heap[w1.heap.size]? = some (.cells (bcs F5).toArray 22 (0, 0)) ∧ w6.heap[w4.heap.size]? = some (.cells K80a 25 (0, 0))) :=
    Lib.hid ⟨(hg6.block _ (by omega) (by simp; omega)).trans ((hg5.block _ (by omega) (by simp)).trans H4.out), hh6⟩
  have hlt3 : w4.heap.size < w6.heap.size := by omega
  have B6 : Hid (Below w.heap.size w w6) := Lib.hid ((B4.out.grown hg5 B4.out.size (by simp)).grown hg6 (by have := B4.out.size; omega) (fun r hr => by injection hr; have := B4.out.size; omega))
  clear hh5 hh6 hg5 hg6 hz5 hz6 H4 B4
  refine (start_any w6).mono ?_
  rintro e7 w7 ⟨rfl, hb7⟩
  have H7 : Hid (w7.heap[w1.heap.size]? = some (.cells (bcs F5).toArray 22 (0, 0)) ∧ w7.heap[w4.heap.size]? = some (.cells K80a 25 (0, 0))) := Lib.hid ⟨(hb7.block _ (by omega)).trans H6.out.1, (hb7.block _ (by omega)).trans H6.out.2⟩
  have hlt4 : w4.heap.size < w7.heap.size := by have := hb7.size; omega
  have B7 : Hid (Below w.heap.size w w7) := Lib.hid (B6.out.trans (hb7.mono B6.out.size))
  clear hb7 H6 B6
  go_wp2_with (first | (with_reducible refine wpList_alloc_row rfl 27 rfl (.agg (zw 8)) zero27 ?_; intro w8 hh8 hz8 hg8) | ((with_reducible show wpList _ _ _ (⟨none, .store 27 (.tmp 3) (.tmp 7), _, _, _, _⟩ :: _) _ _); refine wpList_store_all rfl 27 (.tmp 3) (.tmp 7) rfl w7.heap.size rfl (ucs start512.words).toArray rfl 27 (zw 8) hh8 (sz27 _) rfl (ucs_one _) ?_; intro w9 hh9 hg9 hz9))
  have H9 : Hid (w9.heap[w1.heap.size]? = some (.cells (bcs F5).toArray 22 (0, 0)) ∧ w9.heap[w4.heap.size]? = some (.cells K80a 25 (0, 0)) ∧ w9.heap[w7.heap.size]? = some (.cells (ucs start512.words).toArray 27 (0, 0))) :=
    Lib.hid ⟨(hg9.block _ (by omega) (by simp; omega)).trans ((hg8.block _ (by omega) (by simp)).trans H7.out.1), (hg9.block _ (by omega) (by simp; omega)).trans ((hg8.block _ (by omega) (by simp)).trans H7.out.2), hh9⟩
  have hlt5 : w7.heap.size < w9.heap.size := by omega
  have B9 : Hid (Below w.heap.size w w9) := Lib.hid ((B7.out.grown hg8 B7.out.size (by simp)).grown hg9 (by have := B7.out.size; omega) (fun r hr => by injection hr; have := B7.out.size; omega))
  clear hh8 hh9 hg8 hg9 hz8 hz9 H7 B7
  refine (lives_any w9).mono ?_
  rintro e10 w10 ⟨rfl, hb10⟩
  have hh10 := (hb10.block _ (by omega)).trans H9.out.1
  have hcv := conv_src (c := 64) (src_head (n := 4) hh10 (by rw [L5.out]; omega))
  rw [H5.out] at hcv
  have hk : w10.cell? ⟨w4.heap.size, 79, none⟩ = some (.int .u64 7801388544844847127) := row_cells ((hb10.block _ (by omega)).trans H9.out.2.1) 79 _ rfl
  have hs : w10.cell? ⟨w7.heap.size, 7, none⟩ = some (.int .u64 6620516959819538809) := row_cells ((hb10.block _ (by omega)).trans H9.out.2.2) 7 _ rfl
  have B10 : Hid (Below w.heap.size w w10) := Lib.hid (B9.out.trans (hb10.mono B9.out.size))
  clear hb10 hh10 H9 B9 H5 L5
  go_wp2_with fail
  refine (root_x 4 0 root_4_2 w10).mono ?_
  rintro e11 w11 ⟨rfl, hb11⟩
  have B11 : Hid (Below w.heap.size w w11) := Lib.hid (B10.out.trans (hb11.mono B10.out.size))
  clear hb11 B10 hcv hk hs
  go_wp2_with fail
  refine (cube_x 27 0 root_27_3 w11).mono ?_
  rintro e12 w12 ⟨rfl, hb12⟩
  have B12 : Hid (Below w.heap.size w w12) := Lib.hid (B11.out.trans (hb12.mono B11.out.size))
  clear hb12 B11
  go_wp2_with fail
  refine (root_x 4294967298 7640891576956012808 root_2_2 w12).mono ?_
  rintro e13 w13 ⟨rfl, hb13⟩
  have B13 : Hid (Below w.heap.size w w13) := Lib.hid (B12.out.trans (hb13.mono B12.out.size))
  clear hb13 B12
  go_wp2_with fail
  refine (root_x 2 7640891576956012808 root_2_2 w13).mono ?_
  rintro e14 w14 ⟨rfl, hb14⟩
  have B14 : Hid (Below w.heap.size w w14) := Lib.hid (B13.out.trans (hb14.mono B13.out.size))
  clear hb14 B13
  go_wp2_with fail
  refine (pad_any [] w14 (fun _ => False) none 0 0 (Src.nil_ _ _ _) (fun _ h => h.elim) (by omega) (by omega) (by unfold maxLen; omega)).mono ?_
  rintro e15 w15 ⟨v15, rfl, ho15, hb15⟩
  obtain ⟨A15, c15, rfl, _, _, _⟩ := ho15.src
  rw [pad0_len]
  have B15 : Hid (Below w.heap.size w w15) := Lib.hid (B14.out.trans (hb15.mono B14.out.size))
  clear ho15 hb15 B14
  go_wp2_with (at_make; refine wpList_makeB rfl _ _ rfl .i64 .i64 112 112 rfl rfl (by omega) (by omega) ?_; intro w16 hh16 hz16 hg16)
  have hs16 : Src w16 (fun b => b = w15.heap.size) (some ⟨w15.heap.size, 0, none⟩) 112 (bcs (List.replicate 112 0)) := by
    refine ⟨by simp [bcs_len], fun h0 => ⟨w15.heap.size, 0, rfl, rfl, fun i hi => ?_⟩⟩
    rw [cell_of_row w16 w15.heap.size (0 + i) _ _ _ hh16, Nat.zero_add, ← zbs_bcs]
    simp
  have B16 : Hid (Below w.heap.size w w16) := Lib.hid (B15.out.grown hg16 B15.out.size (by simp))
  have HS16 := Lib.hid hs16
  have HZ16 := Lib.hid hz16
  clear hs16 hh16 hg16 hz16 B15
  refine (pad_any (List.replicate 112 0) w16 _ _ 112 112 HS16.out (fun b hb => by rw [hb, HZ16.out]; omega) (by omega) (by omega) (by unfold maxLen; omega)).mono ?_
  rintro e17 w17 ⟨v17, rfl, ho17, hb17⟩
  obtain ⟨A17, c17, rfl, _, _, _⟩ := ho17.src
  rw [pad112_len]
  have B17 : Hid (Below w.heap.size w w17) := Lib.hid (B16.out.trans (hb17.mono B16.out.size))
  clear ho17 hb17 B16
  go_wp2
  go_ret
  exact ⟨rfl, B17.out⟩

set_option maxRecDepth 100000 in
theorem lifted (os : Os) (started : os.Started) (H : Type) (enc : TypeId × Value → H) :
    ReturnsInHanded {} Try.checked os 3 .any (Rows.shaNamesSpec.pre6 enc Try.prog Try.f3 Rows.shaNamesRow.domain false) (Rows.shaNamesSpec.post enc Try.prog Try.f3 false true false false) := by
  refine returnsInHanded_of_change (C := Try.checked) own started (by kernel_rfl) Try.func3
    (ChangeSpec.witness6 (enc := enc) (C := Try.checked) false ⟨#[], #[], []⟩ 8 (by kernel_rfl) (by kernel_rfl) (by kernel_rfl) (by kernel_rfl)) ?_
  intro W base args ds gs before hval0 hW hcnd _
  have hval : ∀ (j : Nat) t v, Try.f3.params[j]? = some t → args[j]? = some v → Value.okWide Try.prog W .any base t v := hval0
  have hW' := hW
  obtain ⟨p, q, hA0, hV, rfl, hfz, hnd⟩ := hW
  have hA : DataW.TrodAll enc Try.prog W 0 (fun _ => true) true Try.f3.params.toList args.toList ds p := hA0
  rw [Try.params3] at hA hval
  obtain ⟨hargs, rfl, rfl⟩ := trodAll_nil hA
  obtain rfl : args = #[] := by cases args; simp_all
  obtain ⟨rfl, rfl⟩ := trodVars_none hV
  clear hA0 hval0
  refine (walk W).mono fun e W' ⟨he, bel⟩ => ?_
  subst he
  exact ⟨_, rfl, _, _, _, [], _, [], hW', trodAll_mk1 (shut_bool Try.underlying4 _), trodAll_mk0, rfl, bel.frame _, fun h => by cases h⟩

theorem over : Rows.shaNamesRow.holds Try.pinned (OpenSpec.ofChange Rows.shaNamesSpec) :=
  OpenClaim.holds_of_wide 3 Try.f3 rfl rfl rfl rfl rfl rfl rfl ⟨rfl, rfl, rfl, rfl, rfl⟩ rfl rfl rfl rfl rfl (by kernel_rfl) Try.func3 (by kernel_rfl)
    (of_decide_eq_true (by kernel_rfl)) (by unfold Func.isWrapper; first | (rw [if_pos (by decide +kernel)]; kernel_rfl) | (rw [if_neg (by decide +kernel)]; exact ⟨rfl, rfl⟩))
    (fun os started H enc _ => lifted os started H enc)

/-- The statement. -/
theorem proved : Rows.ShaNamesSaid := over
#print axioms proved
end Go.Proofs.Ytphalfpmgbmcaaa.shaNames
