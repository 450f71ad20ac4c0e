/- The field's split of 32 bytes. No statement is proved here. -/
import Derived.Test.YtgdimnbdnepbgaaFC
namespace Go.Proofs.Ytgdimnbdnepbgaa
open Go.RowKit
set_option linter.unusedVariables false
set_option maxRecDepth 40000

/-- Byte i of l. -/
def bt (l : List UInt8) (i : Nat) : Nat := (l.getD i 0).toNat
theorem bt_lt (l : List UInt8) (i : Nat) : bt l i < 256 := (l.getD i 0).toNat_lt
/-- The eight bytes of l from k on, as a number. -/
def q8 (l : List UInt8) (k : Nat) : Nat := num8 (bt l k) (bt l (k + 1)) (bt l (k + 2)) (bt l (k + 3)) (bt l (k + 4)) (bt l (k + 5)) (bt l (k + 6)) (bt l (k + 7))
theorem q8_lt (l : List UInt8) (k : Nat) : q8 l k < 18446744073709551616 :=
  num8_lt _ _ _ _ _ _ _ _ ⟨bt_lt _ _, bt_lt _ _, bt_lt _ _, bt_lt _ _, bt_lt _ _, bt_lt _ _, bt_lt _ _, bt_lt _ _⟩
/-- A number's bytes lie in row g. -/
def NumAt (w : World) (g : Nat) (l : List UInt8) : Prop := l.length = 32 ∧ ∃ t, w.heap[g]? = some (.cells (bcs l).toArray t (0, 0))
theorem NumAt.cell {w : World} {g : Nat} {l : List UInt8} (h : NumAt w g l) (i : Nat) (hi : i < 32) : w.cell? ⟨g, i, none⟩ = some (.int .u8 (bt l i)) := by
  obtain ⟨hl, t, ht⟩ := h
  refine row_cells ht i _ ?_
  rw [List.toList_toArray, bcs_get]
  unfold bt
  rw [List.getD_eq_getElem?_getD, List.getElem?_eq_getElem (by omega)]
  rfl
theorem NumAt.lt {w : World} {g : Nat} {l : List UInt8} (h : NumAt w g l) : g < w.heap.size := by
  obtain ⟨_, t, ht⟩ := h
  exact (Array.getElem?_eq_some_iff.1 ht).1
theorem NumAt.below {w w' : World} {g B : Nat} {l : List UInt8} (h : NumAt w g l) (hb : Below B w w') (hg : g < B) : NumAt w' g l := by
  obtain ⟨hl, t, ht⟩ := h
  exact ⟨hl, t, (hb.block g hg).trans ht⟩
theorem NumAt.grown {w w' : World} {g : Nat} {l : List UInt8} {row : Option Nat} (h : NumAt w g l) (hb : w.grownBy w' row) (hg : some g ≠ row) : NumAt w' g l := by
  have := h.lt
  obtain ⟨hl, t, ht⟩ := h
  exact ⟨hl, t, (hb.block g this hg).trans ht⟩
theorem quad_row {w : World} {g : Nat} {l : List UInt8} (h : NumAt w g l) (k c : Nat) (hk : k ≤ 24) :
    Calls Try.prog 105 #[.slice (some ⟨g, k, none⟩) 8 c] w (Gives (.int .u64 (q8 l k)) w) :=
  quad_any g k c _ _ _ _ _ _ _ _ w (h.cell k (by omega)) (h.cell (k + 1) (by omega)) (h.cell (k + 2) (by omega)) (h.cell (k + 3) (by omega)) (h.cell (k + 4) (by omega)) (h.cell (k + 5) (by omega)) (h.cell (k + 6) (by omega)) (h.cell (k + 7) (by omega))
    (bt_lt _ _) (bt_lt _ _) (bt_lt _ _) (bt_lt _ _) (bt_lt _ _) (bt_lt _ _) (bt_lt _ _) (bt_lt _ _)

theorem under91 : Try.prog.underlying 91 = some (.array 4 24) := by kernel_rfl
theorem size91 : (Try.prog.info? 91).map (·.size) = some 4 := by kernel_rfl
theorem zero91 (w : World) : (zeroValue 91).run Try.prog w = .ok (.agg (zw 4)) w := by kernel_rfl
theorem size24 : (Try.prog.info? 24).map (·.size) = some 1 := by kernel_rfl

/-- The memory of split: the words so far, behind the number's row. -/
structure Sp (g : Nat) (l : List UInt8) (w : World) (o : List Nat) (w' : World) : Prop where
  num : NumAt w' g l
  old : g < w.heap.size
  row : w'.heap[w.heap.size]? = some (.cells (ucs o).toArray 91 (0, 0))
  lt : w.heap.size < w'.heap.size
  bel : Below w.heap.size w w'
theorem Sp.call {g : Nat} {l : List UInt8} {w : World} {o : List Nat} {w' w'' : World} (h : Sp g l w o w') (hb : Below w'.heap.size w' w'') : Sp g l w o w'' :=
  ⟨h.num.below hb h.num.lt, h.old, (hb.block _ h.lt).trans h.row, Nat.lt_of_lt_of_le h.lt hb.size, h.bel.trans (hb.mono (Nat.le_of_lt h.lt))⟩
theorem Sp.set {g : Nat} {l : List UInt8} {w : World} {o o' : List Nat} {w' w'' : World} (h : Sp g l w o w') (hg : w'.grownBy w'' (some w.heap.size)) (hh : w''.heap[w.heap.size]? = some (.cells (ucs o').toArray 91 (0, 0))) : Sp g l w o' w'' :=
  ⟨h.num.grown hg (by have := h.old; simp; omega), h.old, hh, (Array.getElem?_eq_some_iff.1 hh).1, h.bel.grown hg (by have := h.lt; omega) (fun r hr => by injection hr; omega)⟩

set_option maxHeartbeats 800000 in
theorem split_any (g : Nat) (l : List UInt8) (w : World) (h : NumAt w g l) :
    Calls Try.prog 92 #[.pointer (some ⟨g, 0, none⟩)] w (Gives (.agg (ucs [q8 l 0, q8 l 8, q8 l 16, q8 l 24]).toArray) w) := by
  have HO : Hid (g < w.heap.size) := h.lt
  have HN := Lib.hid h
  clear h
  have M0 : Hid (∀ (w' : World) (c : Nat), NumAt w' g l → Calls Try.prog 105 #[.slice (some ⟨g, 0, none⟩) 8 c] w' (Gives (.int .u64 (q8 l 0)) w')) := fun w' c h => quad_row h 0 c (by omega)
  have M1 : Hid (∀ (w' : World) (c : Nat), NumAt w' g l → Calls Try.prog 105 #[.slice (some ⟨g, 8, none⟩) 8 c] w' (Gives (.int .u64 (q8 l 8)) w')) := fun w' c h => quad_row h 8 c (by omega)
  have M2 : Hid (∀ (w' : World) (c : Nat), NumAt w' g l → Calls Try.prog 105 #[.slice (some ⟨g, 16, none⟩) 8 c] w' (Gives (.int .u64 (q8 l 16)) w')) := fun w' c h => quad_row h 16 c (by omega)
  have M3 : Hid (∀ (w' : World) (c : Nat), NumAt w' g l → Calls Try.prog 105 #[.slice (some ⟨g, 24, none⟩) 8 c] w' (Gives (.int .u64 (q8 l 24)) w')) := fun w' c h => quad_row h 24 c (by omega)
  generalize q8 l 0 = q0 at *
  generalize q8 l 8 = q1 at *
  generalize q8 l 16 = q2 at *
  generalize q8 l 24 = q3 at *
  go_enter Try.func92, Try.ntmps92
  go_wp2_with (with_reducible refine wpList_alloc_row rfl 91 rfl (.agg (zw 4)) zero91 ?_; intro w0 hh0 hz0 hg0; have HZ0 := Lib.hid hz0; clear hz0)
  have S : Hid (Sp g l w [0, 0, 0, 0] w0) :=
    ⟨HN.out.grown hg0 (by simp), HO.out, hh0, by rw [HZ0.out]; omega, (Below.refl _ w).grown hg0 (by omega) (by simp)⟩
  clear hh0 hg0 HZ0 HN HO
  refine (M0.out _ _ S.out.num).mono ?_
  rintro e v0 ⟨rfl, hb⟩
  have S0 := Lib.hid (S.out.call hb)
  clear hb S M0
  go_wp2_with ((with_reducible show wpList _ _ _ (⟨none, .store 24 (.tmp 7) (.tmp 6), _, _, _, _⟩ :: _) _ _); refine wpList_store_one rfl 24 (.tmp 7) (.tmp 6) rfl w.heap.size 0 rfl .u64 (q0 : Int) rfl 91 _ S0.out.row size24 (by simp [ucs_len]) ?_; intro u0 hh hg hz; clear hz; rw [ucs_set] at hh; have S := Lib.hid (S0.out.set (o' := [q0, 0, 0, 0]) hg hh); clear hh hg S0)
  refine (M1.out _ _ S.out.num).mono ?_
  rintro e v1 ⟨rfl, hb⟩
  have S1 := Lib.hid (S.out.call hb)
  clear hb S M1
  go_wp2_with ((with_reducible show wpList _ _ _ (⟨none, .store 24 (.tmp 12) (.tmp 11), _, _, _, _⟩ :: _) _ _); refine wpList_store_one rfl 24 (.tmp 12) (.tmp 11) rfl w.heap.size 1 rfl .u64 (q1 : Int) rfl 91 _ S1.out.row size24 (by simp [ucs_len]) ?_; intro u1 hh hg hz; clear hz; rw [ucs_set] at hh; have S := Lib.hid (S1.out.set (o' := [q0, q1, 0, 0]) hg hh); clear hh hg S1)
  refine (M2.out _ _ S.out.num).mono ?_
  rintro e v2 ⟨rfl, hb⟩
  have S2 := Lib.hid (S.out.call hb)
  clear hb S M2
  go_wp2_with ((with_reducible show wpList _ _ _ (⟨none, .store 24 (.tmp 17) (.tmp 16), _, _, _, _⟩ :: _) _ _); refine wpList_store_one rfl 24 (.tmp 17) (.tmp 16) rfl w.heap.size 2 rfl .u64 (q2 : Int) rfl 91 _ S2.out.row size24 (by simp [ucs_len]) ?_; intro u2 hh hg hz; clear hz; rw [ucs_set] at hh; have S := Lib.hid (S2.out.set (o' := [q0, q1, q2, 0]) hg hh); clear hh hg S2)
  refine (M3.out _ _ S.out.num).mono ?_
  rintro e v3 ⟨rfl, hb⟩
  have S3 := Lib.hid (S.out.call hb)
  clear hb S M3
  go_wp2_with (first | ((with_reducible show wpList _ _ _ (⟨none, .store 24 (.tmp 22) (.tmp 21), _, _, _, _⟩ :: _) _ _); refine wpList_store_one rfl 24 (.tmp 22) (.tmp 21) rfl w.heap.size 3 rfl .u64 (q3 : Int) rfl 91 _ S3.out.row size24 (by simp [ucs_len]) ?_; intro u3 hh hg hz; clear hz; rw [ucs_set] at hh; have S := Lib.hid (S3.out.set (o' := [q0, q1, q2, q3]) hg hh); clear hh hg S3; have HC : Hid (∀ i u, (ucs [q0, q1, q2, q3])[i]? = some u → u3.cell? ⟨w.heap.size, 0 + i, none⟩ = some u) := fun i u hu => by rw [Nat.zero_add]; exact row_cells S.out.row i u (by simpa using hu)) | ((with_reducible show wpList _ _ _ (⟨_, .load 91 (.tmp 2), _, _, _, _⟩ :: _) _ _); refine wpList_load_arr rfl 91 (.tmp 2) rfl w.heap.size 0 rfl (ucs [q0, q1, q2, q3]) HC.out _ under91 rfl size91 ?_) | ((with_reducible show wpList _ _ _ (⟨none, .store 91 (.tmp 2) (.tmp 23), _, _, _, _⟩ :: _) _ _); refine wpList_store_all rfl 91 (.tmp 2) (.tmp 23) rfl w.heap.size rfl (ucs [q0, q1, q2, q3]).toArray rfl 91 _ S.out.row size91 rfl (ucs_one _) ?_; intro w3 hh3 hg3 hz3; have S4 := Lib.hid (S.out.set hg3 hh3); clear hh3 hg3 hz3))
  refine bodyPost_ret (results_cell_row rfl _ _ w.heap.size 91 (ucs [q0, q1, q2, q3]).toArray _ _ rfl S4.out.row under91 rfl size91) rfl ?_
  exact ⟨rfl, S4.out.bel⟩
end Go.Proofs.Ytgdimnbdnepbgaa
