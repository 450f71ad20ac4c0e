/- The chapter's examples hold. No statement is proved here. -/
import Derived.Test.YtfhjcfoecmbhkaaLA
import Derived.Test.YtfhjcfoecmbhkaaDE
import Derived.Test.YtfhjcfoecmbhkaaDJ
namespace Go.Proofs.Ytfhjcfoecmbhkaa
open Go.RowKit Go.Maps
set_option linter.unusedVariables false
set_option linter.unusedSimpArgs false

theorem src_row {w : World} {g : Nat} {l : List UInt8} {t : TypeId} (h : w.heap[g]? = some (.cells (bcs l).toArray t (0, 0))) (n : Nat) (hn : l.length = n) : Src w (fun b => b = g) (some ⟨g, 0, none⟩) n (bcs l) :=
  ⟨by rw [bcs_len, hn], fun _ => ⟨_, _, rfl, rfl, fun k hk => by rw [cell_of_row w _ _ _ _ _ h]; simp⟩⟩
theorem src_bools {w : World} {g : Nat} {l : List Bool} {t : TypeId} (h : w.heap[g]? = some (.cells (l.map Value.bool).toArray t (0, 0))) : Src w (fun b => b = g) (some ⟨g, 0, none⟩) l.length (l.map Value.bool) :=
  ⟨List.length_map .., fun _ => ⟨_, _, rfl, rfl, fun k hk => by rw [cell_of_row w _ _ _ _ _ h]; simp⟩⟩
/-- The cache of the examples. -/
def exC : Nat → Option (List UInt8) := upd (upd (fun _ => none) 0 (some (rep 1))) 1 (some (rep 2))
theorem exC0 (S : Nat → List UInt8) : crash exC (fun k => [false, true].getD k false) S 0 = S 0 := rfl
theorem exC1 (S : Nat → List UInt8) : crash exC (fun k => [false, true].getD k false) S 1 = rep 2 := rfl
theorem exD (S : Nat → List UInt8) (i : Nat) : crash exC (fun k => ([] : List Bool).getD k false) S i = S i := by
  unfold crash
  split <;> simp
theorem exCok : COk 2 exC := fun i hi s hs => by
  have : i = 0 ∨ i = 1 := by omega
  rcases this with rfl | rfl
  · have h : some (rep 1) = some s := hs
    cases h; exact rep_len 1
  · have h : some (rep 2) = some s := hs
    cases h; exact rep_len 2
/-- A byte of an image. -/
theorem img_cell {w : World} {SS : Nat → Prop} {b o n i j : Nat} {S : Nat → List UInt8} (hs : Src w SS (some ⟨b, o, none⟩) (256 * n) (bcs (flat n S))) (hok : SOk n S) (hi : i < n) (hj : j < 256) (x : UInt8) (hx : (S i)[j]? = some x) : w.cell? ⟨b, o + (256 * i + j), none⟩ = some (.int .u8 (x.toNat : Int)) := by
  obtain ⟨b', o', e, _, hc⟩ := hs.lies (by omega)
  injection e with e
  injection e with e1 e2
  subst e1; subst e2
  rw [hc _ (by omega), bcs_get, flat_byte hok hi hj, hx]
  rfl

set_option maxRecDepth 100000 in
set_option maxHeartbeats 2000000 in
theorem lives_any (w : World) : Calls Try.prog 14 #[] w (Gives (.bool true) w) := by
  have M0 : Hid True := trivial
  go_enter Try.func14, Try.ntmps14
  go_wp2_with fail
  refine (new_any w 2 (by omega) (by omega)).mono ?_
  rintro e1 w1 ⟨p, rfl, hd1, hb1⟩
  have HD1 := Lib.hid hd1
  have HB1 := Lib.hid hb1
  clear hd1 hb1
  go_wp2_with fail
  refine (row_any w1 1).mono ?_
  rintro e2 w2 ⟨rfl, hr2, hb2⟩
  have HD2 := Lib.hid (HD1.out.below hb2)
  have HB2 := Lib.hid (HB1.out.trans (hb2.mono HB1.out.size))
  have HS2 := Lib.hid (src_row hr2 256 (rep_len 1))
  clear HD1 hr2
  go_wp2_with fail
  refine (write_in HD2.out 0 (by omega) _ _ 256 (rep 1) HS2.out).mono ?_
  rintro e3 w3 ⟨rfl, hd3, hk3⟩
  have HD3 := Lib.hid hd3
  have HB3 := Lib.hid (HB2.out.trans (hk3.below HB2.out.size (fun k hk => by omega)))
  clear HD2 HS2 hd3
  go_wp2_with fail
  refine (row_any w3 2).mono ?_
  rintro e4 w4 ⟨rfl, hr4, hb4⟩
  have HD4 := Lib.hid (HD3.out.below hb4)
  have HB4 := Lib.hid (HB3.out.trans (hb4.mono HB3.out.size))
  have HS4 := Lib.hid (src_row hr4 256 (rep_len 2))
  clear HD3 hr4
  go_wp2_with fail
  refine (write_in HD4.out 1 (by omega) _ _ 256 (rep 2) HS4.out).mono ?_
  rintro e5 w5 ⟨rfl, hd5, hk5⟩
  have HD5 : Hid (Dk w5 w.heap.size w1.heap.size p 2 (fun _ => zs 256) exC) := Lib.hid hd5
  have HB5 := Lib.hid (HB4.out.trans (hk5.below HB4.out.size (fun k hk => by omega)))
  have hz15 : w1.heap.size ≤ w5.heap.size := by have := hk5.size; have := hb4.size; have := hk3.size; have := hb2.size; omega
  clear HD4 HS4 hd5 HB1 HB2 HB3 HB4 hk3 hk5 hb2 hb4
  go_wp2_with fail
  refine (clone_dk HD5.out).mono ?_
  rintro e6 w6 ⟨q, rfl, hd6, hb6⟩
  have HC6 := Lib.hid hd6
  have HD6 := Lib.hid (HD5.out.below hb6)
  have HB6 := Lib.hid (HB5.out.trans (hb6.mono HB5.out.size))
  have hz56 := hb6.size
  clear hd6 hb6 HD5
  go_wp2_with fail
  have hb7 := below_alloc w6 (.cells #[.bool false, .bool true] 4)
  have hbs := heap_alloc_new w6 (.cells #[.bool false, .bool true] 4)
  have hz7 : (w6.alloc (.cells #[.bool false, .bool true] 4)).heap.size = w6.heap.size + 1 := by simp
  have HC7 := Lib.hid (HC6.out.below hb7)
  have HD7 := Lib.hid (HD6.out.below hb7)
  have HB7 := Lib.hid (HB6.out.trans (hb7.mono HB6.out.size))
  have HS7 : Hid (Src (w6.alloc (.cells #[.bool false, .bool true] 4)) (fun b => b = w6.heap.size) (some ⟨w6.heap.size, 0, none⟩) 2 ([false, true].map Value.bool)) := Lib.hid (src_bools (l := [false, true]) hbs)
  clear hb7 hbs HC6 HD6 HB6
  generalize w6.alloc (.cells #[.bool false, .bool true] 4) = w7 at *
  refine (crash_any HC7.out _ 2 _ [false, true] _ HS7.out (fun b hb => ⟨by omega, by omega⟩) (by omega)).mono ?_
  rintro e8 w8 ⟨rfl, hd8, hk8⟩
  have HC8 := Lib.hid hd8
  have HD8 := Lib.hid (HD7.out.keeps hk8 (fun b h1 h2 h3 => by omega))
  have HB8 := Lib.hid (HB7.out.trans (hk8.below (B := w.heap.size) HB7.out.size (fun k hk => by have := HB5.out.size; omega)))
  have hz8 := hk8.size
  clear HC7 HD7 HB7 HS7 hd8 hk8
  go_wp2_with fail
  refine (crash_any HD8.out none 0 0 [] (fun _ => False) (Src.nil_ _ _ _) (fun b hb => hb.elim) (by omega)).mono ?_
  rintro e9 w9 ⟨rfl, hd9, hk9⟩
  have HD9 := Lib.hid hd9
  have HC9 := Lib.hid (HC8.out.keeps hk9 (fun b h1 h2 h3 => by omega))
  have HB9 := Lib.hid (HB8.out.trans (hk9.below (B := w.heap.size) HB8.out.size (fun k hk => by omega)))
  have hz9 := hk9.size
  clear HC8 HD8 HB8 hd9 hk9
  go_wp2_with fail
  refine (image_any HC9.out).mono ?_
  rintro e10 w10 ⟨v10, rfl, ho10, hb10⟩
  obtain ⟨A10, c10, rfl, hs10⟩ := own_src ho10
  have HD10 := Lib.hid (HD9.out.below hb10)
  have HB10 := Lib.hid (HB9.out.trans (hb10.mono HB9.out.size))
  have HS10 := Lib.hid hs10
  have hz10 := hb10.size
  clear HC9 HD9 HB9 ho10 hb10 hs10
  go_wp2_with fail
  refine (image_any HD10.out).mono ?_
  rintro e11 w11 ⟨v11, rfl, ho11, hb11⟩
  obtain ⟨A11, c11, rfl, hs11⟩ := own_src ho11
  have HB11 := Lib.hid (HB10.out.trans (hb11.mono HB10.out.size))
  have hs10 := HS10.out.below' hb11 (fun b hb => hb.2)
  obtain ⟨b10, o10, rfl, -, -⟩ := hs10.lies (by omega)
  obtain ⟨b11, o11, rfl, -, -⟩ := hs11.lies (by omega)
  have hok : SOk 2 (fun _ => zs 256) := fun i _ => zs_len 256
  have k0 := img_cell (i := 0) (j := 0) hs10 (hok.crash exCok _) (by omega) (by omega) 0 (by rw [exC0]; rfl)
  have k1 := img_cell (i := 1) (j := 0) hs10 (hok.crash exCok _) (by omega) (by omega) 2 (by rw [exC1]; rfl)
  have k2 := img_cell (i := 0) (j := 0) hs11 (hok.crash exCok _) (by omega) (by omega) 0 (by rw [exD]; rfl)
  have k3 := img_cell (i := 1) (j := 0) hs11 (hok.crash exCok _) (by omega) (by omega) 0 (by rw [exD]; rfl)
  clear hs10 hs11 HS10 ho11 hb11
  have k0' : w11.cell? ⟨b10, o10, none⟩ = some (.int .u8 0) := k0
  have k1' : w11.cell? ⟨b10, o10 + 256, none⟩ = some (.int .u8 2) := k1
  have k2' : w11.cell? ⟨b11, o11, none⟩ = some (.int .u8 0) := k2
  have k3' : w11.cell? ⟨b11, o11 + 256, none⟩ = some (.int .u8 0) := k3
  clear k0 k1 k2 k3
  go_wp2
  go_ret
  exact ⟨rfl, HB11.out⟩
end Go.Proofs.Ytfhjcfoecmbhkaa
