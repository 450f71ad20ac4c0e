/- Some sums, computed; records compared by Same. No statement is proved here. -/
import Derived.Test.YtkglicidjdifkaaRM
namespace Go.Proofs.Ytkglicidjdifkaa
open Go.RowKit
set_option linter.unusedVariables false
set_option linter.unusedSimpArgs false
/-- f of x, where x is to be known first. -/
def strict {α : Type} (x : Nat) (f : Nat → α) : α := Nat.rec (motive := fun _ => α) (f 0) (fun n _ => f (n + 1)) x
theorem strict_eq {α : Type} (x : Nat) (f : Nat → α) : strict x f = f x := by cases x <;> rfl
/-- A schedule, the newest word first. -/
def fs : Nat → List Nat → List Nat
  | 0, l => l
  | k + 1, l => strict ((l.getD 15 0 + ss0 (l.getD 14 0) + l.getD 6 0 + ss1 (l.getD 1 0)) % 18446744073709551616) fun x => fs k (x :: l)
theorem schedN_first (l : List Nat) : ∀ k, schedN l (k + 1) = schedN (l ++ [wnext l]) k
  | 0 => rfl
  | k + 1 => by
    show schedN l (k + 1) ++ [wnext (schedN l (k + 1))] = schedN (l ++ [wnext l]) k ++ [wnext (schedN (l ++ [wnext l]) k)]
    rw [schedN_first l k]
theorem rev_getD (l : List Nat) (i : Nat) (h : i < l.length) : l.reverse.getD (l.length - 1 - i) 0 = l.getD i 0 := by
  rw [List.getD_eq_getElem?_getD, List.getD_eq_getElem?_getD, List.getElem?_reverse (by omega), show l.length - 1 - (l.length - 1 - i) = i from by omega]
theorem fs_eq : ∀ (k : Nat) (l : List Nat), 16 ≤ l.length → (fs k l).reverse = schedN l.reverse k
  | 0, l, _ => rfl
  | k + 1, l, h => by
    have e : wnext l.reverse = (l.getD 15 0 + ss0 (l.getD 14 0) + l.getD 6 0 + ss1 (l.getD 1 0)) % 18446744073709551616 := by
      unfold wnext
      rw [List.length_reverse, show l.length - 16 = l.length - 1 - 15 from by omega, show l.length - 15 = l.length - 1 - 14 from by omega, show l.length - 7 = l.length - 1 - 6 from by omega, show l.length - 2 = l.length - 1 - 1 from by omega, rev_getD l 15 (by omega), rev_getD l 14 (by omega), rev_getD l 6 (by omega), rev_getD l 1 (by omega)]
    unfold fs
    rw [strict_eq, fs_eq k _ (by simp; omega), schedN_first, e, List.reverse_cons]
/-- Rounds, one by one. -/
def fr8 : List Nat → List Nat → Nat → Nat → Nat → Nat → Nat → Nat → Nat → Nat → St
  | k :: ks, w :: ws, a, b, c, d, e, f, g, h =>
    strict ((h + tri e 14 18 41 + cho e f g + k + w) % 18446744073709551616) fun t1 =>
    strict ((t1 + (tri a 28 34 39 + maj a b c) % 18446744073709551616) % 18446744073709551616) fun na =>
    strict ((d + t1) % 18446744073709551616) fun ne => fr8 ks ws na a b c ne e f g
  | _, _, a, b, c, d, e, f, g, h => ⟨a, b, c, d, e, f, g, h⟩
theorem rounds_succ (ks ws : List Nat) (n : Nat) (s : St) : St.rounds ks ws (n + 1) s = (St.rounds ks ws n s).step (ks.getD n 0) (ws.getD n 0) := by rw [St.rounds]
theorem rounds_zero (ks ws : List Nat) (s : St) : St.rounds ks ws 0 s = s := by rw [St.rounds]
theorem rounds_first (k w : Nat) (ks ws : List Nat) (s : St) : ∀ n, St.rounds (k :: ks) (w :: ws) (n + 1) s = St.rounds ks ws n (s.step k w)
  | 0 => by rw [rounds_succ, rounds_zero, rounds_zero, List.getD_cons_zero, List.getD_cons_zero]
  | n + 1 => by rw [rounds_succ, rounds_first k w ks ws s n, List.getD_cons_succ, List.getD_cons_succ, ← rounds_succ]
theorem fr8_eq : ∀ (ks ws : List Nat) (s : St), ws.length = ks.length → fr8 ks ws s.a s.b s.c s.d s.e s.f s.g s.h = St.rounds ks ws ks.length s
  | [], [], s, _ => rfl
  | k :: ks, w :: ws, s, h => by
    unfold fr8
    rw [strict_eq, strict_eq, strict_eq, List.length_cons, rounds_first, ← fr8_eq ks ws (s.step k w) (by simpa using h)]
    rfl
/-- A piece, computed. -/
def fpiece (s : St) (w16 : List Nat) : St := s.plus (fr8 K80 (fs 64 w16.reverse).reverse s.a s.b s.c s.d s.e s.f s.g s.h)
theorem fpiece_eq (s : St) (blk : List UInt8) : piece s blk = fpiece s (sched0 blk 16) := by
  unfold piece fpiece
  have e : (fs 64 (sched0 blk 16).reverse).reverse = sched blk := by rw [fs_eq 64 _ (by rw [List.length_reverse, sched0_len]; omega), List.reverse_reverse]; rfl
  rw [e, fr8_eq K80 (sched blk) s (by rw [sched_len]; rfl)]
  rfl
theorem sumS_one (s : St) (l : List UInt8) (h : (padded l).length = 128) : sumS s l = fpiece s (sched0 (padded l) 16) := by
  unfold sumS whole
  rw [h, ← fpiece_eq]
  show piece s (((padded l).drop 0).take 128) = _
  rw [List.drop_zero, List.take_of_length_le (by omega)]

theorem c3_pad : (padded ([3, 0, 0, 0, 0, 0, 0, 0] : List UInt8)).length = 128 := by decide +kernel
theorem c3_w16 : sched0 (padded ([3, 0, 0, 0, 0, 0, 0, 0] : List UInt8)) 16 = [216172782113783808, 9223372036854775808, 0, 0, 0, 0, 0, 0, 0, 0, 0, 0, 0, 0, 0, 64] := by decide +kernel
theorem c3_go : (fpiece start256 [216172782113783808, 9223372036854775808, 0, 0, 0, 0, 0, 0, 0, 0, 0, 0, 0, 0, 0, 64]).words = [6921270748441566057, 1277890416642318662, 2222312783955577501, 9724737389497670390, 7946042164711152113, 10229377454036728405, 1128355652404788345, 15531726258732781587] := by decide +kernel
theorem c3_oct : (oct [6921270748441566057, 1277890416642318662, 2222312783955577501, 9724737389497670390, 7946042164711152113, 10229377454036728405, 1128355652404788345, 15531726258732781587]).take 32 = [96, 13, 75, 19, 67, 41, 91, 105, 17, 187, 250, 144, 57, 215, 97, 70, 30, 215, 61, 179, 227, 123, 74, 157, 134, 245, 53, 33, 194, 247, 218, 246] := by decide +kernel
theorem c3_eq : sum256 [3, 0, 0, 0, 0, 0, 0, 0] = [96, 13, 75, 19, 67, 41, 91, 105, 17, 187, 250, 144, 57, 215, 97, 70, 30, 215, 61, 179, 227, 123, 74, 157, 134, 245, 53, 33, 194, 247, 218, 246] := by
  unfold sum256
  rw [sumS_one _ _ c3_pad, c3_w16, c3_go, c3_oct]
theorem c4_pad : (padded ([4, 0, 0, 0, 0, 0, 0, 0] : List UInt8)).length = 128 := by decide +kernel
theorem c4_w16 : sched0 (padded ([4, 0, 0, 0, 0, 0, 0, 0] : List UInt8)) 16 = [288230376151711744, 9223372036854775808, 0, 0, 0, 0, 0, 0, 0, 0, 0, 0, 0, 0, 0, 64] := by decide +kernel
theorem c4_go : (fpiece start256 [288230376151711744, 9223372036854775808, 0, 0, 0, 0, 0, 0, 0, 0, 0, 0, 0, 0, 0, 64]).words = [3391148492235846122, 1936597548867381399, 5578055779837569558, 16456757458737432096, 6385080216745897637, 14918099094088033671, 15299375764418919453, 3814235047493328804] := by decide +kernel
theorem c4_oct : (oct [3391148492235846122, 1936597548867381399, 5578055779837569558, 16456757458737432096, 6385080216745897637, 14918099094088033671, 15299375764418919453, 3814235047493328804]).take 32 = [47, 15, 199, 150, 44, 81, 177, 234, 26, 224, 45, 53, 205, 33, 232, 151, 77, 105, 60, 45, 142, 136, 106, 22, 228, 98, 37, 183, 146, 206, 6, 32] := by decide +kernel
theorem c4_eq : sum256 [4, 0, 0, 0, 0, 0, 0, 0] = [47, 15, 199, 150, 44, 81, 177, 234, 26, 224, 45, 53, 205, 33, 232, 151, 77, 105, 60, 45, 142, 136, 106, 22, 228, 98, 37, 183, 146, 206, 6, 32] := by
  unfold sum256
  rw [sumS_one _ _ c4_pad, c4_w16, c4_go, c4_oct]
theorem n3_pad : (padded ([96, 13, 75, 19, 67, 41, 91, 105, 17, 187, 250, 144, 57, 215, 97, 70, 30, 215, 61, 179, 227, 123, 74, 157, 134, 245, 53, 33, 194, 247, 218, 246, 9, 2, 120, 121] : List UInt8)).length = 128 := by decide +kernel
theorem n3_w16 : sched0 (padded ([96, 13, 75, 19, 67, 41, 91, 105, 17, 187, 250, 144, 57, 215, 97, 70, 30, 215, 61, 179, 227, 123, 74, 157, 134, 245, 53, 33, 194, 247, 218, 246, 9, 2, 120, 121] : List UInt8)) 16 = [6921270748441566057, 1277890416642318662, 2222312783955577501, 9724737389497670390, 649213759528632320, 0, 0, 0, 0, 0, 0, 0, 0, 0, 0, 288] := by decide +kernel
theorem n3_go : (fpiece start256 [6921270748441566057, 1277890416642318662, 2222312783955577501, 9724737389497670390, 649213759528632320, 0, 0, 0, 0, 0, 0, 0, 0, 0, 0, 288]).words = [15677520962261682946, 8345733726890855711, 8780823296569887200, 14618051896974348916, 8444786923810620226, 8176413291197977926, 15367744457417497089, 9292954463662872622] := by decide +kernel
theorem n3_oct : (oct [15677520962261682946, 8345733726890855711, 8780823296569887200, 14618051896974348916, 8444786923810620226, 8176413291197977926, 15367744457417497089, 9292954463662872622]).take 32 = [217, 145, 190, 64, 138, 89, 11, 2, 115, 210, 0, 155, 101, 83, 141, 31, 121, 219, 192, 67, 243, 133, 201, 224, 202, 221, 192, 192, 35, 97, 146, 116] := by decide +kernel
theorem n3_eq : sum256 [96, 13, 75, 19, 67, 41, 91, 105, 17, 187, 250, 144, 57, 215, 97, 70, 30, 215, 61, 179, 227, 123, 74, 157, 134, 245, 53, 33, 194, 247, 218, 246, 9, 2, 120, 121] = [217, 145, 190, 64, 138, 89, 11, 2, 115, 210, 0, 155, 101, 83, 141, 31, 121, 219, 192, 67, 243, 133, 201, 224, 202, 221, 192, 192, 35, 97, 146, 116] := by
  unfold sum256
  rw [sumS_one _ _ n3_pad, n3_w16, n3_go, n3_oct]
theorem n4_pad : (padded ([47, 15, 199, 150, 44, 81, 177, 234, 26, 224, 45, 53, 205, 33, 232, 151, 77, 105, 60, 45, 142, 136, 106, 22, 228, 98, 37, 183, 146, 206, 6, 32, 9, 2, 120, 121] : List UInt8)).length = 128 := by decide +kernel
theorem n4_w16 : sched0 (padded ([47, 15, 199, 150, 44, 81, 177, 234, 26, 224, 45, 53, 205, 33, 232, 151, 77, 105, 60, 45, 142, 136, 106, 22, 228, 98, 37, 183, 146, 206, 6, 32, 9, 2, 120, 121] : List UInt8)) 16 = [3391148492235846122, 1936597548867381399, 5578055779837569558, 16456757458737432096, 649213759528632320, 0, 0, 0, 0, 0, 0, 0, 0, 0, 0, 288] := by decide +kernel
theorem n4_go : (fpiece start256 [3391148492235846122, 1936597548867381399, 5578055779837569558, 16456757458737432096, 649213759528632320, 0, 0, 0, 0, 0, 0, 0, 0, 0, 0, 288]).words = [3695602023670951523, 17093569969018616808, 275524158236184534, 3399269351412957160, 4251762438077698251, 5960911564312583135, 17993042797137298700, 10304277691929057569] := by decide +kernel
theorem n4_oct : (oct [3695602023670951523, 17093569969018616808, 275524158236184534, 3399269351412957160, 4251762438077698251, 5960911564312583135, 17993042797137298700, 10304277691929057569]).take 32 = [51, 73, 106, 117, 220, 31, 46, 99, 237, 56, 143, 82, 58, 163, 187, 232, 3, 210, 219, 195, 26, 180, 207, 214, 47, 44, 161, 119, 10, 215, 127, 232] := by decide +kernel
theorem n4_eq : sum256 [47, 15, 199, 150, 44, 81, 177, 234, 26, 224, 45, 53, 205, 33, 232, 151, 77, 105, 60, 45, 142, 136, 106, 22, 228, 98, 37, 183, 146, 206, 6, 32, 9, 2, 120, 121] = [51, 73, 106, 117, 220, 31, 46, 99, 237, 56, 143, 82, 58, 163, 187, 232, 3, 210, 219, 195, 26, 180, 207, 214, 47, 44, 161, 119, 10, 215, 127, 232] := by
  unfold sum256
  rw [sumS_one _ _ n4_pad, n4_w16, n4_go, n4_oct]

theorem le3 : le 3 8 = [3, 0, 0, 0, 0, 0, 0, 0] := by decide +kernel
theorem le4 : le 4 8 = [4, 0, 0, 0, 0, 0, 0, 0] := by decide +kernel
theorem hd92 : hdL 9 2 = [9, 2] := by decide +kernel
theorem nx_ne : ¬ (nextL (sum256 (le 3 8)) 9 [120, 121]).take 8 = (nextL (sum256 (le 4 8)) 9 [120, 121]).take 8 := by
  rw [le3, le4, c3_eq, c4_eq]
  unfold nextL
  rw [show ([120, 121] : List UInt8).length = 2 from rfl, hd92]
  simp only [List.cons_append, List.nil_append]
  rw [n3_eq, n4_eq]
  decide
set_option maxHeartbeats 1000000 in
theorem same_any (w : World) (S S2 : Nat → Prop) (k k2 : UInt8) (A A2 : Option Addr) (n c n2 c2 : Nat) (l l2 : List UInt8) (hs : Src w S A n (bcs l)) (hs2 : Src w S2 A2 n2 (bcs l2)) (hS : ∀ b, S b → b < w.heap.size) (hS2 : ∀ b, S2 b → b < w.heap.size) (hk : k = k2) :
    Calls Try.prog 15 #[vR k A n c, vR k2 A2 n2 c2] w fun e w' => e = .returned (.bool (l == l2)) ∧ Below w.heap.size w w' := by
  have HS := Lib.hid hs
  have HS2 := Lib.hid hs2
  have he := u8_eq k k2
  rw [show (k == k2) = true from by simp [hk]] at he
  clear hs hs2 hk
  unfold vR
  go_enter Try.func15, Try.ntmps15
  go_wp2_with (first | ((with_reducible show wpList _ _ _ (⟨some 2, .box 31 _, _, _, _, _⟩ :: _) _ _); refine wpList_box_row rfl 31 _ rfl _ rfl ?_; intro w1 hh1 hz1 hg1; have HR1 := Lib.hid (RAt.mk hh1); have HB1 := Lib.hid (below_of_grownBy hg1); have HZ1 := Lib.hid hz1; clear hg1 hh1 hz1) | ((with_reducible show wpList _ _ _ (⟨some 3, .box 31 _, _, _, _, _⟩ :: _) _ _); refine wpList_box_row rfl 31 _ rfl _ rfl ?_; intro w2 hh2 hz2 hg2; have c2a := (RAt.mk hh2).c0; have c2b := (RAt.mk hh2).c1; have HB2 := Lib.hid (below_of_grownBy hg2); have HR1b := HR1.out.below HB2.out (by have := HZ1.out; omega); have c1a := HR1b.c0; have c1b := HR1b.c1; have HB := Lib.hid (HB1.out.trans (HB2.out.mono HB1.out.size)); clear hg2 hh2 hz2 HR1b))
  refine (equal_any w2 S S2 A A2 n c n2 c2 l l2 (HS.out.below' HB.out hS) (HS2.out.below' HB.out hS2)).mono ?_
  rintro e3 w3 ⟨rfl, rfl⟩
  go_wp2
  go_ret
  exact ⟨rfl, HB.out⟩
end Go.Proofs.Ytkglicidjdifkaa
