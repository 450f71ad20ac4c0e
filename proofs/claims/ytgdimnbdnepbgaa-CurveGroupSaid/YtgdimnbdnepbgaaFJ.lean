/- The field's writer of eight bytes. No statement is proved here. -/
import Derived.Test.YtgdimnbdnepbgaaFI
namespace Go.Proofs.Ytgdimnbdnepbgaa
open Go.RowKit
set_option linter.unusedVariables false
set_option maxRecDepth 40000

theorem bcs_set (l : List UInt8) (j : Nat) (x : UInt8) : (bcs l).toArray.setIfInBounds j (.int .u8 (x.toNat : Int)) = (bcs (l.set j x)).toArray := by
  apply Array.toList_inj.1
  rw [Array.toList_setIfInBounds]
  simp [bcs, bc, List.map_set]
theorem byte_at (n m k : Nat) (hm : m = 2 ^ k) : ((n : Int) / (m : Int)) % 256 = ((UInt8.ofNat (n / m)).toNat : Int) := by
  rw [UInt8.toNat_ofNat']
  simp
theorem byte_at0 (n : Nat) : (n : Int) % 256 = ((UInt8.ofNat n).toNat : Int) := by
  rw [UInt8.toNat_ofNat']
  simp
/-- l with the bytes of n from o on. -/
def put8 (l : List UInt8) (o n : Nat) : List UInt8 :=
  (((((((l.set o (UInt8.ofNat n)).set (o + 1) (UInt8.ofNat (n / 256))).set (o + 2) (UInt8.ofNat (n / 65536))).set (o + 3) (UInt8.ofNat (n / 16777216))).set (o + 4) (UInt8.ofNat (n / 4294967296))).set (o + 5) (UInt8.ofNat (n / 1099511627776))).set (o + 6) (UInt8.ofNat (n / 281474976710656))).set (o + 7) (UInt8.ofNat (n / 72057594037927936))
theorem size5 : (Try.prog.info? 5).map (·.size) = some 1 := by kernel_rfl

/-- Bytes l lie in row g, and nothing else has changed. -/
structure Pb (g : Nat) (w : World) (m : Nat) (l : List UInt8) (w' : World) : Prop where
  len : l.length = m
  row : ∃ t, w'.heap[g]? = some (.cells (bcs l).toArray t (0, 0))
  keeps : Keeps (· = g) w w'
theorem Pb.set {g m : Nat} {w : World} {l : List UInt8} {w' w'' : World} {t : TypeId} (h : Pb g w m l w') (hg : w'.grownBy w'' (some g)) (i : Nat) (x : UInt8) (hh : w''.heap[g]? = some (.cells (bcs (l.set i x)).toArray t (0, 0))) : Pb g w m (l.set i x) w'' :=
  ⟨by rw [List.length_set]; exact h.len, ⟨t, hh⟩, h.keeps.trans (Keeps.of_grown hg (fun r hr => by injection hr with hr; exact hr.symm))⟩
theorem Pb.cell {g m : Nat} {w : World} {l : List UInt8} {w' : World} (h : Pb g w m l w') (i : Nat) (hi : i < m) : w'.cell? ⟨g, i, none⟩ = some (.int .u8 (bt l i)) := by
  obtain ⟨t, ht⟩ := h.row
  have hl := h.len
  refine row_cells ht i _ ?_
  rw [List.toList_toArray, bcs_get]
  unfold bt
  rw [List.getD_eq_getElem?_getD, List.getElem?_eq_getElem (by omega)]
  rfl

set_option maxHeartbeats 1600000 in
theorem setQuad_core (g o c m n : Nat) (b0 b1 b2 b3 b4 b5 b6 b7 : UInt8) (l : List UInt8) (w : World) (hm : o + 8 ≤ m) (S0 : Hid (Pb g w m l w))
    (V0 : Hid ((n : Int) % 256 = (b0.toNat : Int)))
    (V1 : Hid (((n : Int) / 256) % 256 = (b1.toNat : Int)))
    (V2 : Hid (((n : Int) / 65536) % 256 = (b2.toNat : Int)))
    (V3 : Hid (((n : Int) / 16777216) % 256 = (b3.toNat : Int)))
    (V4 : Hid (((n : Int) / 4294967296) % 256 = (b4.toNat : Int)))
    (V5 : Hid (((n : Int) / 1099511627776) % 256 = (b5.toNat : Int)))
    (V6 : Hid (((n : Int) / 281474976710656) % 256 = (b6.toNat : Int)))
    (V7 : Hid (((n : Int) / 72057594037927936) % 256 = (b7.toNat : Int)))
    : Calls Try.prog 69 #[.slice (some ⟨g, o, none⟩) 8 c, .int .u64 n] w fun e w' => e = .returned (.tuple #[]) ∧ Pb g w m ((((((((l.set o b0).set (o + 1) b1).set (o + 2) b2).set (o + 3) b3).set (o + 4) b4).set (o + 5) b5).set (o + 6) b6).set (o + 7) b7) w' := by
  have hc7 := S0.out.cell (o + 7) (by omega)
  go_enter Try.func69, Try.ntmps69
  have HM := Lib.hid hm
  clear hm
  go_wp2_with (first | ((with_reducible show wpList _ _ _ (⟨none, .store 5 (.tmp 10) (.tmp 9), _, _, _, _⟩ :: _) _ _); go_must (obtain ⟨t0, ht0⟩ := S0.out.row; have hl0 := S0.out.len; have hm := HM.out; refine wpList_store_one rfl 5 (.tmp 10) (.tmp 9) rfl g o rfl .u8 _ rfl t0 _ ht0 size5 (by simp only [List.size_toArray, bcs_len]; omega) ?_; intro y0 hh hg hz; rw [V0.out, bcs_set] at hh; have S1 := Lib.hid (S0.out.set hg o b0 hh); clear hh hg hz ht0 hl0 hm S0; clear hc7)) | ((with_reducible show wpList _ _ _ (⟨none, .store 5 (.tmp 15) (.tmp 14), _, _, _, _⟩ :: _) _ _); go_must (obtain ⟨t1, ht1⟩ := S1.out.row; have hl1 := S1.out.len; have hm := HM.out; refine wpList_store_one rfl 5 (.tmp 15) (.tmp 14) rfl g (o + 1) rfl .u8 _ rfl t1 _ ht1 size5 (by simp only [List.size_toArray, bcs_len]; omega) ?_; intro y1 hh hg hz; rw [V1.out, bcs_set] at hh; have S2 := Lib.hid (S1.out.set hg (o + 1) b1 hh); clear hh hg hz ht1 hl1 hm S1)) | ((with_reducible show wpList _ _ _ (⟨none, .store 5 (.tmp 20) (.tmp 19), _, _, _, _⟩ :: _) _ _); go_must (obtain ⟨t2, ht2⟩ := S2.out.row; have hl2 := S2.out.len; have hm := HM.out; refine wpList_store_one rfl 5 (.tmp 20) (.tmp 19) rfl g (o + 2) rfl .u8 _ rfl t2 _ ht2 size5 (by simp only [List.size_toArray, bcs_len]; omega) ?_; intro y2 hh hg hz; rw [V2.out, bcs_set] at hh; have S3 := Lib.hid (S2.out.set hg (o + 2) b2 hh); clear hh hg hz ht2 hl2 hm S2)) | ((with_reducible show wpList _ _ _ (⟨none, .store 5 (.tmp 25) (.tmp 24), _, _, _, _⟩ :: _) _ _); go_must (obtain ⟨t3, ht3⟩ := S3.out.row; have hl3 := S3.out.len; have hm := HM.out; refine wpList_store_one rfl 5 (.tmp 25) (.tmp 24) rfl g (o + 3) rfl .u8 _ rfl t3 _ ht3 size5 (by simp only [List.size_toArray, bcs_len]; omega) ?_; intro y3 hh hg hz; rw [V3.out, bcs_set] at hh; have S4 := Lib.hid (S3.out.set hg (o + 3) b3 hh); clear hh hg hz ht3 hl3 hm S3)) | ((with_reducible show wpList _ _ _ (⟨none, .store 5 (.tmp 30) (.tmp 29), _, _, _, _⟩ :: _) _ _); go_must (obtain ⟨t4, ht4⟩ := S4.out.row; have hl4 := S4.out.len; have hm := HM.out; refine wpList_store_one rfl 5 (.tmp 30) (.tmp 29) rfl g (o + 4) rfl .u8 _ rfl t4 _ ht4 size5 (by simp only [List.size_toArray, bcs_len]; omega) ?_; intro y4 hh hg hz; rw [V4.out, bcs_set] at hh; have S5 := Lib.hid (S4.out.set hg (o + 4) b4 hh); clear hh hg hz ht4 hl4 hm S4)) | ((with_reducible show wpList _ _ _ (⟨none, .store 5 (.tmp 35) (.tmp 34), _, _, _, _⟩ :: _) _ _); go_must (obtain ⟨t5, ht5⟩ := S5.out.row; have hl5 := S5.out.len; have hm := HM.out; refine wpList_store_one rfl 5 (.tmp 35) (.tmp 34) rfl g (o + 5) rfl .u8 _ rfl t5 _ ht5 size5 (by simp only [List.size_toArray, bcs_len]; omega) ?_; intro y5 hh hg hz; rw [V5.out, bcs_set] at hh; have S6 := Lib.hid (S5.out.set hg (o + 5) b5 hh); clear hh hg hz ht5 hl5 hm S5)) | ((with_reducible show wpList _ _ _ (⟨none, .store 5 (.tmp 40) (.tmp 39), _, _, _, _⟩ :: _) _ _); go_must (obtain ⟨t6, ht6⟩ := S6.out.row; have hl6 := S6.out.len; have hm := HM.out; refine wpList_store_one rfl 5 (.tmp 40) (.tmp 39) rfl g (o + 6) rfl .u8 _ rfl t6 _ ht6 size5 (by simp only [List.size_toArray, bcs_len]; omega) ?_; intro y6 hh hg hz; rw [V6.out, bcs_set] at hh; have S7 := Lib.hid (S6.out.set hg (o + 6) b6 hh); clear hh hg hz ht6 hl6 hm S6)) | ((with_reducible show wpList _ _ _ (⟨none, .store 5 (.tmp 45) (.tmp 44), _, _, _, _⟩ :: _) _ _); go_must (obtain ⟨t7, ht7⟩ := S7.out.row; have hl7 := S7.out.len; have hm := HM.out; refine wpList_store_one rfl 5 (.tmp 45) (.tmp 44) rfl g (o + 7) rfl .u8 _ rfl t7 _ ht7 size5 (by simp only [List.size_toArray, bcs_len]; omega) ?_; intro y7 hh hg hz; rw [V7.out, bcs_set] at hh; have S8 := Lib.hid (S7.out.set hg (o + 7) b7 hh); clear hh hg hz ht7 hl7 hm S7)))
  refine bodyPost_end (results_none rfl _ _ _) rfl ?_
  exact ⟨rfl, S8.out⟩

theorem setQuad_any (g o c m n : Nat) (l : List UInt8) (w : World) (hm : o + 8 ≤ m) (h : Pb g w m l w) :
    Calls Try.prog 69 #[.slice (some ⟨g, o, none⟩) 8 c, .int .u64 n] w fun e w' => e = .returned (.tuple #[]) ∧ Pb g w m (put8 l o n) w' :=
  setQuad_core g o c m n _ _ _ _ _ _ _ _ l w hm (Lib.hid h) (Lib.hid (byte_at0 n)) (Lib.hid (byte_at n 256 8 rfl)) (Lib.hid (byte_at n 65536 16 rfl)) (Lib.hid (byte_at n 16777216 24 rfl)) (Lib.hid (byte_at n 4294967296 32 rfl)) (Lib.hid (byte_at n 1099511627776 40 rfl)) (Lib.hid (byte_at n 281474976710656 48 rfl)) (Lib.hid (byte_at n 72057594037927936 56 rfl))
end Go.Proofs.Ytgdimnbdnepbgaa
