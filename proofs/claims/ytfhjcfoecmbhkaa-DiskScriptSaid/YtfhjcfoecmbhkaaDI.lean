/- The cached sectors that are kept. No statement is proved here. -/
import Derived.Test.YtfhjcfoecmbhkaaDH
namespace Go.Proofs.Ytfhjcfoecmbhkaa
open Go.RowKit Go.Maps
set_option linter.unusedVariables false
set_option linter.unusedSimpArgs false
/-- Inside a settling: the first k cached sectors are through. -/
def Sx (w0 wr : World) (lo hi p n : Nat) (S : Nat → List UInt8) (C : Nat → Option (List UInt8)) (keep : Nat → Bool) (bs bm cap : Nat) (D : DataW Value) (k : Nat) : Prop :=
  ∃ cur, DkB wr lo hi p n (cut C keep k S) C bs bm cap cur D ∧ Keeps (fun b => lo ≤ b ∧ b < hi) w0 wr
theorem own_src {w : World} {B : Nat} {e : TypeId} {v : Value} {n : Nat} {xs : List Value} (h : w.ownsRow B e 1 v n xs) : ∃ A c, v = .slice A n c ∧ Src w (fun g => B ≤ g ∧ g < w.heap.size) A n xs := by
  rcases h.2 with ⟨rfl, rfl⟩ | ⟨g, cap, cur, rfl, hb, hg, hnc, hcm, hcs, ht⟩
  · obtain rfl : xs = [] := List.eq_nil_of_length_eq_zero (by have := h.1; omega)
    exact ⟨none, 0, rfl, Src.nil_ _ _ _⟩
  · exact ⟨_, cap, rfl, Src.own h fun g a b => ⟨a, b⟩⟩
section
variable {w : World} {lo hi p n : Nat} {S : Nat → List UInt8} {C : Nat → Option (List UInt8)}
set_option maxRecDepth 100000 in
set_option maxHeartbeats 2000000 in
theorem settle_any (h : Dk w lo hi p n S C) (keep : Nat → Bool) (lb : Array Value) (f : Value) (hf : f = .func (.func 41) #[] #[])
    (hcall : ∀ (W : World) (k : Nat), k ≤ 16384 → Keeps (fun b => lo ≤ b ∧ b < hi) w W → Calls Try.prog 41 #[.int .i64 (k : Int)] W fun e w' => e = .returned (.bool (keep k)) ∧ w' = W) :
    Calls Try.prog 40 #[.pointer (some ⟨p, 0, none⟩), f] w fun e w' => e = .returned (.tuple #[]) ∧ Dk w' lo hi p n (crash C keep S) (fun _ => none) ∧ Keeps (fun b => lo ≤ b ∧ b < hi) w w' := by
  subst hf
  have hV := cached_any h
  obtain ⟨bs, bm, cap, cur, D, h⟩ := h
  have HH := Lib.hid h
  have HN := Lib.hid h.n2
  have HCK := Lib.hid (fun k a => cks_get (n := n) (k := k) (a := a) (C := C))
  have hcl := cks_len n C
  have HCO := Lib.hid h.cok
  have HE := Lib.hid (fun k a s (hk : (cks n C)[k]? = some a) (hs : C a = some s) => cut_succ (keep := keep) (S := S) hk hs)
  have HF := Lib.hid (cut_end (C := C) (keep := keep) (n := n) (S := S))
  have HL := Lib.hid hcall
  clear h hcall
  generalize hks : cks n C = ks at *
  clear hks
  go_enter Try.func40, Try.ntmps40
  go_wp2_with (go_at_call 13; refine hV.mono ?_; rintro e1 w1 ⟨v1, rfl, ho1, hb1⟩; have HO1 := Lib.hid ho1; have HB1 := Lib.hid hb1; obtain ⟨A1, c1', rfl, hs1⟩ := own_src ho1)
  have HS1 : Hid (Src w1 (fun g => w.heap.size ≤ g ∧ g < w1.heap.size) A1 ks.length (ics ks)) := Lib.hid hs1
  have HX1 : Hid (Sx w w1 lo hi p n S C keep bs bm cap D 0) := Lib.hid ⟨cur, (HH.out.keeps (Keeps.of_below (G := fun _ => False) HB1.out) (fun _ _ _ => id)).congr (fun i _ => by rw [cut_zero]), Keeps.of_below HB1.out⟩
  have hz1 := HB1.out.size
  have hz0 := HH.out.hle
  clear hs1 ho1 hb1 HO1 HB1 HH hV
  go_loopw [9] (fun v wr => ∃ k : Nat, k ≤ ks.length ∧ v = .int .i64 k ∧ Sx w wr lo hi p n S C keep bs bm cap D k ∧ Src wr (fun g => w.heap.size ≤ g ∧ g < w1.heap.size) A1 ks.length (ics ks) ∧ w1.heap.size ≤ wr.heap.size) (fun v _ => ks.length - (valOf v).toNat)
  case atStart => exact ⟨0, by omega, rfl, HX1.out, HS1.out, Nat.le_refl _⟩
  case round =>
    obtain ⟨k, hk, rfl, hx, hs, hzr⟩ := hrel
    have HS := Lib.hid hs
    clear HX1 HS1 hs
    obtain ⟨cu, hd, hkp⟩ := hx
    have HD := Lib.hid hd
    have HKP := Lib.hid hkp
    have c0 := hd.c0
    have c1 := hd.c1
    clear hd hkp
    by_cases hlt : k < ks.length
    · obtain ⟨b, o, rfl, hbo, hcell⟩ := HS.out.lies (by omega)
      have hka : ks[k]? = some ks[k] := List.getElem?_eq_getElem hlt
      generalize ks[k] = a at hka
      obtain ⟨han, hsome, hrk⟩ := HCK.out k a hka
      obtain ⟨s, hs⟩ := Option.isSome_iff_exists.1 hsome
      have hsl := HCO.out a han s hs
      have hck : wr.cell? ⟨b, o + k, none⟩ = some (.int .i64 (a : Int)) := by
        rw [hcell k hlt]
        unfold ics
        rw [List.getElem?_map, hka]
        rfl
      have HNX := Lib.hid (HE.out k a s hka hs)
      have HLK := Lib.hid (HL.out wr k (by have := HN.out; omega) HKP.out)
      have hkn : (k : Int) < (ks.length : Int) := by omega
      have hkb : (k : Int) ≤ 16384 := by have := HN.out; omega
      have hca : (a : Int) < (n : Int) := by omega
      have HSS := Lib.hid hs
      have HSL := Lib.hid hsl
      have HAN := Lib.hid han
      clear hcell hka hsome hrk hs hsl
      have HB4 : Hid (∀ w', wr.grownBy w' (some bs) → Src w' (fun g => w.heap.size ≤ g ∧ g < w1.heap.size) (some ⟨b, o, none⟩) ks.length (ics ks)) := Lib.hid (fun w' hg => HS.out.grown hg (fun g hg => ⟨by omega, by have := HD.out.s1; simp; omega⟩) (fun _ h => h))
      cases hkk : keep k
      · rw [hkk] at HLK HNX
        go_wp2_with (go_at_call 41; go_must (refine HLK.out.mono ?_; rintro e3 w3 ⟨rfl, rfl⟩))
        refine ⟨⟨k + 1, by omega, by go_num, ⟨cu, HD.out.congr (T := cut C keep (k + 1) S) (fun i hi => by rw [HNX.out i hi]; rfl), HKP.out⟩, HS.out, hzr⟩, by simp [valOf]; omega⟩
      · rw [hkk] at HLK HNX
        have HBS : Hid (bs < wr.heap.size) := Lib.hid (by have := HD.out.s1; omega)
        go_wp2_with (go_at_call 41; go_must (refine HLK.out.mono ?_; rintro e3 w3 ⟨rfl, rfl⟩))
        have c0' : ({ heap := w3.heap, tape := w3.tape, drawn := w3.drawn + 1, os := w3.os, output := w3.output } : World).cell? ⟨p, 0, none⟩ = some (.slice (some ⟨bs, 0, none⟩) n cap) := c0
        have c1' : ({ heap := w3.heap, tape := w3.tape, drawn := w3.drawn + 1, os := w3.os, output := w3.output } : World).cell? ⟨p, 1, none⟩ = some (.map (some bm)) := c1
        refine wp_region_still_tail 12 (by kernel_rfl) (by kernel_rfl) ?_
        simp only [List.take_succ_cons, List.take_zero, List.drop_succ_cons, List.drop_zero]
        iterate 10 still_step
        refine still_value rfl (exec_look (.tmp 25) (.tmp 26) rfl rfl (HD.out.keeps (Keeps.drew (fun _ => False) w3) (fun _ _ _ => id)).hm HD.out.ca rfl HAN.out HN.out s HSS.out) ?_
        still_step
        refine wpStill_nil ?_
        have HD1 : Hid (DkB ({ heap := w3.heap, tape := w3.tape, drawn := w3.drawn + 1, os := w3.os, output := w3.output } : World) lo hi p n (cut C keep k S) C bs bm cap cu D) := Lib.hid (HD.out.keeps (Keeps.drew (fun _ => False) w3) (fun _ _ _ => id))
        have HK1 : Hid (w3.grownBy ({ heap := w3.heap, tape := w3.tape, drawn := w3.drawn + 1, os := w3.os, output := w3.output } : World) none) := Lib.hid ⟨rfl, rfl, rfl, Nat.le_refl _, fun _ _ _ => rfl⟩
        generalize ({ heap := w3.heap, tape := w3.tape, drawn := w3.drawn + 1, os := w3.os, output := w3.output } : World) = wd at *
        clear c0 c1 c0' c1' HLK
        refine wpList_store_row rfl 63 _ _ rfl bs (a * 256) rfl (bcs s).toArray rfl 63 cu HD1.out.hs (by rw [size63]; simp [bcs_len, HSL.out]) (by have h := HD1.out; have := h.hcs; have := h.hnc; simp only [List.size_toArray, bcs_len, HSL.out]; omega) (by simpa using bcs_one s) ?_
        intro w4 hh4 hg4 hz4
        have hg5 : w3.grownBy w4 (some bs) := ⟨hg4.os.trans HK1.out.os, hg4.tape.trans HK1.out.tape, hg4.output.trans HK1.out.output, Nat.le_trans HK1.out.size hg4.size, fun i hi hne => (hg4.block i (Nat.lt_of_lt_of_le hi HK1.out.size) hne).trans (HK1.out.block i hi (by simp))⟩
        have HD4 := Lib.hid ((HD1.out.put HAN.out HSL.out hh4 hg4).congr (T := cut C keep (k + 1) S) (fun i hi => by rw [HNX.out i hi]; rfl))
        have HK4 := Lib.hid (HKP.out.trans (Keeps.of_grown (G := fun b => lo ≤ b ∧ b < hi) hg5 (fun r hr => by cases hr; exact HD1.out.s1)))
        have HS4 := Lib.hid (HB4.out w4 hg5)
        have hz5 := hg5.size
        clear hh4 hg4 hg5 HD1 HK1 HD HKP HS HB4 HBS hck
        go_wp2
        refine ⟨⟨k + 1, by omega, by go_num, ⟨_, HD4.out, HK4.out⟩, HS4.out, by omega⟩, by simp [valOf]; omega⟩
    · obtain rfl : k = ks.length := by omega
      have HD5 := Lib.hid (HD.out.congr (T := crash C keep S) (fun i hi => (HF.out i hi).symm))
      clear HS HD
      go_wp2_with ((with_reducible show wpList _ _ _ (⟨none, .call _, _, _, _, _⟩ :: _) _ _); go_must (refine wpList_clearM rfl _ rfl rfl HD5.out.hm ?_; intro v6 w6 hm6 hg6))
      go_end0
      exact ⟨rfl, ⟨bs, bm, cap, cu, _, HD5.out.wipe hm6 hg6⟩, HKP.out.trans (Keeps.of_grown (G := fun b => lo ≤ b ∧ b < hi) hg6 (fun r hr => by cases hr; exact HD5.out.m1))⟩
end
end Go.Proofs.Ytfhjcfoecmbhkaa
