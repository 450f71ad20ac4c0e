/- A disk and the document's own disk, side by side. No statement is proved here. -/
import Derived.Test.YtfhjcfoecmbhkaaLG
import Derived.Test.YtfhjcfoecmbhkaaRD
import Derived.Test.YtfhjcfoecmbhkaaRE
import Derived.Test.YtfhjcfoecmbhkaaDV
namespace Go.Proofs.Ytfhjcfoecmbhkaa
open Go.RowKit Go.Maps
set_option linter.unusedVariables false
set_option linter.unusedSimpArgs false

/-- A disk of lo to hi, and the document's from lo2 on. -/
structure Lr (w0 w : World) (lo hi p lo2 up r n : Nat) (s t : (Nat → List UInt8) × (Nat → Option (List UInt8))) : Prop where
  d : Dk w lo hi p n s.1 s.2
  f : Rf w lo2 up r n t.1 t.2
  b : Below w0.heap.size w0 w
  lo : w0.heap.size ≤ lo
  h2 : hi ≤ lo2
section
variable {w0 w w' : World} {lo hi p lo2 up r n : Nat} {s t s' t' : (Nat → List UInt8) × (Nat → Option (List UInt8))}
theorem Lr.below (h : Lr w0 w lo hi p lo2 up r n s t) (hb : Below w.heap.size w w') : Lr w0 w' lo hi p lo2 up r n s t :=
  ⟨h.d.below hb, h.f.below hb, h.b.trans (hb.mono h.b.size), h.lo, h.h2⟩
theorem Lr.dk (h : Lr w0 w lo hi p lo2 up r n s t) (hd : Dk w' lo hi p n s'.1 s'.2) (hk : Keeps (fun b => lo ≤ b ∧ b < hi) w w') : Lr w0 w' lo hi p lo2 up r n s' t :=
  ⟨hd, h.f.keeps hk (fun b h1 h2 => by have := h.h2; omega), h.b.trans (hk.below h.b.size (fun k hk => by have := h.lo; omega)), h.lo, h.h2⟩
theorem Lr.rf (h : Lr w0 w lo hi p lo2 up r n s t) (hf : Rf w' lo2 up r n t'.1 t'.2) (hk : Keeps (fun b => lo2 ≤ b ∧ b < up) w w') : Lr w0 w' lo hi p lo2 up r n s t' :=
  ⟨h.d.keeps hk (fun b h1 h2 h3 => by have := h.h2; omega), hf, h.b.trans (hk.below h.b.size (fun k hk => by have := h.lo; have := h.h2; have := h.d.lo_hi; omega)), h.lo, h.h2⟩
/-- What a read gives, at any place. -/
def rdz (n : Nat) (s : (Nat → List UInt8) × (Nat → Option (List UInt8))) (z : Int) : List UInt8 := if 0 ≤ z ∧ z < (n : Int) then rd s.1 s.2 z.toNat else []
def erz (n : Nat) (z : Int) : Int := if 0 ≤ z ∧ z < (n : Int) then 0 else 2
theorem rd_len {S : Nat → List UInt8} {C : Nat → Option (List UInt8)} (hS : SOk n S) (hC : COk n C) {i : Nat} (hi : i < n) : (rd S C i).length = 256 := by
  unfold rd
  cases hc : C i with
  | none => exact hS i hi
  | some s => exact hC i hi s hc
theorem Dk.oks {S : Nat → List UInt8} {C : Nat → Option (List UInt8)} (h : Dk w lo hi p n S C) : SOk n S ∧ COk n C := by
  obtain ⟨bs, bm, cap, cur, D, h⟩ := h
  exact ⟨h.sok, h.cok⟩
theorem Rf.oks {S : Nat → List UInt8} {C : Nat → Option (List UInt8)} (h : Rf w lo up r n S C) : SOk n S ∧ COk n C := by
  obtain ⟨bb, bc, cs, h, -⟩ := h
  exact ⟨h.sok, h.cok⟩
theorem read_z (h : Dk w lo hi p n s.1 s.2) (z : Int) : Calls Try.prog 11 #[.pointer (some ⟨p, 0, none⟩), .int .i64 z] w fun e w' => ∃ v, e = .returned (.tuple #[v, .int .i64 (erz n z)]) ∧ w'.ownsRow w.heap.size 5 1 v (rdz n s z).length (bcs (rdz n s z)) ∧ Below w.heap.size w w' := by
  unfold rdz erz
  by_cases hz : 0 ≤ z ∧ z < (n : Int)
  · rw [if_pos hz, if_pos hz]
    obtain ⟨i, rfl⟩ := Int.eq_ofNat_of_zero_le hz.1
    have hi : i < n := by omega
    refine (read_in h i hi).mono ?_
    rintro e w' ⟨v, rfl, ho, hb⟩
    rw [Int.toNat_natCast, rd_len h.oks.1 h.oks.2 hi]
    exact ⟨v, rfl, ho, hb⟩
  · rw [if_neg hz, if_neg hz]
    refine (read_out h z (by omega)).mono ?_
    rintro e w' ⟨rfl, rfl⟩
    exact ⟨_, rfl, ⟨rfl, .inl ⟨rfl, rfl⟩⟩, Below.refl _ _⟩
theorem rread_z (h : Rf w lo up r n t.1 t.2) (z : Int) : Calls Try.prog 21 #[.pointer (some ⟨r, 0, none⟩), .int .i64 z] w fun e w' => ∃ v, e = .returned (.tuple #[v, .int .i64 (erz n z)]) ∧ w'.ownsRow w.heap.size 5 1 v (rdz n t z).length (bcs (rdz n t z)) ∧ Below w.heap.size w w' := by
  unfold rdz erz
  by_cases hz : 0 ≤ z ∧ z < (n : Int)
  · rw [if_pos hz, if_pos hz]
    obtain ⟨i, rfl⟩ := Int.eq_ofNat_of_zero_le hz.1
    have hi : i < n := by omega
    refine (rread_in h i hi).mono ?_
    rintro e w' ⟨v, rfl, ho, hb⟩
    rw [Int.toNat_natCast, rd_len h.oks.1 h.oks.2 hi]
    exact ⟨v, rfl, ho, hb⟩
  · rw [if_neg hz, if_neg hz]
    refine (rread_out h z (by omega)).mono ?_
    rintro e w' ⟨rfl, rfl⟩
    exact ⟨_, rfl, ⟨rfl, .inl ⟨rfl, rfl⟩⟩, Below.refl _ _⟩
theorem rwrite_act {S : Nat → List UInt8} {C : Nat → Option (List UInt8)} (h : Rf w lo up r n S C) (v : ActV) (u : Value) (B : Nat) (ho : w.ownsRow B 5 1 u (actB v.b v.long).length (bcs (actB v.b v.long))) :
    Calls Try.prog 26 #[.pointer (some ⟨r, 0, none⟩), .int .i64 v.at_, u] w fun e w' => e = .returned (.int .i64 (if okW n v = true then 0 else 2)) ∧ Rf w' lo up r n S (if okW n v = true then upd C v.at_.toNat (some (actB v.b false)) else C) ∧ Keeps (fun b => lo ≤ b ∧ b < up) w w' := by
  obtain ⟨A, c, rfl, hs⟩ := own_src ho
  by_cases hz : 0 ≤ v.at_ ∧ v.at_ < (n : Int)
  · obtain ⟨i, hi'⟩ := Int.eq_ofNat_of_zero_le hz.1
    rw [hi'] at hz
    cases hl : v.long
    · have hok : okW n v = true := by unfold okW; rw [hl, hi']; simp; omega
      rw [hl] at hs
      rw [if_pos hok, if_pos hok, hi']
      have hlen : (actB v.b false).length = 256 := by rw [actB_len]; rfl
      rw [hlen] at hs
      rw [hlen]
      exact rwrite_in h i (by omega) _ A c _ hs (fun b hb => hb.2)
    · have hok : ¬ okW n v = true := by unfold okW; rw [hl]; simp
      rw [if_neg hok, if_neg hok, hi']
      have hlen : (actB v.b true).length = 257 := by rw [actB_len]; rfl
      rw [hlen]
      refine (rwrite_len h i (by omega) A 257 c (by omega) (by omega)).mono ?_
      rintro e w' ⟨rfl, rfl⟩
      exact ⟨rfl, h, Keeps.refl _ _⟩
  · have hok : ¬ okW n v = true := by unfold okW; simp; intro h1 h2; exact absurd ⟨h1, h2⟩ hz
    rw [if_neg hok, if_neg hok]
    refine (rwrite_out h v.at_ (by omega) A _ c).mono ?_
    rintro e w' ⟨rfl, rfl⟩
    exact ⟨rfl, h, Keeps.refl _ _⟩
end
theorem rnew_at (w : World) (z : Int) (n : Nat) (hz : z = (n : Int)) (n1 : 1 ≤ n) (n2 : n ≤ 16384) :
    Calls Try.prog 20 #[.int .i64 z] w fun e w' => ∃ r, e = .returned (.tuple #[.pointer (some ⟨r, 0, none⟩), .int .i64 0]) ∧ Rf w' w.heap.size w'.heap.size r n (fun _ => zs 256) (fun _ => none) ∧ Below w.heap.size w w' := by
  subst hz
  exact rnew_any w n n1 n2
theorem zero46 (w : World) : (zeroValue 46).run Try.prog w = .ok (.agg #[.int .i64 0, .int .i64 0, .int .u8 0, .bool false, .slice none 0 0]) w := by kernel_rfl
section
variable {P : Program} {ops : Array Oper} {rest : List Oper} {o : Oper} {a : Act} {w : World} {Q : Exit → Act → World → Prop}
theorem wpList_al46 (hgd : Region.wanted o (yielded ops a.tmps) = true) (ho : o.op = .alloc 46)
    (h : ∀ w', w'.heap[w.heap.size]? = some (.cells #[.int .i64 0, .int .i64 0, .int .u8 0, .bool false, .slice none 0 0] 46 (0, 0)) → w'.heap.size = w.heap.size + 1 → w.grownBy w' none → wpList Try.prog ops Q rest (a.put o.dst (.pointer (some ⟨w.heap.size, 0, none⟩))) w') :
    wpList Try.prog ops Q (o :: rest) a w :=
  wpList_alloc_row hgd 46 ho (.agg #[.int .i64 0, .int .i64 0, .int .u8 0, .bool false, .slice none 0 0]) zero46 (fun w' h1 h2 h3 => h w' h1 h2 h3)
theorem cells46_one (v : ActV) : ∀ u ∈ v.cells, u.oneCell' = true := by
  intro u hu
  simp [ActV.cells] at hu
  rcases hu with rfl | rfl | rfl | rfl | rfl <;> rfl
end
end Go.Proofs.Ytfhjcfoecmbhkaa
