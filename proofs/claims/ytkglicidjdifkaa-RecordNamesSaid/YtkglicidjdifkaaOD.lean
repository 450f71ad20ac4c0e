/- Reading a number. No statement is proved here. -/
import Derived.Test.YtkglicidjdifkaaOC

namespace Go.Proofs.Ytkglicidjdifkaa
open Go.RowKit

/-- Reading a number, on a reader's state: position and error. -/
def numS (l : List UInt8) (k e : Nat) : Nat × Nat × Nat := if e = 0 then ((decN (l.drop k)).1, k + (decN (l.drop k)).2.1, (decN (l.drop k)).2.2) else (0, k, e)
def NumGives (w : World) (g : Nat) (A : Option Addr) (n c k e : Nat) (l : List UInt8) (e' : Ending) (w' : World) : Prop :=
  w.grownBy w' (some g) ∧ e' = .returned (.int .u64 ((numS l k e).1 : Int)) ∧ RdB w' g A n c (numS l k e).2.1 (numS l k e).2.2

theorem mask_u8' : ∀ b : Fin 256, b.val &&& (255 - (256 - 2 ^ (9 - (9 - Lib.bitLen (255 - b.val))))) = b.val % 2 ^ (8 - (9 - Lib.bitLen (255 - b.val))) := by decide +kernel
theorem mask_u8 (b : UInt8) : bits .andNot .u8 (b.toNat : Int) ((256 - 2 ^ (9 - lead b) : Nat) : Int) = ((b.toNat % 2 ^ (8 - lead b) : Nat) : Int) := by
  have hb : b.toNat < 256 := b.toNat_lt
  rw [u8_andNot_nat _ _ hb (by have := Nat.two_pow_pos (9 - lead b); omega)]
  have := mask_u8' ⟨b.toNat, hb⟩
  unfold lead
  simp only at this
  rw [this]
theorem shl_or (x : Nat) (c : UInt8) (hx : x < 2 ^ 56) : bits .or .u64 ((x : Int) * 256) (c.toNat : Int) = ((x * 256 + c.toNat : Nat) : Int) := by
  have hc : c.toNat < 256 := c.toNat_lt
  have h := u64_or_nat (x * 256) c.toNat (by omega) (by omega)
  rw [Int.natCast_mul] at h
  have e : ((256 : Nat) : Int) = 256 := rfl
  rw [e] at h
  rw [h, nat_join 8 (x * 256) c.toNat (by omega) (by omega)]

theorem cat_bound (b : UInt8) (t : List UInt8) (j : Nat) (hj : j + 1 < lead b) (ht : t.length = j) : cat (b.toNat % 2 ^ (8 - lead b)) t < 2 ^ 56 := by
  have p9 := lead_le b
  rw [cat_split, ht]
  have h1 := cat_lt t
  rw [ht] at h1
  have ha : b.toNat % 2 ^ (8 - lead b) < 2 ^ (8 - lead b) := Nat.mod_lt _ (Nat.two_pow_pos _)
  have h2 : (b.toNat % 2 ^ (8 - lead b) + 1) * 256 ^ j ≤ 2 ^ (8 - lead b) * 256 ^ j := Nat.mul_le_mul_right _ (by omega)
  have h3 : 2 ^ (8 - lead b) * 256 ^ j ≤ 2 ^ 56 := by
    rw [show (256 : Nat) = 2 ^ 8 from rfl, ← Nat.pow_mul, ← Nat.pow_add]
    exact Nat.pow_le_pow_right (by omega) (by omega)
  rw [Nat.add_mul] at h2
  omega

theorem numS_cons {l : List UInt8} {k : Nat} {y : UInt8} {t : List UInt8} (hd : l.drop k = y :: t) (hle : lead y ≤ t.length + 1) :
    numS l k 0 = if sz (cat (y.toNat % 2 ^ (8 - lead y)) (t.take (lead y - 1))) < lead y then (0, k, 4) else (cat (y.toNat % 2 ^ (8 - lead y)) (t.take (lead y - 1)), k + lead y, 0) := by
  unfold numS
  rw [if_pos rfl, hd, decN_cons, if_neg (by omega)]
  split <;> simp

set_option maxHeartbeats 1000000 in
theorem num_ok {w : World} {g : Nat} {A : Option Addr} {n c k : Nat} {S : Nat → Prop} {l : List UInt8} (h : RdB w g A n c k 0) (hs : Src w S A n (bcs l)) (hS : ∀ b, S b → b < w.heap.size ∧ b ≠ g)
    (hk : k ≤ n) (hn : n ≤ 1000000000) (hnc : n ≤ c) (hc : c ≤ maxLen) (y : UInt8) (t : List UInt8) (hd : l.drop k = y :: t) (hle : lead y ≤ t.length + 1) :
    Calls Try.prog 45 #[.pointer (some ⟨g, 0, none⟩)] w (NumGives w g A n c k 0 l) := by
  have hl := src_len hs
  have hlk : n - k = t.length + 1 := by rw [← hl, ← List.length_drop, hd]; rfl
  have y1 := lead_pos y
  have y9 := lead_le y
  have CA := Lib.hid (ahead_any h hs hk hn)
  rw [hd] at CA
  have CT := Lib.hid (fun q => take_any (h.drewN q) (hs.drewN q) hS hk hn hnc hc (lead y) (by omega))
  have HR := Lib.hid (numS_cons hd hle)
  have hmask := mask_u8 y
  have hcb := Lib.hid (fun j (hj : j + 1 < lead y) => cat_bound y (t.take j) j hj (by rw [List.length_take]; omega))
  have hsz := Lib.hid (enc_dec l)
  have ha : y.toNat % 2 ^ (8 - lead y) < 256 := by have := y.toNat_lt; have := Nat.mod_le y.toNat (2 ^ (8 - lead y)); omega
  have hN : cat (y.toNat % 2 ^ (8 - lead y)) (t.take (lead y - 1)) < 18446744073709551616 := by
    have h1 := cat_split (y.toNat % 2 ^ (8 - lead y)) (t.take (lead y - 1))
    have h2 := cat_lt (t.take (lead y - 1))
    have h3 : (t.take (lead y - 1)).length = lead y - 1 := by rw [List.length_take]; omega
    rw [h3] at h1 h2
    have h4 : y.toNat % 2 ^ (8 - lead y) < 2 ^ (8 - lead y) := Nat.mod_lt _ (Nat.two_pow_pos _)
    have h5 : (y.toNat % 2 ^ (8 - lead y) + 1) * 256 ^ (lead y - 1) ≤ 2 ^ (8 - lead y) * 256 ^ (lead y - 1) := Nat.mul_le_mul_right _ (by omega)
    have h6 : 2 ^ (8 - lead y) * 256 ^ (lead y - 1) ≤ 2 ^ 64 := by
      rw [show (256 : Nat) = 2 ^ 8 from rfl, ← Nat.pow_mul, ← Nat.pow_add]
      exact Nat.pow_le_pow_right (by omega) (by omega)
    rw [Nat.add_mul] at h5
    omega
  have HN := Lib.hid hN
  have CM := Lib.hid (fun w => mark_any (lead y) w y1 y9)
  have HD := Lib.hid hd
  have hal : aheadL (y :: t) = lead y := rfl
  rw [hal] at CA
  clear hd hl h hN hal hsz
  generalize y.toNat % 2 ^ (8 - lead y) = a at *
  generalize (256 - 2 ^ (9 - lead y) : Nat) = M at *
  generalize lead y = s at *
  go_enter Try.func45, Try.ntmps45
  go_wp2_with (first | (go_at_call 53; refine CA.out.mono ?_; rintro e w' ⟨rfl, q, rfl⟩))
  refine (CT.out q).mono ?_
  rintro e w2 ⟨hg, ⟨hz, _⟩ | ⟨_, hlt, _⟩ | ⟨_, hle2, hr2, A', c', rfl, hc1, hc2, hs2⟩⟩
  · exact absurd rfl hz
  · omega
  rw [HD.out] at hs2
  obtain ⟨b, o, rfl, _, hcell⟩ := hs2.lies (by omega)
  have hc0 := hcell 0 (by omega)
  obtain ⟨m, hm⟩ : ∃ m, s = m + 1 := ⟨s - 1, by omega⟩
  have hc0' : w2.cell? ⟨b, o, none⟩ = some (.int .u8 (y.toNat : Int)) := by rw [hm] at hc0; exact hc0
  have hnz : (0 : Int) < ((s : Nat) : Int) := by omega
  have h2 := hr2.c2
  have f2 := hr2.fr 2
  have f3 := hr2.fr 3
  have h3 := hr2.c3
  have HC : Hid (∀ j (hj : j < t.length), j < s - 1 → w2.cell? ⟨b, o + 1 + j, none⟩ = some (bc t[j])) := by
    intro j hjt hj
    have e := hcell (j + 1) (by omega)
    rw [hm] at e
    rw [show o + 1 + j = o + (j + 1) from by omega, e, bcs_get]
    simp only [List.take_succ_cons, List.getElem?_cons_succ, List.getElem?_take]
    rw [if_pos (by omega), List.getElem?_eq_getElem hjt]
    rfl
  have HR2 := Lib.hid hr2
  clear hm hc0 hcell hs2 CT CA hr2 m
  have hend : ∀ (q' : Nat), w.grownBy (w2.drewN q') (some g) := fun q' => grownBy_drewN (grownBy_trans (grownBy_drewN (World.grownBy.refl w _) q) hg) q'
  have HE := Lib.hid hend
  clear hend
  by_cases hcc : c' = 1
  all_goals
    first | (have hcc' : 1 < c' := by omega) | (obtain rfl := hcc; have hs1 : s - 1 < 1 := by omega)
    go_wp2
    go_quiet ((go_at_call 48; exact Calls.quiet_of_same ((CM.out _).mono fun e w' h => ⟨h.1, h.2.symm⟩)))
    go_wp2
    go_loop [5, 7, 28] (fun v _ i => ∃ j : Nat, j ≤ s - 1 ∧ i = .int .i64 j ∧ v = .int .u64 (cat a (t.take j))) (fun _ _ i => s - 1 - (intOf i).toNat)
    case atStart => exact ⟨0, by omega, rfl, by simp [cat]⟩
    case round =>
      obtain ⟨j, hj, rfl, rfl⟩ := hrel
      by_cases hlt : j < s - 1
      · first
          | (exfalso; omega)
          | (have hjt : j < t.length := by omega
             have hcj := HC.out j hjt hlt
             have hb := hcb.out j (by omega)
             have HS : Hid (cat a (t.take (j + 1)) = cat a (t.take j) * 256 + t[j].toNat) := by
               rw [List.take_succ_eq_append_getElem hjt, cat_append]; rfl
             have hcj' : w2.cell? ⟨b, o + 1 + j, none⟩ = some (.int .u8 (t[j].toNat : Int)) := hcj
             have hor := shl_or (cat a (t.take j)) t[j] hb
             clear hcj
             generalize cat a (t.take j) = X at *
             generalize t[j] = z at *
             have hzb : z.toNat < 256 := z.toNat_lt
             go_wp2
             go_round
             case rel => exact ⟨j + 1, by omega, by go_num, by rw [HS.out]; go_num⟩
             case measure => simp [intOf]; omega)
      · obtain rfl : j = s - 1 := by omega
        generalize hX : cat a (t.take (s - 1)) = X at *
        clear hX
        have hX := HN.out
        have CN := Lib.hid (fun w => numberSize_any X w hX)
        clear hX
        generalize sz X = z at *
        by_cases hz : z < s
        · go_wp2_with (go_at_call 41; refine (CN.out _).mono ?_; rintro e w' ⟨rfl, rfl⟩)
          go_ret
          have hr := HR.out
          rw [if_pos hz] at hr
          refine ⟨grownBy_setCell (grownBy_setCell (HE.out _) 2 _) 3 _, ?_, ?_⟩
          · rw [hr]; rfl
          · rw [hr]; exact ((HR2.out.drewN nq).set2 k).set3 4
        · go_wp2_with (go_at_call 41; refine (CN.out _).mono ?_; rintro e w' ⟨rfl, rfl⟩)
          go_ret
          have hr := HR.out
          rw [if_neg hz] at hr
          refine ⟨HE.out _, ?_, ?_⟩
          · rw [hr]; rfl
          · rw [hr]; exact HR2.out.drewN nq

/-- The ways on which nothing is taken. -/
theorem num_none {w : World} {g : Nat} {A : Option Addr} {n c k e : Nat} {S : Nat → Prop} {l : List UInt8} (h : RdB w g A n c k e) (hs : Src w S A n (bcs l)) (hS : ∀ b, S b → b < w.heap.size ∧ b ≠ g)
    (hk : k ≤ n) (hn : n ≤ 1000000000) (hnc : n ≤ c) (hc : c ≤ maxLen) (hno : e ≠ 0 ∨ n - k < aheadL (l.drop k)) (ha : aheadL (l.drop k) ≤ 9) (e2 : Nat) (hr : numS l k e = (0, k, e2)) (he2 : e2 = if e = 0 then 5 else e) :
    Calls Try.prog 45 #[.pointer (some ⟨g, 0, none⟩)] w (NumGives w g A n c k e l) := by
  have CA := Lib.hid (ahead_any h hs hk hn)
  have CT := Lib.hid (fun q => take_any (h.drewN q) (hs.drewN q) hS hk hn hnc hc (aheadL (l.drop k)) (by omega))
  have HR := Lib.hid hr
  have HE := Lib.hid he2
  clear hr h he2
  generalize aheadL (l.drop k) = m at *
  go_enter Try.func45, Try.ntmps45
  go_wp2_with (first | (go_at_call 53; refine CA.out.mono ?_; rintro e w' ⟨rfl, q, rfl⟩))
  refine (CT.out q).mono ?_
  rintro ee w2 ⟨hg, ⟨hz, rfl, hr2⟩ | ⟨hz, hlt, rfl, hr2⟩ | ⟨hz, hle2, hr2, A', c', rfl, hc1, hc2, hs2⟩⟩
  · have H2 := Lib.hid hr2
    clear hr2
    go_wp2
    go_ret
    have hr := HR.out
    have he := HE.out
    rw [if_neg hz] at he
    subst he
    refine ⟨grownBy_trans (grownBy_drewN (World.grownBy.refl w _) q) hg, ?_, ?_⟩
    · rw [hr]; rfl
    · rw [hr]; exact H2.out
  · have H2 := Lib.hid hr2
    clear hr2
    go_wp2
    go_ret
    have hr := HR.out
    have he := HE.out
    rw [if_pos hz] at he
    subst he
    refine ⟨grownBy_trans (grownBy_drewN (World.grownBy.refl w _) q) hg, ?_, ?_⟩
    · rw [hr]; rfl
    · rw [hr]; exact H2.out
  · exfalso
    rcases hno with h | h <;> omega

theorem num_any {w : World} {g : Nat} {A : Option Addr} {n c k e : Nat} {S : Nat → Prop} {l : List UInt8} (h : RdB w g A n c k e) (hs : Src w S A n (bcs l)) (hS : ∀ b, S b → b < w.heap.size ∧ b ≠ g)
    (hk : k ≤ n) (hn : n ≤ 1000000000) (hnc : n ≤ c) (hc : c ≤ maxLen) : Calls Try.prog 45 #[.pointer (some ⟨g, 0, none⟩)] w (NumGives w g A n c k e l) := by
  have hl := src_len hs
  have ha : aheadL (l.drop k) ≤ 9 := by
    cases l.drop k with
    | nil => simp [aheadL]
    | cons y t => exact lead_le y
  by_cases he : e = 0
  · subst he
    have hlk : n - k = (l.drop k).length := by rw [List.length_drop, hl]
    cases hd : l.drop k with
    | nil =>
      refine num_none h hs hS hk hn hnc hc (.inr ?_) ha 5 ?_ rfl
      · rw [hlk, hd]; simp [aheadL]
      · unfold numS; rw [if_pos rfl, hd]; rfl
    | cons y t =>
      by_cases hle : lead y ≤ t.length + 1
      · exact num_ok h hs hS hk hn hnc hc y t hd hle
      · refine num_none h hs hS hk hn hnc hc (.inr ?_) ha 5 ?_ rfl
        · rw [hlk, hd]; show t.length + 1 < lead y; omega
        · unfold numS; rw [if_pos rfl, hd, decN_cons, if_pos (by omega)]; rfl
  · exact num_none h hs hS hk hn hnc hc (.inl he) ha e (by unfold numS; rw [if_neg he]) (by rw [if_neg he])

theorem take_nil (m : Int) (w : World) : Calls Try.prog 52 #[.pointer none, .int .u64 m] w fun e' w' => e' = .returned (.tuple #[.slice none 0 0, .bool false]) ∧ w = w' := by
  go_enter Try.func52, Try.ntmps52
  go_wp2_with (go_at_call 44; refine (err_nil _).mono ?_; rintro e w' ⟨rfl, rfl⟩)
  go_ret2
  exact ⟨rfl, rfl⟩
theorem ahead_nil (w : World) : Calls Try.prog 53 #[.pointer none] w fun e' w' => e' = .returned (.int .u64 1) ∧ w = w' := by
  go_enter Try.func53, Try.ntmps53
  go_wp2_with (go_at_call 46; refine (left_nil _).mono ?_; rintro e w' ⟨rfl, rfl⟩)
  go_ret
  exact ⟨rfl, rfl⟩
theorem num_nil (w : World) : Calls Try.prog 45 #[.pointer none] w fun e' w' => e' = .returned (.int .u64 0) ∧ w = w' := by
  go_enter Try.func45, Try.ntmps45
  go_wp2_with (first | (go_at_call 53; refine (ahead_nil _).mono ?_; rintro e w' ⟨rfl, rfl⟩) | (go_at_call 52; refine (take_nil _ _).mono ?_; rintro e w' ⟨rfl, rfl⟩))
  go_ret
  exact ⟨rfl, rfl⟩
end Go.Proofs.Ytkglicidjdifkaa
