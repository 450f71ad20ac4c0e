/- The reference's wide numbers, plainly; its word and its comparison, walked. No statement is proved here. -/
import Derived.Test.YtphalfpmgbmcaaaT4
namespace Go.Proofs.Ytphalfpmgbmcaaa
open Go.RowKit
set_option linter.unusedVariables false

def Y32 : Nat := 4294967296
/-- The number of words of 32 bits, the lowest first. -/
def v32 : List Nat → Nat
  | [] => 0
  | x :: l => x + Y32 * v32 l
theorem Y32_pos : 0 < Y32 := by unfold Y32; omega
def Lt32 (l : List Nat) : Prop := ∀ x ∈ l, x < Y32
theorem Lt32.get {l : List Nat} (h : Lt32 l) (k : Nat) : l.getD k 0 < Y32 := by
  rw [List.getD_eq_getElem?_getD]
  rcases Nat.lt_or_ge k l.length with hk | hk
  · rw [List.getElem?_eq_getElem hk]; exact h _ (List.getElem_mem _)
  · rw [List.getElem?_eq_none hk]; exact Y32_pos
theorem v32_lt (l : List Nat) (h : Lt32 l) : v32 l < Y32 ^ l.length := by
  induction l with
  | nil => simp [v32]
  | cons x l ih =>
    have h1 := ih fun y hy => h y (List.mem_cons_of_mem _ hy)
    have h2 := h x (by simp)
    rw [List.length_cons, Nat.pow_succ, Nat.mul_comm, v32]
    have h3 : Y32 * (v32 l + 1) ≤ Y32 * Y32 ^ l.length := Nat.mul_le_mul_left _ h1
    rw [Nat.mul_add] at h3
    omega
theorem v32_div (l : List Nat) (h : Lt32 l) (k : Nat) : v32 l / Y32 ^ k = Y32 * (v32 l / Y32 ^ (k + 1)) + l.getD k 0 := by
  induction l generalizing k with
  | nil => simp [v32]
  | cons x l ih =>
    have h2 := h x (by simp)
    have e : (x + Y32 * v32 l) / Y32 = v32 l := by rw [Nat.add_mul_div_left _ _ Y32_pos, Nat.div_eq_of_lt h2, Nat.zero_add]
    cases k with
    | zero =>
      simp only [v32, Nat.pow_zero, Nat.div_one, Nat.zero_add, Nat.pow_one, List.getD_cons_zero, e]
      omega
    | succ k =>
      have := ih (fun y hy => h y (List.mem_cons_of_mem _ hy)) k
      rw [v32, Nat.pow_succ', ← Nat.div_div_eq_div_mul, e, Nat.pow_succ' (n := k + 1), ← Nat.div_div_eq_div_mul, e, List.getD_cons_succ]
      exact this
theorem cmp32_ne {a b : List Nat} (ha : Lt32 a) (hb : Lt32 b) {k : Nat} (h : v32 a / Y32 ^ (k + 1) = v32 b / Y32 ^ (k + 1)) (hne : a.getD k 0 ≠ b.getD k 0) : (b.getD k 0 < a.getD k 0 ↔ v32 b < v32 a) := by
  have h1 := v32_div a ha k
  have h2 := v32_div b hb k
  rw [h] at h1
  constructor
  · intro hlt
    exact lt_of_div (m := Y32 ^ k) (by omega)
  · intro hlt
    have := Nat.div_le_div_right (c := Y32 ^ k) (Nat.le_of_lt hlt)
    omega
theorem cmp32_eq {a b : List Nat} (ha : Lt32 a) (hb : Lt32 b) {k : Nat} (h : v32 a / Y32 ^ (k + 1) = v32 b / Y32 ^ (k + 1)) (he : a.getD k 0 = b.getD k 0) : v32 a / Y32 ^ k = v32 b / Y32 ^ k := by
  rw [v32_div a ha k, v32_div b hb k, h, he]

theorem v32_high (l : List Nat) (h : Lt32 l) (k : Nat) (hk : l.length ≤ k) : v32 l / Y32 ^ k = 0 :=
  Nat.div_eq_of_lt (Nat.lt_of_lt_of_le (v32_lt l h) (Nat.pow_le_pow_right Y32_pos hk))

/-- Numbers as cells of 32 bits. -/
def dc (n : Nat) : Value := .int .u32 (n : Int)
def dcs (l : List Nat) : List Value := l.map dc
theorem dcs_len (l : List Nat) : (dcs l).length = l.length := List.length_map ..
theorem dcs_one (l : List Nat) : ∀ u ∈ dcs l, u.oneCell' = true := by
  intro u hu
  obtain ⟨b, _, rfl⟩ := List.mem_map.1 hu
  rfl
theorem dcs_get (l : List Nat) (i : Nat) : (dcs l)[i]? = l[i]?.map dc := List.getElem?_map ..
theorem dcs_append (a b : List Nat) : dcs (a ++ b) = dcs a ++ dcs b := List.map_append ..

theorem Src.word {w : World} {S : Nat → Prop} {A : Option Addr} {n : Nat} {l : List Nat} (h : Src w S A n (dcs l)) (i : Nat) (hi : i < n) :
    ∃ b o, A = some ⟨b, o, none⟩ ∧ w.cell? ⟨b, o + i, none⟩ = some (.int .u32 (l.getD i 0 : Nat)) := by
  obtain ⟨b, o, e, _, hc⟩ := h.lies (by omega)
  refine ⟨b, o, e, ?_⟩
  have hl : l.length = n := by rw [← h.len, dcs_len]
  rw [hc i hi, dcs_get, List.getD_eq_getElem?_getD, List.getElem?_eq_getElem (by omega)]
  rfl

set_option maxHeartbeats 400000 in
theorem rword_any (w : World) (S : Nat → Prop) (A : Option Addr) (n c : Nat) (l : List Nat) (h : Src w S A n (dcs l)) (hn : n ≤ 1000000) (i : Nat) (hi : i ≤ 1000000) :
    Calls Try.prog 55 #[.slice A n c, .int .i64 i] w fun e w' => e = .returned (.int .u32 (l.getD i 0 : Nat)) ∧ w = w' := by
  by_cases hlt : i < n
  · obtain ⟨b, o, rfl, hc⟩ := h.word i hlt
    generalize l.getD i 0 = v at *
    clear h
    go_enter Try.func55, Try.ntmps55
    go_wp2
    go_ret
    exact ⟨rfl, rfl⟩
  · have hv : l.getD i 0 = 0 := by
      have hl : l.length = n := by rw [← h.len, dcs_len]
      rw [List.getD_eq_getElem?_getD, List.getElem?_eq_none (by omega)]
      rfl
    rw [hv]
    clear h hv
    go_enter Try.func55, Try.ntmps55
    go_wp2
    go_ret
    exact ⟨rfl, rfl⟩

set_option maxHeartbeats 400000 in
theorem rabove_any (w : World) (S S' : Nat → Prop) (A C : Option Addr) (n c m d : Nat) (a b : List Nat) (ha : Src w S A n (dcs a)) (hb : Src w S' C m (dcs b)) (hn : n ≤ 1000000) (hm : m ≤ 1000000) (la : Lt32 a) (lb : Lt32 b) (h0 : 0 < n) :
    Calls Try.prog 52 #[.slice A n c, .slice C m d] w fun e w' => e = .returned (.bool (decide (v32 b < v32 a))) ∧ w = w' := by
  have HA := Lib.hid ha
  have HB := Lib.hid hb
  have LA := Lib.hid la
  have LB := Lib.hid lb
  have HNA : Hid (a.length = n) := by rw [← ha.len, dcs_len]; exact rfl
  have HNB : Hid (b.length = m) := by rw [← hb.len, dcs_len]; exact rfl
  clear ha hb la lb
  generalize hR : decide (v32 b < v32 a) = R
  have HR := Lib.hid hR
  clear hR
  go_enter Try.func52, Try.ntmps52
  go_wp2
  all_goals
    go_loop [5, 6, 7] (fun i _ _ => ∃ k : Nat, k ≤ 1000000 ∧ i = .int .i64 ((k : Int) - 1) ∧ v32 a / Y32 ^ k = v32 b / Y32 ^ k) (fun i _ _ => (intOf i + 1).toNat)
    case atStart => first | exact ⟨m, by omega, rfl, by rw [v32_high a LA.out m (by have := HNA.out; omega), v32_high b LB.out m (by have := HNB.out; omega)]⟩ | exact ⟨n, by omega, rfl, by rw [v32_high a LA.out n (by have := HNA.out; omega), v32_high b LB.out n (by have := HNB.out; omega)]⟩
    case round =>
      obtain ⟨k, hk, rfl, heq⟩ := hrel
      have HE := Lib.hid heq
      clear heq
      by_cases hk0 : k = 0
      · have hRR : R = false := by
          have := HE.out
          rw [hk0, Nat.pow_zero, Nat.div_one, Nat.div_one] at this
          rw [← HR.out, this]
          simp
        subst hRR
        subst hk0
        clear HE HR HA HB LA LB
        go_wp2
        go_ret
        exact ⟨rfl, rfl⟩
      · obtain ⟨q, rfl⟩ : ∃ q, k = q + 1 := ⟨k - 1, by omega⟩
        have e1 : (((q + 1 : Nat) : Int) - 1) = (q : Int) := by omega
        rw [e1]
        clear e1 hk0
        have CA := Lib.hid (rword_any w S A n c a HA.out hn q (by omega))
        have CB := Lib.hid (rword_any w S' C m d b HB.out hm q (by omega))
        have HNE : Hid (a.getD q 0 ≠ b.getD q 0 → (b.getD q 0 < a.getD q 0 ↔ v32 b < v32 a)) := fun h => cmp32_ne LA.out LB.out HE.out h
        have HEQ : Hid (a.getD q 0 = b.getD q 0 → v32 a / Y32 ^ q = v32 b / Y32 ^ q) := fun h => cmp32_eq LA.out LB.out HE.out h
        clear HE
        generalize a.getD q 0 = x at *
        generalize b.getD q 0 = y at *
        by_cases hxy : x = y
        · subst hxy
          have HE2 := Lib.hid (HEQ.out rfl)
          clear HEQ HNE
          have hne : ((x : Int) != (x : Int)) = false := by simp
          go_wp2_with fail
          refine CA.out.mono ?_
          rintro e w' ⟨rfl, rfl⟩
          go_wp2_with fail
          refine CB.out.mono ?_
          rintro e w' ⟨rfl, rfl⟩
          go_wp2
          go_round
          case rel => exact ⟨q, by omega, by go_num, HE2.out⟩
          case measure => first | (simp [intOf]; done) | (simp [intOf]; omega)
        · have hne : ((x : Int) != (y : Int)) = true := by simp; omega
          have HXY : Hid (decide (y < x) = R) := by
            rw [← HR.out]
            exact decide_eq_decide.mpr (HNE.out hxy)
          clear HEQ HNE HR
          go_wp2_with fail
          refine CA.out.mono ?_
          rintro e w' ⟨rfl, rfl⟩
          go_wp2_with fail
          refine CB.out.mono ?_
          rintro e w' ⟨rfl, rfl⟩
          go_wp2
          rw [HXY.out]
          go_ret
          exact ⟨rfl, rfl⟩
end Go.Proofs.Ytphalfpmgbmcaaa
