/- Plain facts on numbers and their bytes: no Go in sight. No statement is proved here. -/
import Derived.Lib.BitFns
namespace Go.Proofs.Ytkglicidjdifkaa

/-- How many bytes a number has. -/
def sz (n : Nat) : Nat :=
  if n < 128 then 1 else if n < 16384 then 2 else if n < 2097152 then 3 else if n < 268435456 then 4 else if n < 34359738368 then 5
  else if n < 4398046511104 then 6 else if n < 562949953421312 then 7 else if n < 72057594037927936 then 8 else 9
/-- The low k bytes of a number, the highest first. -/
def be (n : Nat) : Nat → List UInt8
  | 0 => []
  | k + 1 => UInt8.ofNat (n / 256 ^ k) :: be n k
/-- A number's bytes. -/
def encN (n : Nat) : List UInt8 := UInt8.ofNat (256 - 2 ^ (9 - sz n) + n / 256 ^ (sz n - 1)) :: be n (sz n - 1)

theorem sz_pos (n : Nat) : 1 ≤ sz n := by unfold sz; repeat (first | omega | split)
theorem sz_le (n : Nat) : sz n ≤ 9 := by unfold sz; repeat (first | omega | split)
theorem be_len (n : Nat) : ∀ k, (be n k).length = k
  | 0 => rfl
  | k + 1 => by simp [be, be_len n k]
theorem encN_len (n : Nat) : (encN n).length = sz n := by
  have := sz_pos n
  simp [encN, be_len]
  omega

theorem bitLen_ge (x k : Nat) (h : 2 ^ k ≤ x) (hx : x < 2 ^ 64) : k + 1 ≤ Lib.bitLen x := by
  rw [Lib.bitLen_shift k x h hx]
  have h1 : 1 ≤ x / 2 ^ k := by rw [Nat.le_div_iff_mul_le (Nat.two_pow_pos k)]; omega
  have h2 : x / 2 ^ k ≠ 0 := by omega
  have h3 : 1 ≤ Lib.bitLen (x / 2 ^ k) := by
    unfold Lib.bitLen
    rw [show (64 : Nat) = 63 + 1 from rfl, Lib.bitLenAux, if_neg h2]
    omega
  omega

theorem sz_bitLen (n : Nat) (h : n < 2 ^ 64) : min (max (Lib.bitLen n + 6) 7 / 7) 9 = sz n := by
  have up := fun k (hk : k ≤ 64) (h : n < 2 ^ k) => Lib.bitLen_le n k hk h
  have lo := fun k (hk : 2 ^ k ≤ n) => bitLen_ge n k hk h
  unfold sz
  by_cases h1 : n < 128
  · have a := up 7 (by omega) (by omega); rw [if_pos h1]; omega
  rw [if_neg h1]
  have b1 := lo 7 (by omega)
  by_cases h2 : n < 16384
  · have a := up 14 (by omega) (by omega); rw [if_pos h2]; omega
  rw [if_neg h2]
  have b2 := lo 14 (by omega)
  by_cases h3 : n < 2097152
  · have a := up 21 (by omega) (by omega); rw [if_pos h3]; omega
  rw [if_neg h3]
  have b3 := lo 21 (by omega)
  by_cases h4 : n < 268435456
  · have a := up 28 (by omega) (by omega); rw [if_pos h4]; omega
  rw [if_neg h4]
  have b4 := lo 28 (by omega)
  by_cases h5 : n < 34359738368
  · have a := up 35 (by omega) (by omega); rw [if_pos h5]; omega
  rw [if_neg h5]
  have b5 := lo 35 (by omega)
  by_cases h6 : n < 4398046511104
  · have a := up 42 (by omega) (by omega); rw [if_pos h6]; omega
  rw [if_neg h6]
  have b6 := lo 42 (by omega)
  by_cases h7 : n < 562949953421312
  · have a := up 49 (by omega) (by omega); rw [if_pos h7]; omega
  rw [if_neg h7]
  have b7 := lo 49 (by omega)
  by_cases h8 : n < 72057594037927936
  · have a := up 56 (by omega) (by omega); rw [if_pos h8]; omega
  rw [if_neg h8]
  have b8 := lo 56 (by omega)
  omega

theorem sz_cases (n : Nat) : (sz n = 1 ∧ n < 128) ∨ (sz n = 2 ∧ 128 ≤ n ∧ n < 16384) ∨ (sz n = 3 ∧ 16384 ≤ n ∧ n < 2097152) ∨ (sz n = 4 ∧ 2097152 ≤ n ∧ n < 268435456) ∨
    (sz n = 5 ∧ 268435456 ≤ n ∧ n < 34359738368) ∨ (sz n = 6 ∧ 34359738368 ≤ n ∧ n < 4398046511104) ∨ (sz n = 7 ∧ 4398046511104 ≤ n ∧ n < 562949953421312) ∨
    (sz n = 8 ∧ 562949953421312 ≤ n ∧ n < 72057594037927936) ∨ (sz n = 9 ∧ 72057594037927936 ≤ n) := by
  unfold sz; repeat (first | omega | split)
/-- 128 ^ s is above every number of s bytes, s below 9. -/
theorem sz_upper (n : Nat) (h : sz n ≤ 8) : n < 128 ^ sz n := by
  rcases sz_cases n with ⟨e, a⟩ | ⟨e, _, a⟩ | ⟨e, _, a⟩ | ⟨e, _, a⟩ | ⟨e, _, a⟩ | ⟨e, _, a⟩ | ⟨e, _, a⟩ | ⟨e, _, a⟩ | ⟨e, _⟩
  all_goals first | omega | (rw [e]; omega)
theorem sz_lower (n : Nat) (h : 2 ≤ sz n) : 128 ^ (sz n - 1) ≤ n := by
  rcases sz_cases n with ⟨e, a⟩ | ⟨e, a, _⟩ | ⟨e, a, _⟩ | ⟨e, a, _⟩ | ⟨e, a, _⟩ | ⟨e, a, _⟩ | ⟨e, a, _⟩ | ⟨e, a, _⟩ | ⟨e, a⟩
  all_goals first | omega | (rw [e]; omega)
theorem sz_of_lt (n s : Nat) (h1 : 1 ≤ s) (h : s ≤ 8) (hn : n < 128 ^ s) : sz n ≤ s := by
  rcases sz_cases n with ⟨e, a⟩ | ⟨e, a, _⟩ | ⟨e, a, _⟩ | ⟨e, a, _⟩ | ⟨e, a, _⟩ | ⟨e, a, _⟩ | ⟨e, a, _⟩ | ⟨e, a, _⟩ | ⟨e, a⟩
  all_goals (obtain rfl | rfl | rfl | rfl | rfl | rfl | rfl | rfl : s = 1 ∨ s = 2 ∨ s = 3 ∨ s = 4 ∨ s = 5 ∨ s = 6 ∨ s = 7 ∨ s = 8 := by omega)
  all_goals omega

/-- What a first byte announces. -/
def lead (b : UInt8) : Nat := 9 - Lib.bitLen (255 - b.toNat)
/-- The bytes behind a start, the highest first. -/
def cat (a : Nat) (t : List UInt8) : Nat := t.foldl (fun n c => n * 256 + c.toNat) a

theorem lead_bounds : ∀ b : Fin 256, 1 ≤ 9 - Lib.bitLen (255 - b.val) ∧ 9 - Lib.bitLen (255 - b.val) ≤ 9 := by decide +kernel
theorem lead_pos (b : UInt8) : 1 ≤ lead b := (lead_bounds ⟨b.toNat, b.toNat_lt⟩).1
theorem lead_le (b : UInt8) : lead b ≤ 9 := (lead_bounds ⟨b.toNat, b.toNat_lt⟩).2
theorem lead_parts' : ∀ b : Fin 256, 256 - 2 ^ (9 - (9 - Lib.bitLen (255 - b.val))) + b.val % 2 ^ (8 - (9 - Lib.bitLen (255 - b.val))) = b.val := by decide +kernel
theorem lead_parts (b : UInt8) : 256 - 2 ^ (9 - lead b) + b.toNat % 2 ^ (8 - lead b) = b.toNat := lead_parts' ⟨b.toNat, b.toNat_lt⟩
theorem lead_of' : ∀ s : Fin 9, ∀ r : Fin 256, r.val < 2 ^ (8 - (s.val + 1)) → 9 - Lib.bitLen (255 - (256 - 2 ^ (9 - (s.val + 1)) + r.val)) = s.val + 1 ∧ (256 - 2 ^ (9 - (s.val + 1)) + r.val) % 2 ^ (8 - (s.val + 1)) = r.val := by decide +kernel
theorem lead_of (s r : Nat) (h1 : 1 ≤ s) (h9 : s ≤ 9) (hr : r < 2 ^ (8 - s)) : 9 - Lib.bitLen (255 - (256 - 2 ^ (9 - s) + r)) = s ∧ (256 - 2 ^ (9 - s) + r) % 2 ^ (8 - s) = r := by
  have hr' : r < 256 := Nat.lt_of_lt_of_le hr (by
    have := Nat.pow_le_pow_right (show 0 < 2 by omega) (show 8 - s ≤ 8 by omega)
    omega)
  have := lead_of' ⟨s - 1, by omega⟩ ⟨r, hr'⟩
  simp only [show s - 1 + 1 = s from by omega] at this
  exact this hr

theorem cat_append (a : Nat) (t u : List UInt8) : cat a (t ++ u) = cat (cat a t) u := List.foldl_append
theorem cat_split (a : Nat) : ∀ t : List UInt8, cat a t = a * 256 ^ t.length + cat 0 t := by
  intro t
  induction t generalizing a with
  | nil => simp [cat]
  | cons c t ih =>
    show cat (a * 256 + c.toNat) t = _
    have h0 : cat 0 (c :: t) = cat (0 * 256 + c.toNat) t := rfl
    rw [h0, ih (a * 256 + c.toNat), ih (0 * 256 + c.toNat), List.length_cons, Nat.pow_succ]
    simp only [Nat.add_mul, Nat.zero_mul, Nat.zero_add, Nat.mul_assoc, Nat.mul_comm (256 ^ t.length) 256]
    omega
theorem cat_lt : ∀ t : List UInt8, cat 0 t < 256 ^ t.length
  | [] => by simp [cat]
  | c :: t => by
    show cat (0 * 256 + c.toNat) t < _
    have ih := cat_lt t
    have hc : c.toNat < 256 := c.toNat_lt
    rw [cat_split, List.length_cons, Nat.pow_succ]
    have : c.toNat * 256 ^ t.length ≤ 255 * 256 ^ t.length := Nat.mul_le_mul_right _ (by omega)
    simp only [Nat.zero_mul, Nat.zero_add]
    omega
theorem cat_be (n : Nat) : ∀ k a, cat a (be n k) = a * 256 ^ k + n % 256 ^ k
  | 0, a => by simp [be, cat, Nat.mod_one]
  | k + 1, a => by
    show cat (a * 256 + (UInt8.ofNat (n / 256 ^ k)).toNat) (be n k) = _
    rw [cat_be n k, Nat.pow_succ, Nat.mod_mul, UInt8.toNat_ofNat']
    simp only [Nat.add_mul, Nat.mul_assoc, Nat.mul_comm 256 (256 ^ k), show (2 : Nat) ^ 8 = 256 from rfl, Nat.mul_comm (n / 256 ^ k % 256)]
    omega
theorem be_cat : ∀ (t : List UInt8) (a : Nat), be (a * 256 ^ t.length + cat 0 t) t.length = t
  | [], _ => rfl
  | c :: t, a => by
    have h0 : cat 0 (c :: t) = c.toNat * 256 ^ t.length + cat 0 t := by
      show cat (0 * 256 + c.toNat) t = _
      rw [cat_split]; simp
    have e : a * 256 ^ (c :: t).length + cat 0 (c :: t) = (a * 256 + c.toNat) * 256 ^ t.length + cat 0 t := by
      rw [h0, List.length_cons, Nat.pow_succ, Nat.add_mul, Nat.mul_assoc, Nat.mul_comm 256, Nat.add_assoc]
    rw [e]
    show UInt8.ofNat (((a * 256 + c.toNat) * 256 ^ t.length + cat 0 t) / 256 ^ t.length) :: be _ t.length = _
    rw [be_cat t (a * 256 + c.toNat)]
    congr 1
    rw [Nat.add_comm, Nat.add_mul_div_right _ _ (Nat.pow_pos (by omega)), Nat.div_eq_of_lt (cat_lt t), Nat.zero_add]
    apply UInt8.toNat_inj.1
    rw [UInt8.toNat_ofNat']
    have : c.toNat < 256 := c.toNat_lt
    omega

/-- What a reader makes of the bytes ahead: the number, how many bytes it took, the error. -/
def decN : List UInt8 → Nat × Nat × Nat
  | [] => (0, 0, 5)
  | b :: t =>
    if t.length + 1 < lead b then (0, 0, 5)
    else if sz (cat (b.toNat % 2 ^ (8 - lead b)) (t.take (lead b - 1))) < lead b then (0, 0, 4)
    else (cat (b.toNat % 2 ^ (8 - lead b)) (t.take (lead b - 1)), lead b, 0)

theorem decN_cons (b : UInt8) (t : List UInt8) : decN (b :: t) =
    if t.length + 1 < lead b then (0, 0, 5)
    else if sz (cat (b.toNat % 2 ^ (8 - lead b)) (t.take (lead b - 1))) < lead b then (0, 0, 4)
    else (cat (b.toNat % 2 ^ (8 - lead b)) (t.take (lead b - 1)), lead b, 0) := rfl
theorem head_small (n : Nat) (h : n < 2 ^ 64) : n / 256 ^ (sz n - 1) < 2 ^ (8 - sz n) := by
  by_cases h9 : sz n ≤ 8
  · have hu := sz_upper n h9
    have h1 := sz_pos n
    rw [Nat.div_lt_iff_lt_mul (Nat.pow_pos (by omega))]
    have : 2 ^ (8 - sz n) * 256 ^ (sz n - 1) = 128 ^ sz n := by
      rw [show (256 : Nat) = 2 ^ 8 from rfl, show (128 : Nat) = 2 ^ 7 from rfl, ← Nat.pow_mul, ← Nat.pow_mul, ← Nat.pow_add]
      congr 1
      omega
    omega
  · have h2 := sz_le n
    have h3 : sz n = 9 := by omega
    rw [h3]
    simp only [show 9 - 1 = 8 from rfl]
    omega

theorem dec_enc (n : Nat) (h : n < 2 ^ 64) (r : List UInt8) : decN (encN n ++ r) = (n, sz n, 0) := by
  have hs := head_small n h
  obtain ⟨e1, e2⟩ := lead_of (sz n) _ (sz_pos n) (sz_le n) hs
  have hlt : 256 - 2 ^ (9 - sz n) + n / 256 ^ (sz n - 1) < 256 := by
    have : 2 ^ (8 - sz n) ≤ 2 ^ (9 - sz n) := Nat.pow_le_pow_right (by omega) (by omega)
    have h2 : 2 ^ (9 - sz n) ≤ 2 ^ 8 := Nat.pow_le_pow_right (by omega) (by have := sz_pos n; omega)
    omega
  have et : (UInt8.ofNat (256 - 2 ^ (9 - sz n) + n / 256 ^ (sz n - 1))).toNat = 256 - 2 ^ (9 - sz n) + n / 256 ^ (sz n - 1) := by
    rw [UInt8.toNat_ofNat']; omega
  have el : lead (UInt8.ofNat (256 - 2 ^ (9 - sz n) + n / 256 ^ (sz n - 1))) = sz n := by
    unfold lead; rw [et]; exact e1
  have hc : cat ((UInt8.ofNat (256 - 2 ^ (9 - sz n) + n / 256 ^ (sz n - 1))).toNat % 2 ^ (8 - sz n)) ((be n (sz n - 1) ++ r).take (sz n - 1)) = n := by
    rw [List.take_append_of_le_length (by rw [be_len]; omega), List.take_of_length_le (by rw [be_len]; omega), cat_be, et, e2, Nat.mul_comm]
    exact Nat.div_add_mod n _
  show decN (_ :: (be n (sz n - 1) ++ r)) = _
  rw [decN_cons, el, hc, if_neg (by rw [List.length_append, be_len]; omega), if_neg (by omega)]

theorem enc_dec (l : List UInt8) (n d : Nat) (h : decN l = (n, d, 0)) : encN n = l.take d ∧ d ≤ l.length ∧ 1 ≤ d ∧ n < 2 ^ 64 := by
  match l, h with
  | b :: t, h =>
    rw [decN_cons] at h
    by_cases h1 : t.length + 1 < lead b
    · rw [if_pos h1] at h; simp at h
    rw [if_neg h1] at h
    by_cases h2 : sz (cat (b.toNat % 2 ^ (8 - lead b)) (t.take (lead b - 1))) < lead b
    · rw [if_pos h2] at h; simp at h
    rw [if_neg h2] at h
    simp only [Prod.mk.injEq, and_true] at h
    obtain ⟨hn, hd⟩ := h
    subst hd
    have p1 := lead_pos b
    have p2 := lead_le b
    have hl : (t.take (lead b - 1)).length = lead b - 1 := by rw [List.length_take]; omega
    have hcs := cat_split (b.toNat % 2 ^ (8 - lead b)) (t.take (lead b - 1))
    have hct := cat_lt (t.take (lead b - 1))
    rw [hl] at hcs hct
    rw [hn] at hcs h2
    have ha : b.toNat % 2 ^ (8 - lead b) < 2 ^ (8 - lead b) := Nat.mod_lt _ (Nat.two_pow_pos _)
    have hlt : n < 2 ^ (8 - lead b) * 256 ^ (lead b - 1) := by
      have : (b.toNat % 2 ^ (8 - lead b) + 1) * 256 ^ (lead b - 1) ≤ 2 ^ (8 - lead b) * 256 ^ (lead b - 1) := Nat.mul_le_mul_right _ (by omega)
      rw [Nat.add_mul] at this
      omega
    have hsz : sz n = lead b := by
      by_cases h8 : lead b ≤ 8
      · have : n < 128 ^ lead b := by
          have e : 2 ^ (8 - lead b) * 256 ^ (lead b - 1) = 128 ^ lead b := by
            rw [show (256 : Nat) = 2 ^ 8 from rfl, show (128 : Nat) = 2 ^ 7 from rfl, ← Nat.pow_mul, ← Nat.pow_mul, ← Nat.pow_add]
            congr 1
            omega
          omega
        have := sz_of_lt n (lead b) p1 h8 this
        omega
      · have := sz_le n
        omega
    have hq : n / 256 ^ (lead b - 1) = b.toNat % 2 ^ (8 - lead b) := by
      rw [hcs, Nat.add_comm, Nat.add_mul_div_right _ _ (Nat.pow_pos (by omega)), Nat.div_eq_of_lt hct, Nat.zero_add]
    refine ⟨?_, by simp; omega, p1, ?_⟩
    · unfold encN
      rw [hsz, hq, lead_parts]
      have hbe := be_cat (t.take (lead b - 1)) (b.toNat % 2 ^ (8 - lead b))
      rw [hl, ← hcs] at hbe
      rw [hbe]
      obtain ⟨k, hk⟩ : ∃ k, lead b = k + 1 := ⟨lead b - 1, by omega⟩
      rw [hk]
      simp
    · have : 2 ^ (8 - lead b) * 256 ^ (lead b - 1) ≤ 2 ^ 64 := by
        rw [show (256 : Nat) = 2 ^ 8 from rfl, ← Nat.pow_mul, ← Nat.pow_add]
        exact Nat.pow_le_pow_right (by omega) (by omega)
      omega
end Go.Proofs.Ytkglicidjdifkaa
