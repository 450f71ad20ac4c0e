/- Sectors as lists of bytes, cached sectors, what a crash leaves; the cache as a map reads. No statement is proved here. -/
import Derived.Test.YtfhjcfoecmbhkaaBs
import Derived.Maps.OwnSet
import Derived.Maps.Ext
import Derived.Lib.SlKeysI
import Derived.Test.YtfhjcfoecmbhkaaProg
namespace Go.Proofs.Ytfhjcfoecmbhkaa
open Go.RowKit Go.Maps
set_option linter.unusedVariables false
set_option linter.unusedSimpArgs false

/-- All sectors, one after the other. -/
def flat : Nat → (Nat → List UInt8) → List UInt8
  | 0, _ => []
  | n + 1, S => flat n S ++ S n
/-- One place is another one. -/
def upd {α : Type} (f : Nat → α) (i : Nat) (x : α) : Nat → α := fun j => if j = i then x else f j
theorem upd_same {α : Type} (f : Nat → α) (i : Nat) (x : α) : upd f i x i = x := by simp [upd]
theorem upd_ne {α : Type} (f : Nat → α) {i j : Nat} (x : α) (h : j ≠ i) : upd f i x j = f j := by simp [upd, h]
theorem upd_id {α : Type} (f : Nat → α) (i : Nat) : upd f i (f i) = f := by
  funext j
  unfold upd
  split
  · rename_i h; rw [h]
  · rfl

/-- Every sector below n has 256 bytes. -/
def SOk (n : Nat) (S : Nat → List UInt8) : Prop := ∀ i, i < n → (S i).length = 256
theorem SOk.upd {n i : Nat} {S : Nat → List UInt8} (h : SOk n S) {s : List UInt8} (hs : s.length = 256) : SOk n (upd S i s) := fun j hj => by
  unfold Ytfhjcfoecmbhkaa.upd
  split
  · exact hs
  · exact h j hj
theorem flat_len {n : Nat} {S : Nat → List UInt8} (h : SOk n S) : (flat n S).length = 256 * n := by
  induction n with
  | zero => rfl
  | succ n ih =>
    have h1 := ih (fun i hi => h i (by omega))
    have h2 := h n (by omega)
    simp only [flat, List.length_append, h1, h2]
    omega
theorem flat_congr {n : Nat} {S T : Nat → List UInt8} (h : ∀ i, i < n → S i = T i) : flat n S = flat n T := by
  induction n with
  | zero => rfl
  | succ n ih => simp only [flat, ih (fun i hi => h i (by omega)), h n (by omega)]
theorem flat_cut {n i : Nat} {S : Nat → List UInt8} (hi : i < n) : ∃ r, ∀ s, flat n (upd S i s) = flat i S ++ (s ++ r) := by
  induction n with
  | zero => omega
  | succ n ih =>
    rcases Nat.lt_or_ge i n with h | h
    · obtain ⟨r, hr⟩ := ih h
      refine ⟨r ++ S n, fun s => ?_⟩
      simp only [flat, hr s, upd_ne S s (show n ≠ i by omega), List.append_assoc]
    · obtain rfl : i = n := by omega
      refine ⟨[], fun s => ?_⟩
      simp only [flat, upd_same, List.append_nil]
      rw [flat_congr (S := upd S i s) (T := S) fun j hj => upd_ne S s (by omega)]
theorem flat_sec {n i : Nat} {S : Nat → List UInt8} (h : SOk n S) (hi : i < n) : ((flat n S).drop (256 * i)).take 256 = S i := by
  obtain ⟨r, hr⟩ := flat_cut (S := S) hi
  have h1 := hr (S i)
  rw [upd_id] at h1
  rw [h1, List.drop_append_of_le_length (by rw [flat_len (fun j hj => h j (by omega))]; exact Nat.le_refl _), List.drop_of_length_le (by rw [flat_len (fun j hj => h j (by omega))]; exact Nat.le_refl _)]
  simp [h i hi]
theorem flat_put {n i : Nat} {S : Nat → List UInt8} (h : SOk n S) (hi : i < n) (s : List UInt8) : (flat n S).take (256 * i) ++ s ++ (flat n S).drop (256 * i + 256) = flat n (upd S i s) := by
  obtain ⟨r, hr⟩ := flat_cut (S := S) hi
  have h1 := hr (S i)
  rw [upd_id] at h1
  have hl : (flat i S).length = 256 * i := flat_len (fun j hj => h j (by omega))
  rw [hr s, h1, List.take_append_of_le_length (by omega), List.take_of_length_le (by omega), ← List.append_assoc (flat i S) (S i) r,
    List.drop_append_of_le_length (by rw [List.length_append, hl, h i hi]; exact Nat.le_refl _), List.drop_of_length_le (by rw [List.length_append, hl, h i hi]; exact Nat.le_refl _)]
  simp
theorem flat_byte {n i j : Nat} {S : Nat → List UInt8} (h : SOk n S) (hi : i < n) (hj : j < 256) : (flat n S)[256 * i + j]? = (S i)[j]? := by
  have h1 := flat_sec h hi
  rw [← h1, List.getElem?_take, if_pos hj, List.getElem?_drop]

/-- The places of the cached sectors, ascending. -/
def cks (n : Nat) (C : Nat → Option (List UInt8)) : List Nat := (List.range n).filter fun i => (C i).isSome
/-- How many cached sectors lie ahead of a place. -/
def rank (C : Nat → Option (List UInt8)) (i : Nat) : Nat := (cks i C).length
theorem cks_succ (n : Nat) (C : Nat → Option (List UInt8)) : cks (n + 1) C = cks n C ++ (if (C n).isSome then [n] else []) := by
  unfold cks
  rw [List.range_succ, List.filter_append]
  cases h : (C n).isSome <;> simp [List.filter, h]
theorem rank_succ (C : Nat → Option (List UInt8)) (i : Nat) : rank C (i + 1) = rank C i + (if (C i).isSome then 1 else 0) := by
  unfold rank
  rw [cks_succ, List.length_append]
  cases (C i).isSome <;> simp
theorem cks_len (n : Nat) (C : Nat → Option (List UInt8)) : (cks n C).length ≤ n := by
  have := List.length_filter_le (fun i => (C i).isSome) (List.range n)
  simpa [cks] using this
theorem cks_mem {n i : Nat} {C : Nat → Option (List UInt8)} : i ∈ cks n C ↔ i < n ∧ (C i).isSome = true := by simp [cks]
theorem cks_get {n k a : Nat} {C : Nat → Option (List UInt8)} (h : (cks n C)[k]? = some a) : a < n ∧ (C a).isSome = true ∧ rank C a = k := by
  induction n with
  | zero => simp [cks] at h
  | succ n ih =>
    rw [cks_succ, List.getElem?_append] at h
    split at h
    · obtain ⟨h1, h2, h3⟩ := ih h
      exact ⟨by omega, h2, h3⟩
    · rename_i hk
      cases hc : (C n).isSome
      · simp [hc] at h
      · simp only [hc, if_true] at h
        have h0 : k - (cks n C).length = 0 := by
          rcases Nat.eq_zero_or_pos (k - (cks n C).length) with h' | h'
          · exact h'
          · rw [List.getElem?_eq_none (by simp; omega)] at h; cases h
        rw [h0] at h
        simp at h
        subst h
        exact ⟨by omega, hc, by unfold rank; omega⟩
theorem rank_get {n i : Nat} {C : Nat → Option (List UInt8)} (hi : i < n) (hc : (C i).isSome = true) : (cks n C)[rank C i]? = some i := by
  induction n with
  | zero => omega
  | succ n ih =>
    rw [cks_succ, List.getElem?_append]
    rcases Nat.lt_or_ge i n with h | h
    · have h1 := ih h
      rw [if_pos (List.getElem?_eq_some_iff.1 h1).1]
      exact h1
    · obtain rfl : i = n := by omega
      unfold rank
      rw [if_neg (by omega)]
      simp [hc]
theorem rank_lt {n i : Nat} {C : Nat → Option (List UInt8)} (hi : i < n) (hc : (C i).isSome = true) : rank C i < (cks n C).length := (List.getElem?_eq_some_iff.1 (rank_get hi hc)).1

/-- The sectors once the first k cached ones are through. -/
def cut (C : Nat → Option (List UInt8)) (keep : Nat → Bool) (k : Nat) (S : Nat → List UInt8) : Nat → List UInt8 := fun i =>
  match C i with
  | some s => if rank C i < k ∧ keep (rank C i) = true then s else S i
  | none => S i
/-- What is on the disk after a crash. -/
def crash (C : Nat → Option (List UInt8)) (keep : Nat → Bool) (S : Nat → List UInt8) : Nat → List UInt8 := fun i =>
  match C i with
  | some s => if keep (rank C i) = true then s else S i
  | none => S i
theorem cut_zero (C : Nat → Option (List UInt8)) (keep : Nat → Bool) (S : Nat → List UInt8) : cut C keep 0 S = S := by
  funext i
  unfold cut
  cases C i <;> simp
theorem cut_succ {C : Nat → Option (List UInt8)} {keep : Nat → Bool} {n k a : Nat} {S : Nat → List UInt8} {s : List UInt8} (hk : (cks n C)[k]? = some a) (hs : C a = some s) :
    ∀ i, i < n → cut C keep (k + 1) S i = (if keep k = true then upd (cut C keep k S) a s else cut C keep k S) i := by
  intro i hi
  obtain ⟨h1, h2, h3⟩ := cks_get hk
  by_cases hia : i = a
  · subst hia
    unfold cut
    cases hkk : keep k
    · simp only [hs, h3, hkk]; simp [hs, h3, hkk]
    · simp only [hs, h3, hkk]; simp [hs, h3, upd]
  · have : rank C i ≠ k ∨ C i = none := by
      cases hc : C i with
      | none => exact .inr rfl
      | some t =>
        refine .inl fun e => hia ?_
        have h4 := rank_get (C := C) hi (by rw [hc]; rfl)
        rw [e, hk] at h4
        exact (Option.some.inj h4).symm
    have hb : (if keep k = true then upd (cut C keep k S) a s else cut C keep k S) i = cut C keep k S i := by
      cases keep k
      · rfl
      · simp [upd, hia]
    rw [hb]
    unfold cut
    cases hc : C i with
    | none => rfl
    | some t =>
      simp only
      rcases this with h5 | h5
      · have : (rank C i < k + 1) = (rank C i < k) := by simp; omega
        simp only [this]
      · rw [hc] at h5; cases h5
theorem cut_end {C : Nat → Option (List UInt8)} {keep : Nat → Bool} {n : Nat} {S : Nat → List UInt8} : ∀ i, i < n → cut C keep (cks n C).length S i = crash C keep S i := by
  intro i hi
  unfold cut crash
  cases hc : C i with
  | none => rfl
  | some s =>
    have := rank_lt hi (C := C) (by rw [hc]; rfl)
    simp [this]
/-- Cached sectors below n have 256 bytes. -/
def COk (n : Nat) (C : Nat → Option (List UInt8)) : Prop := ∀ i, i < n → ∀ s, C i = some s → s.length = 256
theorem COk.upd {n i : Nat} {C : Nat → Option (List UInt8)} (h : COk n C) {s : List UInt8} (hs : s.length = 256) : COk n (upd C i (some s)) := fun j hj t ht => by
  unfold Ytfhjcfoecmbhkaa.upd at ht
  split at ht
  · cases ht; exact hs
  · exact h j hj t ht
theorem SOk.crash {n : Nat} {S : Nat → List UInt8} {C : Nat → Option (List UInt8)} (h : SOk n S) (hc : COk n C) (keep : Nat → Bool) : SOk n (crash C keep S) := fun i hi => by
  unfold Ytfhjcfoecmbhkaa.crash
  split
  · rename_i s hs
    split
    · exact hc i hi s hs
    · exact h i hi
  · exact h i hi
theorem SOk.cut {n k : Nat} {S : Nat → List UInt8} {C : Nat → Option (List UInt8)} (h : SOk n S) (hc : COk n C) (keep : Nat → Bool) : SOk n (cut C keep k S) := fun i hi => by
  unfold Ytfhjcfoecmbhkaa.cut
  split
  · rename_i s hs
    split
    · exact hc i hi s hs
    · exact h i hi
  · exact h i hi

/-! ### the map -/
/-- A map's element as a token: the value itself. -/
def tokR (v : Value) : Option (DataW Value × List MemPlace) := some (.held v, [])
/-- A place as a key. -/
def ky (i : Nat) : Lit := .int .i64 (i : Int)
theorem ky_key (i : Nat) : WideAt.IsKeyLit (ky i) := trivial
theorem ky_ne {i j : Nat} (h : i ≠ j) : ky i ≠ ky j := fun e => h (by unfold ky at e; injection e with _ e; omega)
theorem ky_of {i : Nat} (hi : i ≤ 1000000000) : keyOf Try.prog 3 (.int .i64 (i : Int)) = some (ky i) := by
  refine keyOf_int_mk Try.underlying3 ?_
  exact WalkArith.wf_i64 (by omega)
/-- The cache, as the map reads. -/
structure CAs (D : DataW Value) (n : Nat) (C : Nat → Option (List UInt8)) : Prop where
  has : ∀ i, i < n → Maps.has D (ky i) = (C i).isSome
  at_ : ∀ i s, i < n → C i = some s → ∀ z, D.atKey (ky i) z = .held (.agg (bcs s).toArray)
  only : ∀ kl, Maps.has D kl = true → ∃ i, i < n ∧ kl = ky i
theorem CAs.empty (n : Nat) : CAs (.map []) n (fun _ => none) := ⟨fun i hi => rfl, fun i s hi h => (by cases h), fun kl h => (by simp [Maps.has] at h)⟩
theorem CAs.put {D : DataW Value} {n i : Nat} {C : Nat → Option (List UInt8)} (h : CAs D n C) (hD : IsMap D) (hi : i < n) (s : List UInt8) : CAs (D.put (ky i) (.held (.agg (bcs s).toArray))) n (upd C i (some s)) := by
  refine ⟨fun j hj => ?_, fun j t hj ht z => ?_, fun kl hk => ?_⟩
  · by_cases e : j = i
    · subst e
      rw [has_put_same hD (ky_key j), upd_same]; rfl
    · rw [has_put_other (ky_ne e), upd_ne _ _ e]
      exact h.has j hj
  · by_cases e : j = i
    · subst e
      rw [upd_same] at ht
      cases ht
      exact atKey_put_same hD (ky_key j) _ _
    · rw [upd_ne _ _ e] at ht
      rw [atKey_put_other (ky_ne e)]
      exact h.at_ j t hj ht z
  · by_cases e : kl = ky i
    · exact ⟨i, hi, e⟩
    · rw [has_put_other e] at hk
      exact h.only kl hk
theorem CAs.keys {D : DataW Value} {n : Nat} {C : Nat → Option (List UInt8)} (h : CAs D n C) (hD : Canon D) : ((cks n C).map fun i : Nat => (i : Int)).Perm (intKeys D) := by
  obtain ⟨es, rfl, hp, hkl⟩ := hD
  refine perm_intKeys (apart_of_rising hp) (fun p hp' => ?_) ?_ fun x => ?_
  · obtain ⟨i, _, e⟩ := h.only p.1 (List.any_eq_true.2 ⟨p, hp', WideAt.sameKey_self (hkl p hp')⟩)
    exact ⟨_, e⟩
  · refine List.pairwise_map.2 (((List.nodup_range (n := n)).filter _).imp ?_)
    intro a b hab e
    exact hab (by omega)
  · constructor
    · intro hx
      obtain ⟨i, hi, rfl⟩ := List.mem_map.1 hx
      obtain ⟨h1, h2⟩ := cks_mem.1 hi
      exact (h.has i h1).trans h2
    · intro hx
      obtain ⟨i, hi, e⟩ := h.only _ hx
      unfold ky at e
      injection e with _ e
      subst e
      exact List.mem_map.2 ⟨i, cks_mem.2 ⟨hi, by rw [← h.has i hi]; exact hx⟩, rfl⟩
theorem cks_sorted (n : Nat) (C : Nat → Option (List UInt8)) : (((cks n C).map fun i : Nat => (i : Int)).mergeSort (fun x y => decide (x ≤ y))) = (cks n C).map fun i : Nat => (i : Int) := by
  refine List.mergeSort_of_pairwise ?_
  refine List.pairwise_map.2 (((List.pairwise_lt_range (n := n)).filter _).imp ?_)
  intro a b hab
  simp
  omega
end Go.Proofs.Ytfhjcfoecmbhkaa
