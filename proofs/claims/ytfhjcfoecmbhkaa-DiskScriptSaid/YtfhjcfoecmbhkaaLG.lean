/- Bytes as a string; a disk behind a list of calls. No statement is proved here. -/
import Derived.Test.YtfhjcfoecmbhkaaLF
import Derived.WalkSpells
namespace Go.Proofs.Ytfhjcfoecmbhkaa
open Go.RowKit Go.Maps
set_option linter.unusedVariables false
set_option linter.unusedSimpArgs false
/-- A source as a string. -/
theorem conv_src {w : World} {S : Nat → Prop} {A : Option Addr} {n c : Nat} {l : List UInt8} (h : Src w S A n (bcs l)) : (convert 27 9 (.slice A n c)).run Try.prog w = .ok (.string ⟨l.toArray⟩) w := by
  have hl : l.length = n := by have := h.len; rw [bcs_len] at this; exact this
  subst hl
  rcases A with _ | ad
  · have h0 : l = [] := by
      rcases Nat.eq_zero_or_pos l.length with h0 | h0
      · exact List.eq_nil_of_length_eq_zero h0
      · obtain ⟨b, o, e, _⟩ := h.lies h0
        cases e
    subst h0
    have := run_convert_bytes_string (P := Try.prog) w 27 9 5 none 0 c Try.underlying27 Try.underlying5 Try.underlying9
    rw [show ([] : List UInt8).length = 0 from rfl, this]
    rfl
  · refine run_convert_bytes_back w 27 9 5 ad c l Try.underlying27 Try.underlying5 Try.underlying9 fun j hj => ?_
    obtain ⟨b, o, e, _, hc⟩ := h.lies (by omega)
    injection e with e
    subst e
    rw [show (⟨b, o, none⟩ : Addr).add j = ⟨b, o + j, none⟩ from by unfold Addr.add; split <;> simp_all, hc j hj, bcs_get, List.getElem?_eq_getElem hj]
    rfl
theorem new_at (w : World) (z : Int) (n : Nat) (hz : z = (n : Int)) (n1 : 1 ≤ n) (n2 : n ≤ 16384) :
    Calls Try.prog 8 #[.int .i64 z] w fun e w' => ∃ p, e = .returned (.tuple #[.pointer (some ⟨p, 0, none⟩), .int .i64 0]) ∧ Dk w' w.heap.size w'.heap.size p n (fun _ => zs 256) (fun _ => none) ∧ Below w.heap.size w w' := by
  subst hz
  exact new_any w n n1 n2
/-- A disk behind calls. -/
def runA (n : Nat) (l : List ActV) (s : (Nat → List UInt8) × (Nat → Option (List UInt8))) : (Nat → List UInt8) × (Nat → Option (List UInt8)) := l.foldl (fun s v => stepA n v s) s
theorem runA_zero (n : Nat) (l : List ActV) (s : (Nat → List UInt8) × (Nat → Option (List UInt8))) : runA n (l.take 0) s = s := rfl
theorem runA_succ {n i : Nat} {l : List ActV} {v : ActV} (s : (Nat → List UInt8) × (Nat → Option (List UInt8))) (h : l[i]? = some v) : runA n (l.take (i + 1)) s = stepA n v (runA n (l.take i) s) := by
  obtain ⟨hi, rfl⟩ := List.getElem?_eq_some_iff.1 h
  unfold runA
  rw [List.take_succ_eq_append_getElem hi, List.foldl_append]
  rfl
theorem runA_all (n : Nat) (l : List ActV) (s : (Nat → List UInt8) × (Nat → Option (List UInt8))) : runA n (l.take l.length) s = runA n l s := by rw [List.take_length]
theorem Dk.lo_hi {w : World} {lo hi p n : Nat} {S : Nat → List UInt8} {C : Nat → Option (List UInt8)} (h : Dk w lo hi p n S C) : lo < hi := by
  obtain ⟨bs, bm, cap, cur, D, h⟩ := h
  have := h.p1
  omega
/-- A disk of the call's own, and what is older. -/
structure Lp (w0 w : World) (lo hi p n : Nat) (s : (Nat → List UInt8) × (Nat → Option (List UInt8))) : Prop where
  d : Dk w lo hi p n s.1 s.2
  b : Below w0.heap.size w0 w
  lo : w0.heap.size ≤ lo
theorem Lp.below {w0 w w' : World} {lo hi p n : Nat} {s : (Nat → List UInt8) × (Nat → Option (List UInt8))} (h : Lp w0 w lo hi p n s) (hb : Below w.heap.size w w') : Lp w0 w' lo hi p n s :=
  ⟨h.d.below hb, h.b.trans (hb.mono h.b.size), h.lo⟩
/-- A call of it. -/
theorem Lp.do_ {w0 w : World} {lo hi p n : Nat} {s : (Nat → List UInt8) × (Nat → Option (List UInt8))} (h : Lp w0 w lo hi p n s) (v : ActV) (hv : v.Ok w0) (hkn : v.kn ≤ 80) :
    Calls Try.prog 30 #[.pointer (some ⟨p, 0, none⟩), .agg v.cells.toArray] w fun e w' => e = .returned (.tuple #[]) ∧ Lp w0 w' lo hi p n (stepA n v s) ∧ Keeps (fun b => lo ≤ b ∧ b < hi) w w' := by
  refine (do_any h.d v (hv.below h.b) hkn).mono ?_
  rintro e w' ⟨rfl, hd, hk⟩
  have := h.lo
  exact ⟨rfl, ⟨hd, h.b.trans (hk.below h.b.size (fun k hk => by omega)), h.lo⟩, hk⟩
end Go.Proofs.Ytfhjcfoecmbhkaa
