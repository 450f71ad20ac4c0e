/- The group of a twisted Edwards curve, over residues modulo any n that make a field. No statement is proved here. -/
import Derived.Test.YtgdimnbdnepbgaaNU
namespace Go.Proofs.Ytgdimnbdnepbgaa
set_option linter.unusedVariables false

/-- A field with a root of -1, and a d that is no square. -/
structure Ed (n : Nat) [NeZero n] where
  inv : Fin n → Fin n
  d : Fin n
  i : Fin n
  nz : ∀ a b : Fin n, a * b = 0 → a = 0 ∨ b = 0
  hinv : ∀ a : Fin n, a ≠ 0 → a * inv a = 1
  hi : i * i = -1
  h1 : (1 : Fin n) ≠ 0
  h2 : (1 + 1 : Fin n) ≠ 0
  hd : ∀ x : Fin n, x * x ≠ d
namespace Ed
variable {n : Nat} [NeZero n]
theorem cancel (E : Ed n) {a b c : Fin n} (ha : a ≠ 0) (h : a * b = a * c) : b = c := by
  have h0 : a * (b - c) = 0 := by grind
  rcases E.nz _ _ h0 with h | h
  · exact absurd h ha
  · grind
theorem mul_ne (E : Ed n) {a b : Fin n} (ha : a ≠ 0) (hb : b ≠ 0) : a * b ≠ 0 := fun h => by
  rcases E.nz _ _ h with h | h
  · exact ha h
  · exact hb h
theorem inv_one (E : Ed n) : E.inv 1 = 1 := by
  have := E.hinv 1 E.h1
  grind
theorem inv_mul (E : Ed n) {a b : Fin n} (ha : a ≠ 0) (hb : b ≠ 0) : b * E.inv (a * b) = E.inv a := by
  have h1 := E.hinv _ (E.mul_ne ha hb)
  have h2 := E.hinv _ ha
  apply E.cancel ha
  grind
/-- On the curve. -/
def On (E : Ed n) (x y : Fin n) : Prop := y * y - x * x = 1 + E.d * (x * x * (y * y))
theorem no_root (E : Ed n) {w s u : Fin n} (h : w * w = E.d * (s * u) * (s * u)) (hs : s ≠ 0) (hu : u ≠ 0) : False := by
  have hsu := E.mul_ne hs hu
  have h1 := E.hinv _ hsu
  refine E.hd (w * E.inv (s * u)) ?_
  have : (w * E.inv (s * u)) * (w * E.inv (s * u)) = (w * w) * (E.inv (s * u) * E.inv (s * u)) := by grind
  rw [this, h]
  grind
/-- The denominators are never 0. -/
theorem full (E : Ed n) {x1 y1 x2 y2 e : Fin n} (h1 : E.On x1 y1) (h2 : E.On x2 y2) (he : e * e = 1) : E.d * (x1 * y1 * (x2 * y2)) ≠ e := by
  intro h
  unfold On at h1 h2
  have he0 : e ≠ 0 := fun h0 => E.h1 (by rw [← he, h0]; grind)
  have hs : x1 * y1 ≠ 0 := fun h0 => he0 (by rw [← h, h0]; grind)
  have ht : x2 * y2 ≠ 0 := fun h0 => he0 (by rw [← h, h0]; grind)
  have hii := E.hi
  have a1 : (E.i * x1 + e * y1) * (E.i * x1 + e * y1) = E.d * (x1 * y1 * (E.i * x2 + y2)) * (x1 * y1 * (E.i * x2 + y2)) := by grind
  have a2 : (E.i * x1 - e * y1) * (E.i * x1 - e * y1) = E.d * (x1 * y1 * (E.i * x2 - y2)) * (x1 * y1 * (E.i * x2 - y2)) := by grind
  have b1 : E.i * x2 + y2 = 0 := Classical.byContradiction fun hu => E.no_root a1 hs hu
  have b2 : E.i * x2 - y2 = 0 := Classical.byContradiction fun hu => E.no_root a2 hs hu
  have b3 : (1 + 1) * y2 = 0 := by grind
  rcases E.nz _ _ b3 with h0 | h0
  · exact E.h2 h0
  · exact ht (by rw [h0]; grind)
theorem den1 (E : Ed n) {x1 y1 x2 y2 : Fin n} (h1 : E.On x1 y1) (h2 : E.On x2 y2) : 1 + E.d * (x1 * y1 * (x2 * y2)) ≠ 0 := fun h => E.full h1 h2 (e := -1) (by grind) (by grind)
theorem den2 (E : Ed n) {x1 y1 x2 y2 : Fin n} (h1 : E.On x1 y1) (h2 : E.On x2 y2) : 1 - E.d * (x1 * y1 * (x2 * y2)) ≠ 0 := fun h => E.full h1 h2 (e := 1) (by grind) (by grind)
/-- The sum. -/
def sx (E : Ed n) (x1 y1 x2 y2 : Fin n) : Fin n := (x1 * y2 + y1 * x2) * E.inv (1 + E.d * (x1 * y1 * (x2 * y2)))
def sy (E : Ed n) (x1 y1 x2 y2 : Fin n) : Fin n := (y1 * y2 + x1 * x2) * E.inv (1 - E.d * (x1 * y1 * (x2 * y2)))
theorem sx_eq (E : Ed n) {x1 y1 x2 y2 : Fin n} (h1 : E.On x1 y1) (h2 : E.On x2 y2) : E.sx x1 y1 x2 y2 * (1 + E.d * (x1 * y1 * (x2 * y2))) = x1 * y2 + y1 * x2 := by
  have := E.hinv _ (E.den1 h1 h2)
  unfold sx
  generalize E.inv (1 + E.d * (x1 * y1 * (x2 * y2))) = v at *
  grind
theorem sy_eq (E : Ed n) {x1 y1 x2 y2 : Fin n} (h1 : E.On x1 y1) (h2 : E.On x2 y2) : E.sy x1 y1 x2 y2 * (1 - E.d * (x1 * y1 * (x2 * y2))) = y1 * y2 + x1 * x2 := by
  have := E.hinv _ (E.den2 h1 h2)
  unfold sy
  generalize E.inv (1 - E.d * (x1 * y1 * (x2 * y2))) = v at *
  grind
theorem clos {x1 y1 x2 y2 d : Fin n} (h1 : y1*y1 - x1*x1 = 1 + d*(x1*x1*(y1*y1))) (h2 : y2*y2 - x2*x2 = 1 + d*(x2*x2*(y2*y2))) :
  (y1*y2+x1*x2)*(y1*y2+x1*x2)*(1+d*(x1*y1*(x2*y2)))*(1+d*(x1*y1*(x2*y2))) - (x1*y2+y1*x2)*(x1*y2+y1*x2)*(1-d*(x1*y1*(x2*y2)))*(1-d*(x1*y1*(x2*y2)))
   = (1-d*(x1*y1*(x2*y2)))*(1-d*(x1*y1*(x2*y2)))*(1+d*(x1*y1*(x2*y2)))*(1+d*(x1*y1*(x2*y2))) + d * (y1*y2+x1*x2)*(y1*y2+x1*x2)*(x1*y2+y1*x2)*(x1*y2+y1*x2) := by grind
theorem On_sum (E : Ed n) {x1 y1 x2 y2 : Fin n} (h1 : E.On x1 y1) (h2 : E.On x2 y2) : E.On (E.sx x1 y1 x2 y2) (E.sy x1 y1 x2 y2) := by
  have e1 := E.sx_eq h1 h2
  have e2 := E.sy_eq h1 h2
  have d1 := E.den1 h1 h2
  have d2 := E.den2 h1 h2
  have k := clos h1 h2
  rw [← e1, ← e2] at k
  unfold On
  generalize E.sx x1 y1 x2 y2 = X at *
  generalize E.sy x1 y1 x2 y2 = Y at *
  generalize 1 + E.d * (x1 * y1 * (x2 * y2)) = B at *
  generalize 1 - E.d * (x1 * y1 * (x2 * y2)) = D at *
  apply E.cancel (E.mul_ne (E.mul_ne d1 d2) (E.mul_ne d1 d2))
  clear e1 e2 h1 h2 d1 d2
  grind
theorem comm_x (E : Ed n) (x1 y1 x2 y2 : Fin n) : E.sx x1 y1 x2 y2 = E.sx x2 y2 x1 y1 := by
  unfold sx
  rw [show x1 * y1 * (x2 * y2) = x2 * y2 * (x1 * y1) by grind, show x1 * y2 + y1 * x2 = x2 * y1 + y2 * x1 by grind]
theorem comm_y (E : Ed n) (x1 y1 x2 y2 : Fin n) : E.sy x1 y1 x2 y2 = E.sy x2 y2 x1 y1 := by
  unfold sy
  rw [show x1 * y1 * (x2 * y2) = x2 * y2 * (x1 * y1) by grind, show y1 * y2 + x1 * x2 = y2 * y1 + x2 * x1 by grind]
theorem assoc_px {x1 y1 x2 y2 x3 y3 d : Fin n} (h1 : y1*y1 - x1*x1 = 1 + d*(x1*x1*(y1*y1))) (h2 : y2*y2 - x2*x2 = 1 + d*(x2*x2*(y2*y2))) (h3 : y3*y3 - x3*x3 = 1 + d*(x3*x3*(y3*y3))) :
  ((x1*y2+y1*x2) * (1-d*(x1*y1*(x2*y2))) * y3 + (y1*y2+x1*x2)*(1+d*(x1*y1*(x2*y2)))*x3) * ((1+d*(x2*y2*(x3*y3)))*(1-d*(x2*y2*(x3*y3))) + d*(x1*y1)*(x2*y3+y2*x3)*(y2*y3+x2*x3)) =
  (x1*(y2*y3+x2*x3)*(1+d*(x2*y2*(x3*y3))) + y1*(x2*y3+y2*x3)*(1-d*(x2*y2*(x3*y3)))) * ((1+d*(x1*y1*(x2*y2)))*(1-d*(x1*y1*(x2*y2))) + d * (x1*y2+y1*x2)*(y1*y2+x1*x2)*(x3*y3)) := by grind
theorem assoc_py {x1 y1 x2 y2 x3 y3 d : Fin n} (h1 : y1*y1 - x1*x1 = 1 + d*(x1*x1*(y1*y1))) (h2 : y2*y2 - x2*x2 = 1 + d*(x2*x2*(y2*y2))) (h3 : y3*y3 - x3*x3 = 1 + d*(x3*x3*(y3*y3))) :
  ((y1*y2+x1*x2)*(1+d*(x1*y1*(x2*y2)))*y3 + (x1*y2+y1*x2) * (1-d*(x1*y1*(x2*y2))) * x3) * ((1+d*(x2*y2*(x3*y3)))*(1-d*(x2*y2*(x3*y3))) - d*(x1*y1)*(x2*y3+y2*x3)*(y2*y3+x2*x3)) =
  (y1*(y2*y3+x2*x3)*(1+d*(x2*y2*(x3*y3))) + x1*(x2*y3+y2*x3)*(1-d*(x2*y2*(x3*y3)))) * ((1+d*(x1*y1*(x2*y2)))*(1-d*(x1*y1*(x2*y2))) - d * (x1*y2+y1*x2)*(y1*y2+x1*x2)*(x3*y3)) := by grind
/-- From two quotients to the sum of both with a third point. -/
theorem quot {A B C D X Y x y e S : Fin n} (hB : B ≠ 0) (hD : D ≠ 0) (e1 : X * B = A) (e2 : Y * D = C) (hM : S * (1 + e * (X * Y * (x * y))) = X * y + Y * x) : S * (B * D + e * A * C * (x * y)) = A * D * y + C * B * x := by
  subst e1
  subst e2
  have : S * (B * D + e * (X * B) * (Y * D) * (x * y)) = B * D * (S * (1 + e * (X * Y * (x * y)))) := by grind
  rw [this, hM]
  grind
theorem quot2 {A B C D X Y x y e S : Fin n} (e1 : X * B = A) (e2 : Y * D = C) (hM : S * (1 - e * (X * Y * (x * y))) = Y * y + X * x) : S * (B * D - e * A * C * (x * y)) = C * B * y + A * D * x := by
  subst e1
  subst e2
  have : S * (B * D - e * (X * B) * (Y * D) * (x * y)) = B * D * (S * (1 - e * (X * Y * (x * y)))) := by grind
  rw [this, hM]
  grind
theorem cross (E : Ed n) {S T M1 M2 N1 N2 : Fin n} (h1 : M1 ≠ 0) (h2 : M2 ≠ 0) (e1 : S * M1 = N1) (e2 : T * M2 = N2) (h : N1 * M2 = N2 * M1) : S = T := by
  subst e1
  subst e2
  apply E.cancel (E.mul_ne h1 h2)
  grind
theorem denq (E : Ed n) {A B C D X Y x y e : Fin n} (hB : B ≠ 0) (hD : D ≠ 0) (e1 : X * B = A) (e2 : Y * D = C) (h : 1 + e * (X * Y * (x * y)) ≠ 0) : B * D + e * A * C * (x * y) ≠ 0 := by
  subst e1
  subst e2
  have : B * D + e * (X * B) * (Y * D) * (x * y) = B * D * (1 + e * (X * Y * (x * y))) := by grind
  rw [this]
  exact E.mul_ne (E.mul_ne hB hD) h
theorem denq2 (E : Ed n) {A B C D X Y x y e : Fin n} (hB : B ≠ 0) (hD : D ≠ 0) (e1 : X * B = A) (e2 : Y * D = C) (h : 1 - e * (X * Y * (x * y)) ≠ 0) : B * D - e * A * C * (x * y) ≠ 0 := by
  subst e1
  subst e2
  have : B * D - e * (X * B) * (Y * D) * (x * y) = B * D * (1 - e * (X * Y * (x * y))) := by grind
  rw [this]
  exact E.mul_ne (E.mul_ne hB hD) h
theorem assoc_x (E : Ed n) {x1 y1 x2 y2 x3 y3 : Fin n} (h1 : E.On x1 y1) (h2 : E.On x2 y2) (h3 : E.On x3 y3) :
    E.sx (E.sx x1 y1 x2 y2) (E.sy x1 y1 x2 y2) x3 y3 = E.sx x1 y1 (E.sx x2 y2 x3 y3) (E.sy x2 y2 x3 y3) := by
  have o4 := E.On_sum h1 h2
  have o5 := E.On_sum h2 h3
  have q4 := quot (E.den1 h1 h2) (E.den2 h1 h2) (E.sx_eq h1 h2) (E.sy_eq h1 h2) (E.sx_eq o4 h3)
  have n4 := E.denq (E.den1 h1 h2) (E.den2 h1 h2) (E.sx_eq h1 h2) (E.sy_eq h1 h2) (E.den1 o4 h3)
  have q5 := quot (E.den1 h2 h3) (E.den2 h2 h3) (E.sx_eq h2 h3) (E.sy_eq h2 h3) (E.sx_eq o5 h1)
  have n5 := E.denq (E.den1 h2 h3) (E.den2 h2 h3) (E.sx_eq h2 h3) (E.sy_eq h2 h3) (E.den1 o5 h1)
  rw [E.comm_x x1 y1 (E.sx x2 y2 x3 y3) (E.sy x2 y2 x3 y3)]
  refine E.cross n4 n5 q4 q5 ?_
  have p := assoc_px h1 h2 h3
  clear q4 n4 q5 n5 o4 o5 h1 h2 h3
  generalize 1 + E.d * (x1 * y1 * (x2 * y2)) = B at *
  generalize 1 - E.d * (x1 * y1 * (x2 * y2)) = D at *
  generalize 1 + E.d * (x2 * y2 * (x3 * y3)) = B' at *
  generalize 1 - E.d * (x2 * y2 * (x3 * y3)) = D' at *
  generalize x1 * y2 + y1 * x2 = A at *
  generalize y1 * y2 + x1 * x2 = C at *
  generalize x2 * y3 + y2 * x3 = A' at *
  generalize y2 * y3 + x2 * x3 = C' at *
  grind
theorem assoc_y (E : Ed n) {x1 y1 x2 y2 x3 y3 : Fin n} (h1 : E.On x1 y1) (h2 : E.On x2 y2) (h3 : E.On x3 y3) :
    E.sy (E.sx x1 y1 x2 y2) (E.sy x1 y1 x2 y2) x3 y3 = E.sy x1 y1 (E.sx x2 y2 x3 y3) (E.sy x2 y2 x3 y3) := by
  have o4 := E.On_sum h1 h2
  have o5 := E.On_sum h2 h3
  have q4 := quot2 (E.sx_eq h1 h2) (E.sy_eq h1 h2) (E.sy_eq o4 h3)
  have n4 := E.denq2 (E.den1 h1 h2) (E.den2 h1 h2) (E.sx_eq h1 h2) (E.sy_eq h1 h2) (E.den2 o4 h3)
  have q5 := quot2 (E.sx_eq h2 h3) (E.sy_eq h2 h3) (E.sy_eq o5 h1)
  have n5 := E.denq2 (E.den1 h2 h3) (E.den2 h2 h3) (E.sx_eq h2 h3) (E.sy_eq h2 h3) (E.den2 o5 h1)
  rw [E.comm_y x1 y1 (E.sx x2 y2 x3 y3) (E.sy x2 y2 x3 y3)]
  refine E.cross n4 n5 q4 q5 ?_
  have p := assoc_py h1 h2 h3
  clear q4 n4 q5 n5 o4 o5 h1 h2 h3
  generalize 1 + E.d * (x1 * y1 * (x2 * y2)) = B at *
  generalize 1 - E.d * (x1 * y1 * (x2 * y2)) = D at *
  generalize 1 + E.d * (x2 * y2 * (x3 * y3)) = B' at *
  generalize 1 - E.d * (x2 * y2 * (x3 * y3)) = D' at *
  generalize x1 * y2 + y1 * x2 = A at *
  generalize y1 * y2 + x1 * x2 = C at *
  generalize x2 * y3 + y2 * x3 = A' at *
  generalize y2 * y3 + x2 * x3 = C' at *
  grind
theorem On_zero (E : Ed n) : E.On 0 1 := by unfold On; grind
theorem zero_x (E : Ed n) (x y : Fin n) : E.sx x y 0 1 = x := by
  unfold sx
  rw [show x * y * (0 * 1) = 0 by grind, show (1 + E.d * 0 : Fin n) = 1 by grind, E.inv_one]
  grind
theorem zero_y (E : Ed n) (x y : Fin n) : E.sy x y 0 1 = y := by
  unfold sy
  rw [show x * y * (0 * 1) = 0 by grind, show (1 - E.d * 0 : Fin n) = 1 by grind, E.inv_one]
  grind
theorem On_neg (E : Ed n) {x y : Fin n} (h : E.On x y) : E.On (-x) y := by unfold On at *; grind
theorem neg_x (E : Ed n) (x y : Fin n) : E.sx x y (-x) y = 0 := by
  unfold sx
  rw [show x * y + y * -x = 0 by grind]
  grind
theorem neg_y (E : Ed n) {x y : Fin n} (h : E.On x y) : E.sy x y (-x) y = 1 := by
  have h2 := E.hinv _ (E.den2 h (E.On_neg h))
  unfold sy
  have e : y * y + x * -x = 1 - E.d * (x * y * (-x * y)) := by unfold On at h; grind
  rw [e]
  exact h2

/-- Points. -/
def Pt (E : Ed n) : Type := { p : Fin n × Fin n // E.On p.1 p.2 }
def add (E : Ed n) (p q : E.Pt) : E.Pt := ⟨(E.sx p.1.1 p.1.2 q.1.1 q.1.2, E.sy p.1.1 p.1.2 q.1.1 q.1.2), E.On_sum p.2 q.2⟩
def zero (E : Ed n) : E.Pt := ⟨(0, 1), E.On_zero⟩
def neg (E : Ed n) (p : E.Pt) : E.Pt := ⟨(-p.1.1, p.1.2), E.On_neg p.2⟩
theorem add_comm (E : Ed n) (p q : E.Pt) : E.add p q = E.add q p := Subtype.ext (Prod.ext (E.comm_x ..) (E.comm_y ..))
theorem add_assoc (E : Ed n) (p q r : E.Pt) : E.add (E.add p q) r = E.add p (E.add q r) := Subtype.ext (Prod.ext (E.assoc_x p.2 q.2 r.2) (E.assoc_y p.2 q.2 r.2))
theorem add_zero (E : Ed n) (p : E.Pt) : E.add p E.zero = p := Subtype.ext (Prod.ext (E.zero_x ..) (E.zero_y ..))
theorem zero_add (E : Ed n) (p : E.Pt) : E.add E.zero p = p := by rw [E.add_comm, E.add_zero]
theorem add_neg (E : Ed n) (p : E.Pt) : E.add p (E.neg p) = E.zero := Subtype.ext (Prod.ext (E.neg_x ..) (E.neg_y p.2))
theorem neg_add (E : Ed n) (p : E.Pt) : E.add (E.neg p) p = E.zero := by rw [E.add_comm, E.add_neg]
theorem add_neg_cancel (E : Ed n) (p q : E.Pt) : E.add (E.add p q) (E.neg p) = q := by rw [E.add_comm p q, E.add_assoc, E.add_neg, E.add_zero]
theorem neg_uniq (E : Ed n) {p q : E.Pt} (h : E.add p q = E.zero) : q = E.neg p := by
  have := congrArg (fun z => E.add z (E.neg p)) h
  simp only [E.add_neg_cancel, E.zero_add] at this
  exact this
theorem neg_sum (E : Ed n) (p q : E.Pt) : E.neg (E.add p q) = E.add (E.neg p) (E.neg q) := by
  refine (E.neg_uniq ?_).symm
  rw [E.add_assoc, ← E.add_assoc q, E.add_comm q, E.add_assoc (E.neg p), E.add_neg, E.add_zero, E.add_neg]
end Ed
end Go.Proofs.Ytgdimnbdnepbgaa
