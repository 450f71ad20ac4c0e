/- Several texts in one. No statement is proved here. -/
import Derived.Test.YtgdimnbdnepbgaaNU
import Derived.Test.YtgdimnbdnepbgaaE1
import Derived.Test.YtgdimnbdnepbgaaE2
/- The group of a twisted Edwards curve, over residues modulo any n that make a field. No statement is proved here. -/
namespace Go.Proofs.Ytgdimnbdnepbgaa
set_option linter.unusedVariables false

/-- A field with a root of -1, and a d that is no square. -/
structure Ed (n : Nat) [NeZero n] where
  inv : Fin n → Fin n
  d : Fin n
  i : Fin n
  nz : ∀ a b : Fin n, a * b = 0 → a = 0 ∨ b = 0
  hinv : ∀ a : Fin n, a ≠ 0 → a * inv a = 1
  hi : i * i = -1
  h1 : (1 : Fin n) ≠ 0
  h2 : (1 + 1 : Fin n) ≠ 0
  hd : ∀ x : Fin n, x * x ≠ d
namespace Ed
variable {n : Nat} [NeZero n]
theorem cancel (E : Ed n) {a b c : Fin n} (ha : a ≠ 0) (h : a * b = a * c) : b = c := by
  have h0 : a * (b - c) = 0 := by grind
  rcases E.nz _ _ h0 with h | h
  · exact absurd h ha
  · grind
theorem mul_ne (E : Ed n) {a b : Fin n} (ha : a ≠ 0) (hb : b ≠ 0) : a * b ≠ 0 := fun h => by
  rcases E.nz _ _ h with h | h
  · exact ha h
  · exact hb h
theorem inv_one (E : Ed n) : E.inv 1 = 1 := by
  have := E.hinv 1 E.h1
  grind
theorem inv_mul (E : Ed n) {a b : Fin n} (ha : a ≠ 0) (hb : b ≠ 0) : b * E.inv (a * b) = E.inv a := by
  have h1 := E.hinv _ (E.mul_ne ha hb)
  have h2 := E.hinv _ ha
  apply E.cancel ha
  grind
/-- On the curve. -/
def On (E : Ed n) (x y : Fin n) : Prop := y * y - x * x = 1 + E.d * (x * x * (y * y))
theorem no_root (E : Ed n) {w s u : Fin n} (h : w * w = E.d * (s * u) * (s * u)) (hs : s ≠ 0) (hu : u ≠ 0) : False := by
  have hsu := E.mul_ne hs hu
  have h1 := E.hinv _ hsu
  refine E.hd (w * E.inv (s * u)) ?_
  have : (w * E.inv (s * u)) * (w * E.inv (s * u)) = (w * w) * (E.inv (s * u) * E.inv (s * u)) := by grind
  rw [this, h]
  grind
/-- The denominators are never 0. -/
theorem full (E : Ed n) {x1 y1 x2 y2 e : Fin n} (h1 : E.On x1 y1) (h2 : E.On x2 y2) (he : e * e = 1) : E.d * (x1 * y1 * (x2 * y2)) ≠ e := by
  intro h
  unfold On at h1 h2
  have he0 : e ≠ 0 := fun h0 => E.h1 (by rw [← he, h0]; grind)
  have hs : x1 * y1 ≠ 0 := fun h0 => he0 (by rw [← h, h0]; grind)
  have ht : x2 * y2 ≠ 0 := fun h0 => he0 (by rw [← h, h0]; grind)
  have hii := E.hi
  have a1 : (E.i * x1 + e * y1) * (E.i * x1 + e * y1) = E.d * (x1 * y1 * (E.i * x2 + y2)) * (x1 * y1 * (E.i * x2 + y2)) := by grind
  have a2 : (E.i * x1 - e * y1) * (E.i * x1 - e * y1) = E.d * (x1 * y1 * (E.i * x2 - y2)) * (x1 * y1 * (E.i * x2 - y2)) := by grind
  have b1 : E.i * x2 + y2 = 0 := Classical.byContradiction fun hu => E.no_root a1 hs hu
  have b2 : E.i * x2 - y2 = 0 := Classical.byContradiction fun hu => E.no_root a2 hs hu
  have b3 : (1 + 1) * y2 = 0 := by grind
  rcases E.nz _ _ b3 with h0 | h0
  · exact E.h2 h0
  · exact ht (by rw [h0]; grind)
theorem den1 (E : Ed n) {x1 y1 x2 y2 : Fin n} (h1 : E.On x1 y1) (h2 : E.On x2 y2) : 1 + E.d * (x1 * y1 * (x2 * y2)) ≠ 0 := fun h => E.full h1 h2 (e := -1) (by grind) (by grind)
theorem den2 (E : Ed n) {x1 y1 x2 y2 : Fin n} (h1 : E.On x1 y1) (h2 : E.On x2 y2) : 1 - E.d * (x1 * y1 * (x2 * y2)) ≠ 0 := fun h => E.full h1 h2 (e := 1) (by grind) (by grind)
/-- The sum. -/
def sx (E : Ed n) (x1 y1 x2 y2 : Fin n) : Fin n := (x1 * y2 + y1 * x2) * E.inv (1 + E.d * (x1 * y1 * (x2 * y2)))
def sy (E : Ed n) (x1 y1 x2 y2 : Fin n) : Fin n := (y1 * y2 + x1 * x2) * E.inv (1 - E.d * (x1 * y1 * (x2 * y2)))
theorem sx_eq (E : Ed n) {x1 y1 x2 y2 : Fin n} (h1 : E.On x1 y1) (h2 : E.On x2 y2) : E.sx x1 y1 x2 y2 * (1 + E.d * (x1 * y1 * (x2 * y2))) = x1 * y2 + y1 * x2 := by
  have := E.hinv _ (E.den1 h1 h2)
  unfold sx
  generalize E.inv (1 + E.d * (x1 * y1 * (x2 * y2))) = v at *
  grind
theorem sy_eq (E : Ed n) {x1 y1 x2 y2 : Fin n} (h1 : E.On x1 y1) (h2 : E.On x2 y2) : E.sy x1 y1 x2 y2 * (1 - E.d * (x1 * y1 * (x2 * y2))) = y1 * y2 + x1 * x2 := by
  have := E.hinv _ (E.den2 h1 h2)
  unfold sy
  generalize E.inv (1 - E.d * (x1 * y1 * (x2 * y2))) = v at *
  grind
theorem clos {x1 y1 x2 y2 d : Fin n} (h1 : y1*y1 - x1*x1 = 1 + d*(x1*x1*(y1*y1))) (h2 : y2*y2 - x2*x2 = 1 + d*(x2*x2*(y2*y2))) :
  (y1*y2+x1*x2)*(y1*y2+x1*x2)*(1+d*(x1*y1*(x2*y2)))*(1+d*(x1*y1*(x2*y2))) - (x1*y2+y1*x2)*(x1*y2+y1*x2)*(1-d*(x1*y1*(x2*y2)))*(1-d*(x1*y1*(x2*y2)))
   = (1-d*(x1*y1*(x2*y2)))*(1-d*(x1*y1*(x2*y2)))*(1+d*(x1*y1*(x2*y2)))*(1+d*(x1*y1*(x2*y2))) + d * (y1*y2+x1*x2)*(y1*y2+x1*x2)*(x1*y2+y1*x2)*(x1*y2+y1*x2) := by grind
theorem On_sum (E : Ed n) {x1 y1 x2 y2 : Fin n} (h1 : E.On x1 y1) (h2 : E.On x2 y2) : E.On (E.sx x1 y1 x2 y2) (E.sy x1 y1 x2 y2) := by
  have e1 := E.sx_eq h1 h2
  have e2 := E.sy_eq h1 h2
  have d1 := E.den1 h1 h2
  have d2 := E.den2 h1 h2
  have k := clos h1 h2
  rw [← e1, ← e2] at k
  unfold On
  generalize E.sx x1 y1 x2 y2 = X at *
  generalize E.sy x1 y1 x2 y2 = Y at *
  generalize 1 + E.d * (x1 * y1 * (x2 * y2)) = B at *
  generalize 1 - E.d * (x1 * y1 * (x2 * y2)) = D at *
  apply E.cancel (E.mul_ne (E.mul_ne d1 d2) (E.mul_ne d1 d2))
  clear e1 e2 h1 h2 d1 d2
  grind
theorem comm_x (E : Ed n) (x1 y1 x2 y2 : Fin n) : E.sx x1 y1 x2 y2 = E.sx x2 y2 x1 y1 := by
  unfold sx
  rw [show x1 * y1 * (x2 * y2) = x2 * y2 * (x1 * y1) by grind, show x1 * y2 + y1 * x2 = x2 * y1 + y2 * x1 by grind]
theorem comm_y (E : Ed n) (x1 y1 x2 y2 : Fin n) : E.sy x1 y1 x2 y2 = E.sy x2 y2 x1 y1 := by
  unfold sy
  rw [show x1 * y1 * (x2 * y2) = x2 * y2 * (x1 * y1) by grind, show y1 * y2 + x1 * x2 = y2 * y1 + x2 * x1 by grind]
theorem assoc_px {x1 y1 x2 y2 x3 y3 d : Fin n} (h1 : y1*y1 - x1*x1 = 1 + d*(x1*x1*(y1*y1))) (h2 : y2*y2 - x2*x2 = 1 + d*(x2*x2*(y2*y2))) (h3 : y3*y3 - x3*x3 = 1 + d*(x3*x3*(y3*y3))) :
  ((x1*y2+y1*x2) * (1-d*(x1*y1*(x2*y2))) * y3 + (y1*y2+x1*x2)*(1+d*(x1*y1*(x2*y2)))*x3) * ((1+d*(x2*y2*(x3*y3)))*(1-d*(x2*y2*(x3*y3))) + d*(x1*y1)*(x2*y3+y2*x3)*(y2*y3+x2*x3)) =
  (x1*(y2*y3+x2*x3)*(1+d*(x2*y2*(x3*y3))) + y1*(x2*y3+y2*x3)*(1-d*(x2*y2*(x3*y3)))) * ((1+d*(x1*y1*(x2*y2)))*(1-d*(x1*y1*(x2*y2))) + d * (x1*y2+y1*x2)*(y1*y2+x1*x2)*(x3*y3)) := by grind
theorem assoc_py {x1 y1 x2 y2 x3 y3 d : Fin n} (h1 : y1*y1 - x1*x1 = 1 + d*(x1*x1*(y1*y1))) (h2 : y2*y2 - x2*x2 = 1 + d*(x2*x2*(y2*y2))) (h3 : y3*y3 - x3*x3 = 1 + d*(x3*x3*(y3*y3))) :
  ((y1*y2+x1*x2)*(1+d*(x1*y1*(x2*y2)))*y3 + (x1*y2+y1*x2) * (1-d*(x1*y1*(x2*y2))) * x3) * ((1+d*(x2*y2*(x3*y3)))*(1-d*(x2*y2*(x3*y3))) - d*(x1*y1)*(x2*y3+y2*x3)*(y2*y3+x2*x3)) =
  (y1*(y2*y3+x2*x3)*(1+d*(x2*y2*(x3*y3))) + x1*(x2*y3+y2*x3)*(1-d*(x2*y2*(x3*y3)))) * ((1+d*(x1*y1*(x2*y2)))*(1-d*(x1*y1*(x2*y2))) - d * (x1*y2+y1*x2)*(y1*y2+x1*x2)*(x3*y3)) := by grind
/-- From two quotients to the sum of both with a third point. -/
theorem quot {A B C D X Y x y e S : Fin n} (hB : B ≠ 0) (hD : D ≠ 0) (e1 : X * B = A) (e2 : Y * D = C) (hM : S * (1 + e * (X * Y * (x * y))) = X * y + Y * x) : S * (B * D + e * A * C * (x * y)) = A * D * y + C * B * x := by
  subst e1
  subst e2
  have : S * (B * D + e * (X * B) * (Y * D) * (x * y)) = B * D * (S * (1 + e * (X * Y * (x * y)))) := by grind
  rw [this, hM]
  grind
theorem quot2 {A B C D X Y x y e S : Fin n} (e1 : X * B = A) (e2 : Y * D = C) (hM : S * (1 - e * (X * Y * (x * y))) = Y * y + X * x) : S * (B * D - e * A * C * (x * y)) = C * B * y + A * D * x := by
  subst e1
  subst e2
  have : S * (B * D - e * (X * B) * (Y * D) * (x * y)) = B * D * (S * (1 - e * (X * Y * (x * y)))) := by grind
  rw [this, hM]
  grind
theorem cross (E : Ed n) {S T M1 M2 N1 N2 : Fin n} (h1 : M1 ≠ 0) (h2 : M2 ≠ 0) (e1 : S * M1 = N1) (e2 : T * M2 = N2) (h : N1 * M2 = N2 * M1) : S = T := by
  subst e1
  subst e2
  apply E.cancel (E.mul_ne h1 h2)
  grind
theorem denq (E : Ed n) {A B C D X Y x y e : Fin n} (hB : B ≠ 0) (hD : D ≠ 0) (e1 : X * B = A) (e2 : Y * D = C) (h : 1 + e * (X * Y * (x * y)) ≠ 0) : B * D + e * A * C * (x * y) ≠ 0 := by
  subst e1
  subst e2
  have : B * D + e * (X * B) * (Y * D) * (x * y) = B * D * (1 + e * (X * Y * (x * y))) := by grind
  rw [this]
  exact E.mul_ne (E.mul_ne hB hD) h
theorem denq2 (E : Ed n) {A B C D X Y x y e : Fin n} (hB : B ≠ 0) (hD : D ≠ 0) (e1 : X * B = A) (e2 : Y * D = C) (h : 1 - e * (X * Y * (x * y)) ≠ 0) : B * D - e * A * C * (x * y) ≠ 0 := by
  subst e1
  subst e2
  have : B * D - e * (X * B) * (Y * D) * (x * y) = B * D * (1 - e * (X * Y * (x * y))) := by grind
  rw [this]
  exact E.mul_ne (E.mul_ne hB hD) h
theorem assoc_x (E : Ed n) {x1 y1 x2 y2 x3 y3 : Fin n} (h1 : E.On x1 y1) (h2 : E.On x2 y2) (h3 : E.On x3 y3) :
    E.sx (E.sx x1 y1 x2 y2) (E.sy x1 y1 x2 y2) x3 y3 = E.sx x1 y1 (E.sx x2 y2 x3 y3) (E.sy x2 y2 x3 y3) := by
  have o4 := E.On_sum h1 h2
  have o5 := E.On_sum h2 h3
  have q4 := quot (E.den1 h1 h2) (E.den2 h1 h2) (E.sx_eq h1 h2) (E.sy_eq h1 h2) (E.sx_eq o4 h3)
  have n4 := E.denq (E.den1 h1 h2) (E.den2 h1 h2) (E.sx_eq h1 h2) (E.sy_eq h1 h2) (E.den1 o4 h3)
  have q5 := quot (E.den1 h2 h3) (E.den2 h2 h3) (E.sx_eq h2 h3) (E.sy_eq h2 h3) (E.sx_eq o5 h1)
  have n5 := E.denq (E.den1 h2 h3) (E.den2 h2 h3) (E.sx_eq h2 h3) (E.sy_eq h2 h3) (E.den1 o5 h1)
  rw [E.comm_x x1 y1 (E.sx x2 y2 x3 y3) (E.sy x2 y2 x3 y3)]
  refine E.cross n4 n5 q4 q5 ?_
  have p := assoc_px h1 h2 h3
  clear q4 n4 q5 n5 o4 o5 h1 h2 h3
  generalize 1 + E.d * (x1 * y1 * (x2 * y2)) = B at *
  generalize 1 - E.d * (x1 * y1 * (x2 * y2)) = D at *
  generalize 1 + E.d * (x2 * y2 * (x3 * y3)) = B' at *
  generalize 1 - E.d * (x2 * y2 * (x3 * y3)) = D' at *
  generalize x1 * y2 + y1 * x2 = A at *
  generalize y1 * y2 + x1 * x2 = C at *
  generalize x2 * y3 + y2 * x3 = A' at *
  generalize y2 * y3 + x2 * x3 = C' at *
  grind
theorem assoc_y (E : Ed n) {x1 y1 x2 y2 x3 y3 : Fin n} (h1 : E.On x1 y1) (h2 : E.On x2 y2) (h3 : E.On x3 y3) :
    E.sy (E.sx x1 y1 x2 y2) (E.sy x1 y1 x2 y2) x3 y3 = E.sy x1 y1 (E.sx x2 y2 x3 y3) (E.sy x2 y2 x3 y3) := by
  have o4 := E.On_sum h1 h2
  have o5 := E.On_sum h2 h3
  have q4 := quot2 (E.sx_eq h1 h2) (E.sy_eq h1 h2) (E.sy_eq o4 h3)
  have n4 := E.denq2 (E.den1 h1 h2) (E.den2 h1 h2) (E.sx_eq h1 h2) (E.sy_eq h1 h2) (E.den2 o4 h3)
  have q5 := quot2 (E.sx_eq h2 h3) (E.sy_eq h2 h3) (E.sy_eq o5 h1)
  have n5 := E.denq2 (E.den1 h2 h3) (E.den2 h2 h3) (E.sx_eq h2 h3) (E.sy_eq h2 h3) (E.den2 o5 h1)
  rw [E.comm_y x1 y1 (E.sx x2 y2 x3 y3) (E.sy x2 y2 x3 y3)]
  refine E.cross n4 n5 q4 q5 ?_
  have p := assoc_py h1 h2 h3
  clear q4 n4 q5 n5 o4 o5 h1 h2 h3
  generalize 1 + E.d * (x1 * y1 * (x2 * y2)) = B at *
  generalize 1 - E.d * (x1 * y1 * (x2 * y2)) = D at *
  generalize 1 + E.d * (x2 * y2 * (x3 * y3)) = B' at *
  generalize 1 - E.d * (x2 * y2 * (x3 * y3)) = D' at *
  generalize x1 * y2 + y1 * x2 = A at *
  generalize y1 * y2 + x1 * x2 = C at *
  generalize x2 * y3 + y2 * x3 = A' at *
  generalize y2 * y3 + x2 * x3 = C' at *
  grind
theorem On_zero (E : Ed n) : E.On 0 1 := by unfold On; grind
theorem zero_x (E : Ed n) (x y : Fin n) : E.sx x y 0 1 = x := by
  unfold sx
  rw [show x * y * (0 * 1) = 0 by grind, show (1 + E.d * 0 : Fin n) = 1 by grind, E.inv_one]
  grind
theorem zero_y (E : Ed n) (x y : Fin n) : E.sy x y 0 1 = y := by
  unfold sy
  rw [show x * y * (0 * 1) = 0 by grind, show (1 - E.d * 0 : Fin n) = 1 by grind, E.inv_one]
  grind
theorem On_neg (E : Ed n) {x y : Fin n} (h : E.On x y) : E.On (-x) y := by unfold On at *; grind
theorem neg_x (E : Ed n) (x y : Fin n) : E.sx x y (-x) y = 0 := by
  unfold sx
  rw [show x * y + y * -x = 0 by grind]
  grind
theorem neg_y (E : Ed n) {x y : Fin n} (h : E.On x y) : E.sy x y (-x) y = 1 := by
  have h2 := E.hinv _ (E.den2 h (E.On_neg h))
  unfold sy
  have e : y * y + x * -x = 1 - E.d * (x * y * (-x * y)) := by unfold On at h; grind
  rw [e]
  exact h2

/-- Points. -/
def Pt (E : Ed n) : Type := { p : Fin n × Fin n // E.On p.1 p.2 }
def add (E : Ed n) (p q : E.Pt) : E.Pt := ⟨(E.sx p.1.1 p.1.2 q.1.1 q.1.2, E.sy p.1.1 p.1.2 q.1.1 q.1.2), E.On_sum p.2 q.2⟩
def zero (E : Ed n) : E.Pt := ⟨(0, 1), E.On_zero⟩
def neg (E : Ed n) (p : E.Pt) : E.Pt := ⟨(-p.1.1, p.1.2), E.On_neg p.2⟩
theorem add_comm (E : Ed n) (p q : E.Pt) : E.add p q = E.add q p := Subtype.ext (Prod.ext (E.comm_x ..) (E.comm_y ..))
theorem add_assoc (E : Ed n) (p q r : E.Pt) : E.add (E.add p q) r = E.add p (E.add q r) := Subtype.ext (Prod.ext (E.assoc_x p.2 q.2 r.2) (E.assoc_y p.2 q.2 r.2))
theorem add_zero (E : Ed n) (p : E.Pt) : E.add p E.zero = p := Subtype.ext (Prod.ext (E.zero_x ..) (E.zero_y ..))
theorem zero_add (E : Ed n) (p : E.Pt) : E.add E.zero p = p := by rw [E.add_comm, E.add_zero]
theorem add_neg (E : Ed n) (p : E.Pt) : E.add p (E.neg p) = E.zero := Subtype.ext (Prod.ext (E.neg_x ..) (E.neg_y p.2))
theorem neg_add (E : Ed n) (p : E.Pt) : E.add (E.neg p) p = E.zero := by rw [E.add_comm, E.add_neg]
theorem add_neg_cancel (E : Ed n) (p q : E.Pt) : E.add (E.add p q) (E.neg p) = q := by rw [E.add_comm p q, E.add_assoc, E.add_neg, E.add_zero]
theorem neg_uniq (E : Ed n) {p q : E.Pt} (h : E.add p q = E.zero) : q = E.neg p := by
  have := congrArg (fun z => E.add z (E.neg p)) h
  simp only [E.add_neg_cancel, E.zero_add] at this
  exact this
theorem neg_sum (E : Ed n) (p q : E.Pt) : E.neg (E.add p q) = E.add (E.neg p) (E.neg q) := by
  refine (E.neg_uniq ?_).symm
  rw [E.add_assoc, ← E.add_assoc q, E.add_comm q, E.add_assoc (E.neg p), E.add_neg, E.add_zero, E.add_neg]
end Ed
end Go.Proofs.Ytgdimnbdnepbgaa
/- The curve's functions over residues modulo p. No statement is proved here. -/
namespace Go.Proofs.Ytgdimnbdnepbgaa
open Go.RowKit
set_option linter.unusedVariables false
set_option maxRecDepth 40000
set_option linter.unusedSimpArgs false

instance nzP : NeZero PP := ⟨by unfold PP; omega⟩
theorem fT (a : Fin PP) : a.val < TT := Nat.lt_trans a.isLt PP_lt
theorem fz_nz (a b : Fin PP) (h : a * b = 0) : a = 0 ∨ b = 0 := by
  have h1 : a.val * b.val % PP = 0 := by
    have := congrArg Fin.val h
    rwa [Fin.val_mul] at this
  rcases prP.euclid (Nat.dvd_of_mod_eq_zero h1) with h | h
  · left
    apply Fin.ext
    rw [Nat.eq_zero_of_dvd_of_lt h a.isLt]
    rfl
  · right
    apply Fin.ext
    rw [Nat.eq_zero_of_dvd_of_lt h b.isLt]
    rfl
theorem val_ne {a : Fin PP} (h : a ≠ 0) : a.val % PP ≠ 0 := fun h0 => h (by
  apply Fin.ext
  rw [Nat.mod_eq_of_lt a.isLt] at h0
  rw [h0]
  rfl)
theorem inv_ex (a : Fin PP) : ∃ b : Fin PP, (a ≠ 0 → a * b = 1) ∧ (a = 0 → b = 0) ∧ ∀ q, PP = q + 2 → b.val = a.val ^ q % PP := by
  obtain ⟨q, hq⟩ := q_ex
  refine ⟨⟨a.val ^ q % PP, modP _⟩, fun h => ?_, fun h => ?_, fun q' hq' => ?_⟩
  · apply Fin.ext
    rw [Fin.val_mul]
    show a.val * (a.val ^ q % PP) % PP = 1 % PP
    rw [inv_mul q hq a.val (val_ne h), Nat.mod_eq_of_lt (by unfold PP; omega)]
  · apply Fin.ext
    show a.val ^ q % PP = 0
    subst h
    show 0 ^ q % PP = 0
    rw [Nat.zero_pow (by unfold PP at hq; omega), Nat.zero_mod]
  · obtain rfl : q = q' := by omega
    rfl
noncomputable def fInv (a : Fin PP) : Fin PP := Classical.choose (inv_ex a)
theorem fInv_mul {a : Fin PP} (h : a ≠ 0) : a * fInv a = 1 := (Classical.choose_spec (inv_ex a)).1 h
theorem fInv_zero : fInv 0 = 0 := (Classical.choose_spec (inv_ex 0)).2.1 rfl
theorem fInv_val (a : Fin PP) (q : Nat) (hq : PP = q + 2) : (fInv a).val = a.val ^ q % PP := (Classical.choose_spec (inv_ex a)).2.2 q hq
theorem dN_lt : dN < PP := by unfold dN PP; omega
def dF : Fin PP := ⟨dN, dN_lt⟩
def iN : Nat := 19681161376707505956807079304988542015446066515923890162744021073123829784752
theorem iN_lt : iN < PP := by unfold iN PP; omega
def iF : Fin PP := ⟨iN, iN_lt⟩
theorem iN_sq : iN * iN % PP = (PP - 1 % PP) % PP := by decide +kernel
theorem dchi (k : Nat) (hk : PP = 8 * k + 5) : dN ^ (4 * k + 2) % PP = PP - 1 := by
  rw [show 4 * k + 2 = 28948022309329048855892746252171976963317496166410141009864396001978282409974 from by unfold PP at hk; omega]
  have h := pm_eq PP dN 256 28948022309329048855892746252171976963317496166410141009864396001978282409974 (by decide)
  have e : pm PP dN 256 28948022309329048855892746252171976963317496166410141009864396001978282409974 = PP - 1 := by decide +kernel
  exact h.symm.trans e
theorem d_no (x : Fin PP) : x * x ≠ dF := by
  intro h
  obtain ⟨k, hk⟩ := k_ex
  have h1 : x.val * x.val % PP = dN := by
    have := congrArg Fin.val h
    rwa [Fin.val_mul] at this
  have h2 := dchi k hk
  have hx : ¬ PP ∣ x.val := fun hd => by
    have : x.val * x.val % PP = 0 := Nat.mod_eq_zero_of_dvd (Nat.dvd_trans hd ⟨_, rfl⟩)
    rw [this] at h1
    exact absurd h1 (by decide)
  have h3 := fermat1 prP x.val hx
  rw [← h1, ← Nat.pow_mod, show x.val * x.val = x.val ^ 2 from by rw [Nat.pow_succ, Nat.pow_one], ← Nat.pow_mul, show 2 * (4 * k + 2) = PP - 1 from by omega, h3] at h2
  unfold PP at h2
  omega
theorem one_ne : (1 : Fin PP) ≠ 0 := fun h => by
  have := congrArg Fin.val h
  have h1 : (1 : Fin PP).val = 1 % PP := rfl
  have h0 : (0 : Fin PP).val = 0 % PP := rfl
  rw [h1, h0] at this
  unfold PP at this
  omega
theorem two_ne : (1 + 1 : Fin PP) ≠ 0 := fun h => by
  have := congrArg Fin.val h
  have h1 : (1 : Fin PP).val = 1 % PP := rfl
  have h0 : (0 : Fin PP).val = 0 % PP := rfl
  rw [Fin.val_add, h1, h0] at this
  unfold PP at this
  omega
noncomputable def EC : Ed PP where
  inv := fInv
  d := dF
  i := iF
  nz := fz_nz
  hinv := fun a h => fInv_mul h
  hi := Fin.ext (by rw [Fin.val_mul]; exact iN_sq)
  h1 := one_ne
  h2 := two_ne
  hd := d_no

theorem v0 : (0 : Fin PP).val = 0 := rfl
theorem v1 : (1 : Fin PP).val = 1 := by
  have h1 : (1 : Fin PP).val = 1 % PP := rfl
  rw [h1]
  exact Nat.mod_eq_of_lt (by unfold PP; omega)
theorem gives_N {f : FuncId} {args : Array Value} {x y : Nat} {w : World} (e : x = y) (h : Calls Try.prog f args w (Gives (vN x) w)) : Calls Try.prog f args w (Gives (vN y) w) := e ▸ h
theorem gives_V {f : FuncId} {args : Array Value} {x y : Value} {w : World} (e : x = y) (h : Calls Try.prog f args w (Gives x w)) : Calls Try.prog f args w (Gives y w) := e ▸ h
theorem fAdd (a b : Fin PP) (w : World) : Calls Try.prog 19 #[vN a.val, vN b.val] w (Gives (vN (a + b).val) w) := gives_N (Fin.val_add a b).symm (Add_any a.val b.val (fT a) (fT b) w)
theorem fMul (a b : Fin PP) (w : World) : Calls Try.prog 25 #[vN a.val, vN b.val] w (Gives (vN (a * b).val) w) := gives_N (Fin.val_mul a b).symm (Mul_any a.val b.val (fT a) (fT b) w)
theorem fSub (a b : Fin PP) (w : World) : Calls Try.prog 21 #[vN a.val, vN b.val] w (Gives (vN (a - b).val) w) :=
  gives_N (by rw [Fin.sub_def, Nat.mod_eq_of_lt b.isLt, Nat.add_comm]) (Sub_any a.val b.val (fT a) (fT b) w)
theorem fNeg (a : Fin PP) (w : World) : Calls Try.prog 23 #[vN a.val] w (Gives (vN (-a).val) w) :=
  gives_N (by rw [Nat.mod_eq_of_lt a.isLt]; rfl) (Neg_any a.val (fT a) w)
theorem fInvC (a : Fin PP) (w : World) : Calls Try.prog 29 #[vN a.val] w (Gives (vN (fInv a).val) w) := by
  obtain ⟨q, hq⟩ := q_ex
  rw [fInv_val a q hq]
  exact Inv_any q hq a.val (fT a) w
theorem fOne (w : World) : Calls Try.prog 17 #[.int .u64 1] w (Gives (vN (1 : Fin PP).val) w) := gives_N v1.symm (Of_any 1 (by omega) w)
theorem fEq (a b : Fin PP) (w : World) : (Op.equalIn 10000 23 (vN a.val) (vN b.val)).run Try.prog w = .ok (decide (a = b)) w := by
  rw [eqN _ _ (fT a) (fT b) w]
  congr 1
  rw [Bool.eq_iff_iff, decide_eq_true_eq, decide_eq_true_eq]
  exact ⟨Fin.ext, congrArg Fin.val⟩
theorem fCanon (a : Fin PP) (w : World) : Calls Try.prog 15 #[vN a.val] w (Gives (.bool true) w) := by
  have h := Canon_any a.val (fT a) w
  rw [decide_eq_true (Nat.mod_eq_of_lt a.isLt).symm] at h
  exact h
theorem fD (w : World) : Calls Try.prog 45 #[] w (Gives (vN dF.val) w) := D_any w

theorem divide_any (x ox y oy : Fin PP) (r0 r1 r2 r3 : Nat) (w : World) (g g1 g2 g3 g4 : Nat) (h0 : RAt w g [r0, r1, r2, r3]) (h1 : RAt w g1 [x.val]) (h2 : RAt w g2 [ox.val]) (h3 : RAt w g3 [y.val]) (h4 : RAt w g4 [oy.val]) (n1 : g ≠ g1) (n2 : g ≠ g2) (n3 : g ≠ g3) (n4 : g ≠ g4) :
    Calls Try.prog 100 #[.pointer (some ⟨g, 0, none⟩), .pointer (some ⟨g1, 0, none⟩), .pointer (some ⟨g2, 0, none⟩), .pointer (some ⟨g3, 0, none⟩), .pointer (some ⟨g4, 0, none⟩)] w (SetsR g [(x * oy).val, (y * ox).val, (ox * oy).val, (x * y).val] w) :=
  divide_core g g1 g2 g3 g4 r0 r1 r2 r3 _ _ _ _ _ _ _ _ w (Lib.hid (fMul x oy)) (Lib.hid (fMul y ox)) (Lib.hid (fMul ox oy)) (Lib.hid (fMul x y)) (Lib.hid h0) (Lib.hid h1) (Lib.hid h2) (Lib.hid h3) (Lib.hid h4) (Lib.hid n1) (Lib.hid n2) (Lib.hid n3) (Lib.hid n4)
theorem eread_any (x y : Fin PP) (r0 r1 r2 r3 : Nat) (w : World) (g g1 : Nat) (h0 : RAt w g [r0, r1, r2, r3]) (h1 : RAt w g1 [x.val, y.val]) (n1 : g ≠ g1) :
    Calls Try.prog 80 #[.pointer (some ⟨g, 0, none⟩), .pointer (some ⟨g1, 0, none⟩)] w (SetsR g [x.val, y.val, 1, (x * y).val] w) :=
  eread_core g g1 r0 r1 r2 r3 _ _ _ w (Lib.hid fun w => Of_any 1 (by omega) w) (Lib.hid (fMul x y)) (Lib.hid h0) (Lib.hid h1) (Lib.hid n1)
/-- Four residues. -/
structure X4 where
  x : Fin PP
  y : Fin PP
  z : Fin PP
  t : Fin PP
def X4.l (p : X4) : List Nat := [p.x.val, p.y.val, p.z.val, p.t.val]
def X4.sum (p q : X4) : X4 :=
  let one := p.z * q.z
  let d := dF * (p.t * q.t)
  let x := p.x * q.y + p.y * q.x
  let y := p.y * q.y + p.x * q.x
  ⟨x * (one - d), y * (one + d), (one + d) * (one - d), x * y⟩
theorem eadd_any (p q : X4) (r0 r1 r2 r3 : Nat) (w : World) (g gp gq : Nat) (h0 : RAt w g [r0, r1, r2, r3]) (hp : RAt w gp p.l) (hq : RAt w gq q.l) :
    Calls Try.prog 81 #[.pointer (some ⟨g, 0, none⟩), .pointer (some ⟨gp, 0, none⟩), .pointer (some ⟨gq, 0, none⟩)] w (SetsR g (p.sum q).l w) :=
  eadd_core g gp gq r0 r1 r2 r3 p.x.val p.y.val p.z.val p.t.val q.x.val q.y.val q.z.val q.t.val (p.z * q.z).val dF.val (p.t * q.t).val (dF * (p.t * q.t)).val (p.x * q.y).val (p.y * q.x).val (p.x * q.y + p.y * q.x).val (p.y * q.y).val (p.x * q.x).val (p.y * q.y + p.x * q.x).val
    (p.z * q.z + dF * (p.t * q.t)).val (p.z * q.z - dF * (p.t * q.t)).val _ _ _ _ w (Lib.hid (fMul _ _)) (Lib.hid fD) (Lib.hid (fMul _ _)) (Lib.hid (fMul _ _)) (Lib.hid (fMul _ _)) (Lib.hid (fMul _ _)) (Lib.hid (fAdd _ _)) (Lib.hid (fMul _ _)) (Lib.hid (fMul _ _)) (Lib.hid (fAdd _ _)) (Lib.hid (fAdd _ _)) (Lib.hid (fSub _ _))
    (Lib.hid fun w g1 g2 g3 g4 h0 h1 h2 h3 h4 n1 n2 n3 n4 => divide_any _ _ _ _ r0 r1 r2 r3 w g g1 g2 g3 g4 h0 h1 h2 h3 h4 n1 n2 n3 n4) (Lib.hid h0) (Lib.hid hp) (Lib.hid hq)
theorem epoint_any (p : X4) (w : World) (g : Nat) (h : RAt w g p.l) : Calls Try.prog 82 #[.pointer (some ⟨g, 0, none⟩)] w (Gives (vR [(p.x * fInv p.z).val, (p.y * fInv p.z).val]) w) :=
  epoint_core g _ _ _ _ _ _ _ w (Lib.hid (fInvC p.z)) (Lib.hid (fMul _ _)) (Lib.hid (fMul _ _)) (Lib.hid h)
/-- It is the point (x, y). -/
def X4.Is (p : X4) (x y : Fin PP) : Prop := p.z ≠ 0 ∧ p.x = x * p.z ∧ p.y = y * p.z ∧ p.t = x * y * p.z
theorem X4.Is.point {p : X4} {x y : Fin PP} (h : p.Is x y) : p.x * fInv p.z = x ∧ p.y * fInv p.z = y := by
  obtain ⟨h0, h1, h2, _⟩ := h
  have hi := fInv_mul h0
  rw [h1, h2]
  generalize fInv p.z = v at *
  exact ⟨by grind, by grind⟩
theorem X4.Is.sum {p q : X4} {x1 y1 x2 y2 : Fin PP} (hp : p.Is x1 y1) (hq : q.Is x2 y2) (o1 : EC.On x1 y1) (o2 : EC.On x2 y2) : (p.sum q).Is (EC.sx x1 y1 x2 y2) (EC.sy x1 y1 x2 y2) := by
  obtain ⟨p0, p1, p2, p3⟩ := hp
  obtain ⟨q0, q1, q2, q3⟩ := hq
  have e1 := EC.sx_eq o1 o2
  have e2 := EC.sy_eq o1 o2
  have d1 := EC.den1 o1 o2
  have d2 := EC.den2 o1 o2
  have hz : p.z * q.z ≠ 0 := EC.mul_ne p0 q0
  have hd : EC.d = dF := rfl
  rw [hd] at e1 e2 d1 d2
  generalize EC.sx x1 y1 x2 y2 = X at *
  generalize EC.sy x1 y1 x2 y2 = Y at *
  have k1 : p.z * q.z + dF * (p.t * q.t) = p.z * q.z * (1 + dF * (x1 * y1 * (x2 * y2))) := by rw [p3, q3]; grind
  have k2 : p.z * q.z - dF * (p.t * q.t) = p.z * q.z * (1 - dF * (x1 * y1 * (x2 * y2))) := by rw [p3, q3]; grind
  have k3 : p.x * q.y + p.y * q.x = p.z * q.z * (x1 * y2 + y1 * x2) := by rw [p1, p2, q1, q2]; grind
  have k4 : p.y * q.y + p.x * q.x = p.z * q.z * (y1 * y2 + x1 * x2) := by rw [p1, p2, q1, q2]; grind
  unfold X4.Is X4.sum
  simp only
  rw [k1, k2, k3, k4, ← e1, ← e2]
  generalize 1 + dF * (x1 * y1 * (x2 * y2)) = B at *
  generalize 1 - dF * (x1 * y1 * (x2 * y2)) = D at *
  generalize p.z * q.z = z at *
  refine ⟨EC.mul_ne (EC.mul_ne hz d1) (EC.mul_ne hz d2), by grind, by grind, by grind⟩
end Go.Proofs.Ytgdimnbdnepbgaa
/- The curve: across, Bytes, Read. No statement is proved here. -/
namespace Go.Proofs.Ytgdimnbdnepbgaa
open Go.RowKit
set_option linter.unusedVariables false
set_option maxRecDepth 40000
set_option linter.unusedSimpArgs false

theorem under22 : Try.prog.underlying 22 = some (.array 32 5) := by kernel_rfl
theorem size22 : (Try.prog.info? 22).map (·.size) = some 32 := by kernel_rfl
theorem or_top : ∀ t : Nat, t < 128 → bits .or .u8 (t : Int) 128 = ((t + 128 : Nat) : Int) := by decide +kernel
theorem byte_val (c : Nat) (h : c < 256) : Value.int IntKind.u8 ((c : Nat) : Int) = bc (UInt8.ofNat c) := by unfold bc; rw [of_byte, Nat.mod_eq_of_lt h]
theorem zero22 (w : World) : (zeroValue 22).run Try.prog w = .ok (.agg (zbs 32)) w := by kernel_rfl
theorem exec_load22 {o : Oper} {a : Act} {w : World} (x : Operand) (ho : o.op = .load 22 x) (g i off : Nat) (he : off = 32 * i) (l : List Nat) (n : Nat) (hx : a.eval x = .pointer (some ⟨g, off, none⟩)) (hr : RAt w g l) (hn : l[i]? = some n) : (execOp a.eval o).run Try.prog w = .ok (.value (vN n)) w := by
  subst he
  have hl : (loadCells ⟨g, 32 * i, none⟩ (bcs (enc n)).length).run Try.prog w = .ok (bcs (enc n)).toArray w :=
    run_loadCells_list (P := Try.prog) w ⟨g, 32 * i, none⟩ (bcs (enc n)) (fun j v hv => by
      have hadd : (⟨g, 32 * i, none⟩ : Addr).add j = ⟨g, 32 * i + j, none⟩ := by unfold Addr.add; split <;> simp_all
      rw [hadd]
      exact hr.cells i n hn j v hv)
  have hagg : (isAgg 22).run Try.prog w = .ok true w := by
    unfold isAgg
    rw [Sem.run_bind, run_underlying under22 w]
    rfl
  have hq : ∃ i, Try.prog.info? 22 = some i ∧ i.size = 32 := by
    have := size22
    cases h : Try.prog.info? 22 with
    | none => rw [h] at this; simp at this
    | some i => exact ⟨i, rfl, by rw [h] at this; simpa using this⟩
  obtain ⟨k, hi, hs⟩ := hq
  have hrun : (Instr.loadAt 22 (.pointer (some ⟨g, 32 * i, none⟩))).run Try.prog w = .ok (vN n) w := by
    rw [bcs_enc_len] at hl
    simp [Instr.loadAt, Instr.sureAddr, loadVar, Sem.run_bind, hagg, sizeOf, typeInfo, hi, hs, hl]
    rfl
  unfold execOp
  simp only [ho, hx, Sem.run_bind, Sem.run_pure, Result.andThen_ok, hrun]

set_option maxHeartbeats 4000000 in
theorem across_core (y yy dd m s below u q x : Nat) (ok : Bool) (w : World)
    (C0 : Hid (∀ w, Calls Try.prog 17 #[.int .u64 1] w (Gives (vN 1) w)))
    (C1 : Hid (∀ w, Calls Try.prog 25 #[vN y, vN y] w (Gives (vN yy) w)))
    (C2 : Hid (∀ w, Calls Try.prog 45 #[] w (Gives (vN dd) w)))
    (C3 : Hid (∀ w, Calls Try.prog 25 #[vN dd, vN yy] w (Gives (vN m) w)))
    (C4 : Hid (∀ w, Calls Try.prog 19 #[vN m, vN 1] w (Gives (vN s) w)))
    (C5 : Hid (∀ w, Calls Try.prog 29 #[vN s] w (Gives (vN below) w)))
    (C6 : Hid (∀ w, Calls Try.prog 21 #[vN yy, vN 1] w (Gives (vN u) w)))
    (C7 : Hid (∀ w, Calls Try.prog 25 #[vN u, vN below] w (Gives (vN q) w)))
    (C8 : Hid (∀ w, Calls Try.prog 11 #[vN q] w (Gives (.tuple #[vN x, .bool ok]) w))) :
    Calls Try.prog 78 #[vN y] w (Gives (.tuple #[vN x, .bool ok]) w) := by
  have HF_0 : Hid (Below w.heap.size w w) := Lib.hid (Below.refl _ _)
  go_enter Try.func78, Try.ntmps78
  go_wp2_with (first | ((with_reducible show wpList _ _ _ (⟨some 1, .box 23 (.tmp 0), _, _, _, _⟩ :: _) _ _); go_must (refine wpList_box_row rfl 23 (.tmp 0) rfl (bcs (enc y)).toArray rfl ?_; intro u1 ha1 hza1 hga1; have Ngy_1 : Hid (RAt u1 w.heap.size [y]) := Lib.hid (NAt.row ⟨_, ha1⟩); have HF_1 : Hid (Below w.heap.size w u1) := Lib.hid (HF_0.out.grown hga1 HF_0.out.size (by simp)); have HGE1 : Hid (w.heap.size ≤ w.heap.size) := Lib.hid HF_0.out.size; clear ha1 hza1 hga1 HF_0)) | ((with_reducible show wpList _ _ _ (⟨some 2, .alloc 23, _, _, _, _⟩ :: _) _ _); go_must (refine wpList_alloc_row rfl 23 rfl (.agg (zbs 32)) zero23 ?_; intro u2 ha2 hza2 hga2; have Ngy_2 := Lib.hid (Ngy_1.out.grown hga2 (by simp)); have Ngr_2 : Hid (RAt u2 u1.heap.size [0]) := Lib.hid (zrow (k := 1) ha2); have HF_2 : Hid (Below w.heap.size w u2) := Lib.hid (HF_1.out.grown hga2 HF_1.out.size (by simp)); have HNE2_0 : Hid (w.heap.size ≠ u1.heap.size) := Lib.hid (by have := Ngy_1.out.lt; omega); have HGE2 : Hid (w.heap.size ≤ u1.heap.size) := Lib.hid HF_1.out.size; clear ha2 hza2 hga2 Ngy_1 HF_1)) | fail)
  generalize u1.heap.size = gr at *
  have HLT3_0 : Hid (w.heap.size < u2.heap.size) := Lib.hid Ngy_2.out.lt
  have HLT3_1 : Hid (gr < u2.heap.size) := Lib.hid Ngr_2.out.lt
  have HLO3 : Hid (w.heap.size ≤ u2.heap.size) := Lib.hid HF_2.out.size
  refine region_split (fun a' W => ∃ a3_0 a3_1, RAt W w.heap.size [y] ∧ RAt W gr [0] ∧ RAt W a3_0 [1] ∧ RAt W a3_1 [yy] ∧ u2.heap.size ≤ a3_0 ∧ u2.heap.size ≤ a3_1 ∧ a3_1 ≠ a3_0 ∧ Below w.heap.size w W ∧ a' = ⟨#[vN y, .pointer (some ⟨w.heap.size, 0, none⟩), .pointer (some ⟨gr, 0, none⟩), .bool false, .pointer (some ⟨a3_0, 0, none⟩), .pointer (some ⟨a3_1, 0, none⟩), undef, vN 1, vN y, vN y, vN yy, undef, undef, undef, undef, undef, undef, undef, undef, undef, undef, undef, undef, undef, undef], []⟩) ?_ ?_
  · refine startW (fun j => j == 6 || j == 7) (u2.heap.size) (by kernel_rfl) ?_
    obtain ⟨D3, hD3⟩ : ∃ D, D = u2.drew := ⟨_, rfl⟩
    rw [← hD3]
    have HL_3 : Hid (u2.heap.size ≤ D3.heap.size) := Lib.hid (by rw [hD3]; exact Nat.le_refl _)
    have Ngy_3 : Hid (RAt D3 w.heap.size [y]) := Lib.hid (by rw [hD3]; exact Ngy_2.out)
    have Ngr_3 : Hid (RAt D3 gr [0]) := Lib.hid (by rw [hD3]; exact Ngr_2.out)
    have HF_3 : Hid (Below w.heap.size w D3) := Lib.hid (by rw [hD3]; exact below_drewN' HF_2.out 1)
    clear hD3 Ngy_2 Ngr_2 HF_2
    refine takeT (i := 1) (oi := { dst := some 8, op := Op.load 23 (Operand.tmp 1), type := 23, pos := "curve.go:119", after := #[], guard := none }) (vN y) rfl (by kernel_rfl) (by kernel_rfl) (by kernel_rfl) (by kernel_rfl) (by kernel_rfl) (fun _ _ _ h => nomatch h.1) (by rfl) (fun w' hk => exec_loadF (.tmp 1) rfl (w.heap.size) 0 0 rfl [y] y rfl (Ngy_3.out.below hk HLT3_0.out) rfl) ?_
    simp only [Act.put, List.setIfInBounds_toArray, List.set_cons_zero, List.set_cons_succ]
    refine takeT (i := 2) (oi := { dst := some 9, op := Op.load 23 (Operand.tmp 1), type := 23, pos := "curve.go:119", after := #[], guard := none }) (vN y) rfl (by kernel_rfl) (by kernel_rfl) (by kernel_rfl) (by kernel_rfl) (by kernel_rfl) (fun _ _ _ h => nomatch h.1) (by rfl) (fun w' hk => exec_loadF (.tmp 1) rfl (w.heap.size) 0 0 rfl [y] y rfl (Ngy_3.out.below hk HLT3_0.out) rfl) ?_
    simp only [Act.put, List.setIfInBounds_toArray, List.set_cons_zero, List.set_cons_succ]
    refine eachW [0, 4, 5] (by kernel_rfl) (by simp) ?_
    intro k hk
    simp only [List.mem_cons, List.not_mem_nil, or_false] at hk
    rcases hk with rfl | rfl | rfl
    · refine wpOp_call (i := 0) (oi := { dst := some 7, op := Op.call { callee := Callee.value (Operand.func 17), args := #[Operand.const (Value.int IntKind.u64 1)], argTypes := #[24] }, type := 23, pos := "curve.go:119", after := #[], guard := none }) rfl (by rfl) (exec_callL 17 [.const (.int .u64 1)] #[24] rfl [.int .u64 1] rfl (CG17 _)) ((C0.out D3).mono ?_)
      rintro e4 W4 ⟨rfl, hb4⟩
      refine ⟨_, rfl, fun _ => hb4.mono HL_3.out, ?_⟩
      have Ngy_4 := Lib.hid (Ngy_3.out.keep hb4)
      have Ngr_4 := Lib.hid (Ngr_3.out.keep hb4)
      have HF_4 : Hid (Below w.heap.size w W4) := Lib.hid (HF_3.out.trans (hb4.mono HF_3.out.size))
      have HL_4 : Hid (u2.heap.size ≤ W4.heap.size) := Lib.hid (Nat.le_trans HL_3.out hb4.size)
      clear hb4 HL_3 Ngy_3 Ngr_3 HF_3
      simp only [Act.put, List.setIfInBounds_toArray, List.set_cons_zero, List.set_cons_succ]
      refine eachW [3, 4, 5] (by kernel_rfl) (by simp) ?_
      intro k hk
      simp only [List.mem_cons, List.not_mem_nil, or_false] at hk
      rcases hk with rfl | rfl | rfl
      · refine wpOp_call (i := 3) (oi := { dst := some 10, op := Op.call { callee := Callee.value (Operand.func 25), args := #[Operand.tmp 8, Operand.tmp 9], argTypes := #[23, 23] }, type := 23, pos := "curve.go:119", after := #[{ on := 1, ground := Ground.data }, { on := 2, ground := Ground.data }, { on := 0, ground := Ground.chain }], guard := none }) rfl (by rfl) (exec_callL 25 [.tmp 8, .tmp 9] #[23, 23] rfl [vN y, vN y] rfl (CG25 _)) ((C1.out W4).mono ?_)
        rintro e5 W5 ⟨rfl, hb5⟩
        refine ⟨_, rfl, fun _ => hb5.mono HL_4.out, ?_⟩
        have Ngy_5 := Lib.hid (Ngy_4.out.keep hb5)
        have Ngr_5 := Lib.hid (Ngr_4.out.keep hb5)
        have HF_5 : Hid (Below w.heap.size w W5) := Lib.hid (HF_4.out.trans (hb5.mono HF_4.out.size))
        have HL_5 : Hid (u2.heap.size ≤ W5.heap.size) := Lib.hid (Nat.le_trans HL_4.out hb5.size)
        clear hb5 HL_4 Ngy_4 Ngr_4 HF_4
        simp only [Act.put, List.setIfInBounds_toArray, List.set_cons_zero, List.set_cons_succ]
        refine eachW [4, 5] (by kernel_rfl) (by simp) ?_
        intro k hk
        simp only [List.mem_cons, List.not_mem_nil, or_false] at hk
        rcases hk with rfl | rfl
        · refine wpOp_value (i := 4) (oi := { dst := some 4, op := Op.alloc 23, type := 0, pos := "curve.go:119", after := #[], guard := none }) rfl (by rfl) (exec_alloc 23 rfl (.agg (zbs 32)) zero23 W5) ⟨fun _ => (below_alloc W5 _).mono HL_5.out, ?_⟩
          obtain ⟨W6, hW6, hb6, hz6⟩ := alloc_zero W5
          rw [← hW6]
          obtain ⟨g6, hg6⟩ : ∃ g, g = W5.heap.size := ⟨_, rfl⟩
          rw [← hg6] at hz6 ⊢
          have HG6 : Hid (u2.heap.size ≤ g6) := Lib.hid (by rw [hg6]; exact HL_5.out)
          have HX6_1 : Hid (w.heap.size ≠ g6) := Lib.hid (by have := Ngy_5.out.lt; omega)
          have HX6_2 : Hid (gr ≠ g6) := Lib.hid (by have := Ngr_5.out.lt; omega)
          have Ngy_6 := Lib.hid (Ngy_5.out.keep hb6)
          have Ngr_6 := Lib.hid (Ngr_5.out.keep hb6)
          have HF_6 : Hid (Below w.heap.size w W6) := Lib.hid (HF_5.out.trans (hb6.mono HF_5.out.size))
          have HL_6 : Hid (u2.heap.size ≤ W6.heap.size) := Lib.hid (Nat.le_trans HL_5.out hb6.size)
          have RZ6_6 : Hid (RAt W6 g6 [0]) := Lib.hid (zrow (k := 1) hz6)
          clear hb6 hz6 hg6 hW6 HL_5 Ngy_5 Ngr_5 HF_5
          simp only [Act.put, List.setIfInBounds_toArray, List.set_cons_zero, List.set_cons_succ]
          refine opW _ _ (i := 5) (oi := { dst := some 5, op := Op.alloc 23, type := 0, pos := "curve.go:119", after := #[], guard := none }) rfl (by kernel_rfl) (by rfl) (exec_alloc 23 rfl (.agg (zbs 32)) zero23 W6) (fun _ => (below_alloc W6 _).mono HL_6.out) ?_
          obtain ⟨W7, hW7, hb7, hz7⟩ := alloc_zero W6
          rw [← hW7]
          obtain ⟨g7, hg7⟩ : ∃ g, g = W6.heap.size := ⟨_, rfl⟩
          rw [← hg7] at hz7 ⊢
          have HG7 : Hid (u2.heap.size ≤ g7) := Lib.hid (by rw [hg7]; exact HL_6.out)
          have HX7_3 : Hid (w.heap.size ≠ g7) := Lib.hid (by have := Ngy_6.out.lt; omega)
          have HX7_4 : Hid (gr ≠ g7) := Lib.hid (by have := Ngr_6.out.lt; omega)
          have HX7_5 : Hid (g6 ≠ g7) := Lib.hid (by have := RZ6_6.out.lt; omega)
          have Ngy_7 := Lib.hid (Ngy_6.out.keep hb7)
          have Ngr_7 := Lib.hid (Ngr_6.out.keep hb7)
          have RZ6_7 := Lib.hid (RZ6_6.out.keep hb7)
          have HF_7 : Hid (Below w.heap.size w W7) := Lib.hid (HF_6.out.trans (hb7.mono HF_6.out.size))
          have HL_7 : Hid (u2.heap.size ≤ W7.heap.size) := Lib.hid (Nat.le_trans HL_6.out hb7.size)
          have RZ7_7 : Hid (RAt W7 g7 [0]) := Lib.hid (zrow (k := 1) hz7)
          clear hb7 hz7 hg7 hW7 HL_6 Ngy_6 Ngr_6 RZ6_6 HF_6
          simp only [Act.put, List.setIfInBounds_toArray, List.set_cons_zero, List.set_cons_succ]
          refine storeW_F (i := 6) (oi := { dst := none, op := Op.store 23 (Operand.tmp 4) (Operand.tmp 7), type := 0, pos := "curve.go:119", after := #[{ on := 4, ground := Ground.data }, { on := 0, ground := Ground.data }, { on := 3, ground := Ground.chain }, { on := 0, ground := Ground.phase }, { on := 1, ground := Ground.textOnly Departure.lateStores }, { on := 2, ground := Ground.textOnly Departure.lateStores }, { on := 3, ground := Ground.textOnly Departure.lateStoresUnsure }, { on := 4, ground := Ground.phase }, { on := 5, ground := Ground.phase }], guard := none }) rfl (by kernel_rfl) (by rfl) (.tmp 4) (.tmp 7) rfl (g6) 0 0 rfl [0] 1 rfl rfl RZ6_7.out (show 0 < 1 by omega) rfl ?_
          intro W8 hr8 hg8 hz8
          simp only [Act.put, List.setIfInBounds_toArray, List.set_cons_zero, List.set_cons_succ]
          have Ngy_8 := Lib.hid (Ngy_7.out.grown hg8 (by have := HX6_1.out; simp; omega))
          have Ngr_8 := Lib.hid (Ngr_7.out.grown hg8 (by have := HX6_2.out; simp; omega))
          have RZ6_8 : Hid (RAt W8 g6 [1]) := Lib.hid hr8
          have RZ7_8 := Lib.hid (RZ7_7.out.grown hg8 (by have := HX7_5.out; simp; omega))
          have HF_8 : Hid (Below w.heap.size w W8) := Lib.hid (HF_7.out.grown hg8 HF_7.out.size (fun r hr => by injection hr with hr; have := (show w.heap.size ≤ g6 from (by have := HG6.out; have := HLO3.out; omega)); omega))
          have HL_8 : Hid (u2.heap.size ≤ W8.heap.size) := Lib.hid (Nat.le_trans HL_7.out hg8.size)
          clear hr8 hg8 hz8 HL_7 Ngy_7 Ngr_7 RZ6_7 RZ7_7 HF_7
          refine storeW_F (i := 7) (oi := { dst := none, op := Op.store 23 (Operand.tmp 5) (Operand.tmp 10), type := 0, pos := "curve.go:119", after := #[{ on := 5, ground := Ground.data }, { on := 3, ground := Ground.data }, { on := 6, ground := Ground.chain }, { on := 0, ground := Ground.phase }, { on := 1, ground := Ground.phase }, { on := 2, ground := Ground.phase }, { on := 3, ground := Ground.phase }, { on := 4, ground := Ground.phase }, { on := 5, ground := Ground.phase }, { on := 6, ground := Ground.phase }], guard := none }) rfl (by kernel_rfl) (by rfl) (.tmp 5) (.tmp 10) rfl (g7) 0 0 rfl [0] yy rfl rfl RZ7_8.out (show 0 < 1 by omega) rfl ?_
          intro W9 hr9 hg9 hz9
          simp only [Act.put, List.setIfInBounds_toArray, List.set_cons_zero, List.set_cons_succ]
          have Ngy_9 := Lib.hid (Ngy_8.out.grown hg9 (by have := HX7_3.out; simp; omega))
          have Ngr_9 := Lib.hid (Ngr_8.out.grown hg9 (by have := HX7_4.out; simp; omega))
          have RZ6_9 := Lib.hid (RZ6_8.out.grown hg9 (by have := HX7_5.out; simp; omega))
          have RZ7_9 : Hid (RAt W9 g7 [yy]) := Lib.hid hr9
          have HF_9 : Hid (Below w.heap.size w W9) := Lib.hid (HF_8.out.grown hg9 HF_8.out.size (fun r hr => by injection hr with hr; have := (show w.heap.size ≤ g7 from (by have := HG7.out; have := HLO3.out; omega)); omega))
          have HL_9 : Hid (u2.heap.size ≤ W9.heap.size) := Lib.hid (Nat.le_trans HL_8.out hg9.size)
          clear hr9 hg9 hz9 HL_8 Ngy_8 Ngr_8 RZ6_8 RZ7_8 HF_8
          refine doneW (by kernel_rfl) ⟨rfl, ?_⟩ _
          exact ⟨g6, g7, Ngy_9.out, Ngr_9.out, RZ6_9.out, RZ7_9.out, HG6.out, HG7.out, (by have := HX7_5.out; omega), HF_9.out, rfl⟩
        · refine wpOp_value (i := 5) (oi := { dst := some 5, op := Op.alloc 23, type := 0, pos := "curve.go:119", after := #[], guard := none }) rfl (by rfl) (exec_alloc 23 rfl (.agg (zbs 32)) zero23 W5) ⟨fun _ => (below_alloc W5 _).mono HL_5.out, ?_⟩
          obtain ⟨W10, hW10, hb10, hz10⟩ := alloc_zero W5
          rw [← hW10]
          obtain ⟨g10, hg10⟩ : ∃ g, g = W5.heap.size := ⟨_, rfl⟩
          rw [← hg10] at hz10 ⊢
          have HG10 : Hid (u2.heap.size ≤ g10) := Lib.hid (by rw [hg10]; exact HL_5.out)
          have HX10_1 : Hid (w.heap.size ≠ g10) := Lib.hid (by have := Ngy_5.out.lt; omega)
          have HX10_2 : Hid (gr ≠ g10) := Lib.hid (by have := Ngr_5.out.lt; omega)
          have Ngy_10 := Lib.hid (Ngy_5.out.keep hb10)
          have Ngr_10 := Lib.hid (Ngr_5.out.keep hb10)
          have HF_10 : Hid (Below w.heap.size w W10) := Lib.hid (HF_5.out.trans (hb10.mono HF_5.out.size))
          have HL_10 : Hid (u2.heap.size ≤ W10.heap.size) := Lib.hid (Nat.le_trans HL_5.out hb10.size)
          have RZ10_10 : Hid (RAt W10 g10 [0]) := Lib.hid (zrow (k := 1) hz10)
          clear hb10 hz10 hg10 hW10 HL_5 Ngy_5 Ngr_5 HF_5
          simp only [Act.put, List.setIfInBounds_toArray, List.set_cons_zero, List.set_cons_succ]
          refine opW _ _ (i := 4) (oi := { dst := some 4, op := Op.alloc 23, type := 0, pos := "curve.go:119", after := #[], guard := none }) rfl (by kernel_rfl) (by rfl) (exec_alloc 23 rfl (.agg (zbs 32)) zero23 W10) (fun _ => (below_alloc W10 _).mono HL_10.out) ?_
          obtain ⟨W11, hW11, hb11, hz11⟩ := alloc_zero W10
          rw [← hW11]
          obtain ⟨g11, hg11⟩ : ∃ g, g = W10.heap.size := ⟨_, rfl⟩
          rw [← hg11] at hz11 ⊢
          have HG11 : Hid (u2.heap.size ≤ g11) := Lib.hid (by rw [hg11]; exact HL_10.out)
          have HX11_3 : Hid (w.heap.size ≠ g11) := Lib.hid (by have := Ngy_10.out.lt; omega)
          have HX11_4 : Hid (gr ≠ g11) := Lib.hid (by have := Ngr_10.out.lt; omega)
          have HX11_5 : Hid (g10 ≠ g11) := Lib.hid (by have := RZ10_10.out.lt; omega)
          have Ngy_11 := Lib.hid (Ngy_10.out.keep hb11)
          have Ngr_11 := Lib.hid (Ngr_10.out.keep hb11)
          have RZ10_11 := Lib.hid (RZ10_10.out.keep hb11)
          have HF_11 : Hid (Below w.heap.size w W11) := Lib.hid (HF_10.out.trans (hb11.mono HF_10.out.size))
          have HL_11 : Hid (u2.heap.size ≤ W11.heap.size) := Lib.hid (Nat.le_trans HL_10.out hb11.size)
          have RZ11_11 : Hid (RAt W11 g11 [0]) := Lib.hid (zrow (k := 1) hz11)
          clear hb11 hz11 hg11 hW11 HL_10 Ngy_10 Ngr_10 RZ10_10 HF_10
          simp only [Act.put, List.setIfInBounds_toArray, List.set_cons_zero, List.set_cons_succ]
          refine storeW_F (i := 6) (oi := { dst := none, op := Op.store 23 (Operand.tmp 4) (Operand.tmp 7), type := 0, pos := "curve.go:119", after := #[{ on := 4, ground := Ground.data }, { on := 0, ground := Ground.data }, { on := 3, ground := Ground.chain }, { on := 0, ground := Ground.phase }, { on := 1, ground := Ground.textOnly Departure.lateStores }, { on := 2, ground := Ground.textOnly Departure.lateStores }, { on := 3, ground := Ground.textOnly Departure.lateStoresUnsure }, { on := 4, ground := Ground.phase }, { on := 5, ground := Ground.phase }], guard := none }) rfl (by kernel_rfl) (by rfl) (.tmp 4) (.tmp 7) rfl (g11) 0 0 rfl [0] 1 rfl rfl RZ11_11.out (show 0 < 1 by omega) rfl ?_
          intro W12 hr12 hg12 hz12
          simp only [Act.put, List.setIfInBounds_toArray, List.set_cons_zero, List.set_cons_succ]
          have Ngy_12 := Lib.hid (Ngy_11.out.grown hg12 (by have := HX11_3.out; simp; omega))
          have Ngr_12 := Lib.hid (Ngr_11.out.grown hg12 (by have := HX11_4.out; simp; omega))
          have RZ10_12 := Lib.hid (RZ10_11.out.grown hg12 (by have := HX11_5.out; simp; omega))
          have RZ11_12 : Hid (RAt W12 g11 [1]) := Lib.hid hr12
          have HF_12 : Hid (Below w.heap.size w W12) := Lib.hid (HF_11.out.grown hg12 HF_11.out.size (fun r hr => by injection hr with hr; have := (show w.heap.size ≤ g11 from (by have := HG11.out; have := HLO3.out; omega)); omega))
          have HL_12 : Hid (u2.heap.size ≤ W12.heap.size) := Lib.hid (Nat.le_trans HL_11.out hg12.size)
          clear hr12 hg12 hz12 HL_11 Ngy_11 Ngr_11 RZ10_11 RZ11_11 HF_11
          refine storeW_F (i := 7) (oi := { dst := none, op := Op.store 23 (Operand.tmp 5) (Operand.tmp 10), type := 0, pos := "curve.go:119", after := #[{ on := 5, ground := Ground.data }, { on := 3, ground := Ground.data }, { on := 6, ground := Ground.chain }, { on := 0, ground := Ground.phase }, { on := 1, ground := Ground.phase }, { on := 2, ground := Ground.phase }, { on := 3, ground := Ground.phase }, { on := 4, ground := Ground.phase }, { on := 5, ground := Ground.phase }, { on := 6, ground := Ground.phase }], guard := none }) rfl (by kernel_rfl) (by rfl) (.tmp 5) (.tmp 10) rfl (g10) 0 0 rfl [0] yy rfl rfl RZ10_12.out (show 0 < 1 by omega) rfl ?_
          intro W13 hr13 hg13 hz13
          simp only [Act.put, List.setIfInBounds_toArray, List.set_cons_zero, List.set_cons_succ]
          have Ngy_13 := Lib.hid (Ngy_12.out.grown hg13 (by have := HX10_1.out; simp; omega))
          have Ngr_13 := Lib.hid (Ngr_12.out.grown hg13 (by have := HX10_2.out; simp; omega))
          have RZ10_13 : Hid (RAt W13 g10 [yy]) := Lib.hid hr13
          have RZ11_13 := Lib.hid (RZ11_12.out.grown hg13 (by have := HX11_5.out; simp; omega))
          have HF_13 : Hid (Below w.heap.size w W13) := Lib.hid (HF_12.out.grown hg13 HF_12.out.size (fun r hr => by injection hr with hr; have := (show w.heap.size ≤ g10 from (by have := HG10.out; have := HLO3.out; omega)); omega))
          have HL_13 : Hid (u2.heap.size ≤ W13.heap.size) := Lib.hid (Nat.le_trans HL_12.out hg13.size)
          clear hr13 hg13 hz13 HL_12 Ngy_12 Ngr_12 RZ10_12 RZ11_12 HF_12
          refine doneW (by kernel_rfl) ⟨rfl, ?_⟩ _
          exact ⟨g11, g10, Ngy_13.out, Ngr_13.out, RZ11_13.out, RZ10_13.out, HG11.out, HG10.out, (by have := HX11_5.out; omega), HF_13.out, rfl⟩
      · refine wpOp_value (i := 4) (oi := { dst := some 4, op := Op.alloc 23, type := 0, pos := "curve.go:119", after := #[], guard := none }) rfl (by rfl) (exec_alloc 23 rfl (.agg (zbs 32)) zero23 W4) ⟨fun _ => (below_alloc W4 _).mono HL_4.out, ?_⟩
        obtain ⟨W14, hW14, hb14, hz14⟩ := alloc_zero W4
        rw [← hW14]
        obtain ⟨g14, hg14⟩ : ∃ g, g = W4.heap.size := ⟨_, rfl⟩
        rw [← hg14] at hz14 ⊢
        have HG14 : Hid (u2.heap.size ≤ g14) := Lib.hid (by rw [hg14]; exact HL_4.out)
        have HX14_1 : Hid (w.heap.size ≠ g14) := Lib.hid (by have := Ngy_4.out.lt; omega)
        have HX14_2 : Hid (gr ≠ g14) := Lib.hid (by have := Ngr_4.out.lt; omega)
        have Ngy_14 := Lib.hid (Ngy_4.out.keep hb14)
        have Ngr_14 := Lib.hid (Ngr_4.out.keep hb14)
        have HF_14 : Hid (Below w.heap.size w W14) := Lib.hid (HF_4.out.trans (hb14.mono HF_4.out.size))
        have HL_14 : Hid (u2.heap.size ≤ W14.heap.size) := Lib.hid (Nat.le_trans HL_4.out hb14.size)
        have RZ14_14 : Hid (RAt W14 g14 [0]) := Lib.hid (zrow (k := 1) hz14)
        clear hb14 hz14 hg14 hW14 HL_4 Ngy_4 Ngr_4 HF_4
        simp only [Act.put, List.setIfInBounds_toArray, List.set_cons_zero, List.set_cons_succ]
        refine eachW [3, 5] (by kernel_rfl) (by simp) ?_
        intro k hk
        simp only [List.mem_cons, List.not_mem_nil, or_false] at hk
        rcases hk with rfl | rfl
        · refine wpOp_call (i := 3) (oi := { dst := some 10, op := Op.call { callee := Callee.value (Operand.func 25), args := #[Operand.tmp 8, Operand.tmp 9], argTypes := #[23, 23] }, type := 23, pos := "curve.go:119", after := #[{ on := 1, ground := Ground.data }, { on := 2, ground := Ground.data }, { on := 0, ground := Ground.chain }], guard := none }) rfl (by rfl) (exec_callL 25 [.tmp 8, .tmp 9] #[23, 23] rfl [vN y, vN y] rfl (CG25 _)) ((C1.out W14).mono ?_)
          rintro e15 W15 ⟨rfl, hb15⟩
          refine ⟨_, rfl, fun _ => hb15.mono HL_14.out, ?_⟩
          have Ngy_15 := Lib.hid (Ngy_14.out.keep hb15)
          have Ngr_15 := Lib.hid (Ngr_14.out.keep hb15)
          have RZ14_15 := Lib.hid (RZ14_14.out.keep hb15)
          have HF_15 : Hid (Below w.heap.size w W15) := Lib.hid (HF_14.out.trans (hb15.mono HF_14.out.size))
          have HL_15 : Hid (u2.heap.size ≤ W15.heap.size) := Lib.hid (Nat.le_trans HL_14.out hb15.size)
          clear hb15 HL_14 Ngy_14 Ngr_14 RZ14_14 HF_14
          simp only [Act.put, List.setIfInBounds_toArray, List.set_cons_zero, List.set_cons_succ]
          refine opW _ _ (i := 5) (oi := { dst := some 5, op := Op.alloc 23, type := 0, pos := "curve.go:119", after := #[], guard := none }) rfl (by kernel_rfl) (by rfl) (exec_alloc 23 rfl (.agg (zbs 32)) zero23 W15) (fun _ => (below_alloc W15 _).mono HL_15.out) ?_
          obtain ⟨W16, hW16, hb16, hz16⟩ := alloc_zero W15
          rw [← hW16]
          obtain ⟨g16, hg16⟩ : ∃ g, g = W15.heap.size := ⟨_, rfl⟩
          rw [← hg16] at hz16 ⊢
          have HG16 : Hid (u2.heap.size ≤ g16) := Lib.hid (by rw [hg16]; exact HL_15.out)
          have HX16_3 : Hid (w.heap.size ≠ g16) := Lib.hid (by have := Ngy_15.out.lt; omega)
          have HX16_4 : Hid (gr ≠ g16) := Lib.hid (by have := Ngr_15.out.lt; omega)
          have HX16_5 : Hid (g14 ≠ g16) := Lib.hid (by have := RZ14_15.out.lt; omega)
          have Ngy_16 := Lib.hid (Ngy_15.out.keep hb16)
          have Ngr_16 := Lib.hid (Ngr_15.out.keep hb16)
          have RZ14_16 := Lib.hid (RZ14_15.out.keep hb16)
          have HF_16 : Hid (Below w.heap.size w W16) := Lib.hid (HF_15.out.trans (hb16.mono HF_15.out.size))
          have HL_16 : Hid (u2.heap.size ≤ W16.heap.size) := Lib.hid (Nat.le_trans HL_15.out hb16.size)
          have RZ16_16 : Hid (RAt W16 g16 [0]) := Lib.hid (zrow (k := 1) hz16)
          clear hb16 hz16 hg16 hW16 HL_15 Ngy_15 Ngr_15 RZ14_15 HF_15
          simp only [Act.put, List.setIfInBounds_toArray, List.set_cons_zero, List.set_cons_succ]
          refine storeW_F (i := 6) (oi := { dst := none, op := Op.store 23 (Operand.tmp 4) (Operand.tmp 7), type := 0, pos := "curve.go:119", after := #[{ on := 4, ground := Ground.data }, { on := 0, ground := Ground.data }, { on := 3, ground := Ground.chain }, { on := 0, ground := Ground.phase }, { on := 1, ground := Ground.textOnly Departure.lateStores }, { on := 2, ground := Ground.textOnly Departure.lateStores }, { on := 3, ground := Ground.textOnly Departure.lateStoresUnsure }, { on := 4, ground := Ground.phase }, { on := 5, ground := Ground.phase }], guard := none }) rfl (by kernel_rfl) (by rfl) (.tmp 4) (.tmp 7) rfl (g14) 0 0 rfl [0] 1 rfl rfl RZ14_16.out (show 0 < 1 by omega) rfl ?_
          intro W17 hr17 hg17 hz17
          simp only [Act.put, List.setIfInBounds_toArray, List.set_cons_zero, List.set_cons_succ]
          have Ngy_17 := Lib.hid (Ngy_16.out.grown hg17 (by have := HX14_1.out; simp; omega))
          have Ngr_17 := Lib.hid (Ngr_16.out.grown hg17 (by have := HX14_2.out; simp; omega))
          have RZ14_17 : Hid (RAt W17 g14 [1]) := Lib.hid hr17
          have RZ16_17 := Lib.hid (RZ16_16.out.grown hg17 (by have := HX16_5.out; simp; omega))
          have HF_17 : Hid (Below w.heap.size w W17) := Lib.hid (HF_16.out.grown hg17 HF_16.out.size (fun r hr => by injection hr with hr; have := (show w.heap.size ≤ g14 from (by have := HG14.out; have := HLO3.out; omega)); omega))
          have HL_17 : Hid (u2.heap.size ≤ W17.heap.size) := Lib.hid (Nat.le_trans HL_16.out hg17.size)
          clear hr17 hg17 hz17 HL_16 Ngy_16 Ngr_16 RZ14_16 RZ16_16 HF_16
          refine storeW_F (i := 7) (oi := { dst := none, op := Op.store 23 (Operand.tmp 5) (Operand.tmp 10), type := 0, pos := "curve.go:119", after := #[{ on := 5, ground := Ground.data }, { on := 3, ground := Ground.data }, { on := 6, ground := Ground.chain }, { on := 0, ground := Ground.phase }, { on := 1, ground := Ground.phase }, { on := 2, ground := Ground.phase }, { on := 3, ground := Ground.phase }, { on := 4, ground := Ground.phase }, { on := 5, ground := Ground.phase }, { on := 6, ground := Ground.phase }], guard := none }) rfl (by kernel_rfl) (by rfl) (.tmp 5) (.tmp 10) rfl (g16) 0 0 rfl [0] yy rfl rfl RZ16_17.out (show 0 < 1 by omega) rfl ?_
          intro W18 hr18 hg18 hz18
          simp only [Act.put, List.setIfInBounds_toArray, List.set_cons_zero, List.set_cons_succ]
          have Ngy_18 := Lib.hid (Ngy_17.out.grown hg18 (by have := HX16_3.out; simp; omega))
          have Ngr_18 := Lib.hid (Ngr_17.out.grown hg18 (by have := HX16_4.out; simp; omega))
          have RZ14_18 := Lib.hid (RZ14_17.out.grown hg18 (by have := HX16_5.out; simp; omega))
          have RZ16_18 : Hid (RAt W18 g16 [yy]) := Lib.hid hr18
          have HF_18 : Hid (Below w.heap.size w W18) := Lib.hid (HF_17.out.grown hg18 HF_17.out.size (fun r hr => by injection hr with hr; have := (show w.heap.size ≤ g16 from (by have := HG16.out; have := HLO3.out; omega)); omega))
          have HL_18 : Hid (u2.heap.size ≤ W18.heap.size) := Lib.hid (Nat.le_trans HL_17.out hg18.size)
          clear hr18 hg18 hz18 HL_17 Ngy_17 Ngr_17 RZ14_17 RZ16_17 HF_17
          refine doneW (by kernel_rfl) ⟨rfl, ?_⟩ _
          exact ⟨g14, g16, Ngy_18.out, Ngr_18.out, RZ14_18.out, RZ16_18.out, HG14.out, HG16.out, (by have := HX16_5.out; omega), HF_18.out, rfl⟩
        · refine wpOp_value (i := 5) (oi := { dst := some 5, op := Op.alloc 23, type := 0, pos := "curve.go:119", after := #[], guard := none }) rfl (by rfl) (exec_alloc 23 rfl (.agg (zbs 32)) zero23 W14) ⟨fun _ => (below_alloc W14 _).mono HL_14.out, ?_⟩
          obtain ⟨W19, hW19, hb19, hz19⟩ := alloc_zero W14
          rw [← hW19]
          obtain ⟨g19, hg19⟩ : ∃ g, g = W14.heap.size := ⟨_, rfl⟩
          rw [← hg19] at hz19 ⊢
          have HG19 : Hid (u2.heap.size ≤ g19) := Lib.hid (by rw [hg19]; exact HL_14.out)
          have HX19_3 : Hid (w.heap.size ≠ g19) := Lib.hid (by have := Ngy_14.out.lt; omega)
          have HX19_4 : Hid (gr ≠ g19) := Lib.hid (by have := Ngr_14.out.lt; omega)
          have HX19_5 : Hid (g14 ≠ g19) := Lib.hid (by have := RZ14_14.out.lt; omega)
          have Ngy_19 := Lib.hid (Ngy_14.out.keep hb19)
          have Ngr_19 := Lib.hid (Ngr_14.out.keep hb19)
          have RZ14_19 := Lib.hid (RZ14_14.out.keep hb19)
          have HF_19 : Hid (Below w.heap.size w W19) := Lib.hid (HF_14.out.trans (hb19.mono HF_14.out.size))
          have HL_19 : Hid (u2.heap.size ≤ W19.heap.size) := Lib.hid (Nat.le_trans HL_14.out hb19.size)
          have RZ19_19 : Hid (RAt W19 g19 [0]) := Lib.hid (zrow (k := 1) hz19)
          clear hb19 hz19 hg19 hW19 HL_14 Ngy_14 Ngr_14 RZ14_14 HF_14
          simp only [Act.put, List.setIfInBounds_toArray, List.set_cons_zero, List.set_cons_succ]
          refine callW (i := 3) (oi := { dst := some 10, op := Op.call { callee := Callee.value (Operand.func 25), args := #[Operand.tmp 8, Operand.tmp 9], argTypes := #[23, 23] }, type := 23, pos := "curve.go:119", after := #[{ on := 1, ground := Ground.data }, { on := 2, ground := Ground.data }, { on := 0, ground := Ground.chain }], guard := none }) rfl (by kernel_rfl) (by rfl) (exec_callL 25 [.tmp 8, .tmp 9] #[23, 23] rfl [vN y, vN y] rfl (CG25 _)) ((C1.out W19).mono ?_)
          rintro e20 W20 ⟨rfl, hb20⟩
          refine ⟨_, rfl, fun _ => hb20.mono HL_19.out, ?_⟩
          have Ngy_20 := Lib.hid (Ngy_19.out.keep hb20)
          have Ngr_20 := Lib.hid (Ngr_19.out.keep hb20)
          have RZ14_20 := Lib.hid (RZ14_19.out.keep hb20)
          have RZ19_20 := Lib.hid (RZ19_19.out.keep hb20)
          have HF_20 : Hid (Below w.heap.size w W20) := Lib.hid (HF_19.out.trans (hb20.mono HF_19.out.size))
          have HL_20 : Hid (u2.heap.size ≤ W20.heap.size) := Lib.hid (Nat.le_trans HL_19.out hb20.size)
          clear hb20 HL_19 Ngy_19 Ngr_19 RZ14_19 RZ19_19 HF_19
          simp only [Act.put, List.setIfInBounds_toArray, List.set_cons_zero, List.set_cons_succ]
          refine storeW_F (i := 6) (oi := { dst := none, op := Op.store 23 (Operand.tmp 4) (Operand.tmp 7), type := 0, pos := "curve.go:119", after := #[{ on := 4, ground := Ground.data }, { on := 0, ground := Ground.data }, { on := 3, ground := Ground.chain }, { on := 0, ground := Ground.phase }, { on := 1, ground := Ground.textOnly Departure.lateStores }, { on := 2, ground := Ground.textOnly Departure.lateStores }, { on := 3, ground := Ground.textOnly Departure.lateStoresUnsure }, { on := 4, ground := Ground.phase }, { on := 5, ground := Ground.phase }], guard := none }) rfl (by kernel_rfl) (by rfl) (.tmp 4) (.tmp 7) rfl (g14) 0 0 rfl [0] 1 rfl rfl RZ14_20.out (show 0 < 1 by omega) rfl ?_
          intro W21 hr21 hg21 hz21
          simp only [Act.put, List.setIfInBounds_toArray, List.set_cons_zero, List.set_cons_succ]
          have Ngy_21 := Lib.hid (Ngy_20.out.grown hg21 (by have := HX14_1.out; simp; omega))
          have Ngr_21 := Lib.hid (Ngr_20.out.grown hg21 (by have := HX14_2.out; simp; omega))
          have RZ14_21 : Hid (RAt W21 g14 [1]) := Lib.hid hr21
          have RZ19_21 := Lib.hid (RZ19_20.out.grown hg21 (by have := HX19_5.out; simp; omega))
          have HF_21 : Hid (Below w.heap.size w W21) := Lib.hid (HF_20.out.grown hg21 HF_20.out.size (fun r hr => by injection hr with hr; have := (show w.heap.size ≤ g14 from (by have := HG14.out; have := HLO3.out; omega)); omega))
          have HL_21 : Hid (u2.heap.size ≤ W21.heap.size) := Lib.hid (Nat.le_trans HL_20.out hg21.size)
          clear hr21 hg21 hz21 HL_20 Ngy_20 Ngr_20 RZ14_20 RZ19_20 HF_20
          refine storeW_F (i := 7) (oi := { dst := none, op := Op.store 23 (Operand.tmp 5) (Operand.tmp 10), type := 0, pos := "curve.go:119", after := #[{ on := 5, ground := Ground.data }, { on := 3, ground := Ground.data }, { on := 6, ground := Ground.chain }, { on := 0, ground := Ground.phase }, { on := 1, ground := Ground.phase }, { on := 2, ground := Ground.phase }, { on := 3, ground := Ground.phase }, { on := 4, ground := Ground.phase }, { on := 5, ground := Ground.phase }, { on := 6, ground := Ground.phase }], guard := none }) rfl (by kernel_rfl) (by rfl) (.tmp 5) (.tmp 10) rfl (g19) 0 0 rfl [0] yy rfl rfl RZ19_21.out (show 0 < 1 by omega) rfl ?_
          intro W22 hr22 hg22 hz22
          simp only [Act.put, List.setIfInBounds_toArray, List.set_cons_zero, List.set_cons_succ]
          have Ngy_22 := Lib.hid (Ngy_21.out.grown hg22 (by have := HX19_3.out; simp; omega))
          have Ngr_22 := Lib.hid (Ngr_21.out.grown hg22 (by have := HX19_4.out; simp; omega))
          have RZ14_22 := Lib.hid (RZ14_21.out.grown hg22 (by have := HX19_5.out; simp; omega))
          have RZ19_22 : Hid (RAt W22 g19 [yy]) := Lib.hid hr22
          have HF_22 : Hid (Below w.heap.size w W22) := Lib.hid (HF_21.out.grown hg22 HF_21.out.size (fun r hr => by injection hr with hr; have := (show w.heap.size ≤ g19 from (by have := HG19.out; have := HLO3.out; omega)); omega))
          have HL_22 : Hid (u2.heap.size ≤ W22.heap.size) := Lib.hid (Nat.le_trans HL_21.out hg22.size)
          clear hr22 hg22 hz22 HL_21 Ngy_21 Ngr_21 RZ14_21 RZ19_21 HF_21
          refine doneW (by kernel_rfl) ⟨rfl, ?_⟩ _
          exact ⟨g14, g19, Ngy_22.out, Ngr_22.out, RZ14_22.out, RZ19_22.out, HG14.out, HG19.out, (by have := HX19_5.out; omega), HF_22.out, rfl⟩
      · refine wpOp_value (i := 5) (oi := { dst := some 5, op := Op.alloc 23, type := 0, pos := "curve.go:119", after := #[], guard := none }) rfl (by rfl) (exec_alloc 23 rfl (.agg (zbs 32)) zero23 W4) ⟨fun _ => (below_alloc W4 _).mono HL_4.out, ?_⟩
        obtain ⟨W23, hW23, hb23, hz23⟩ := alloc_zero W4
        rw [← hW23]
        obtain ⟨g23, hg23⟩ : ∃ g, g = W4.heap.size := ⟨_, rfl⟩
        rw [← hg23] at hz23 ⊢
        have HG23 : Hid (u2.heap.size ≤ g23) := Lib.hid (by rw [hg23]; exact HL_4.out)
        have HX23_1 : Hid (w.heap.size ≠ g23) := Lib.hid (by have := Ngy_4.out.lt; omega)
        have HX23_2 : Hid (gr ≠ g23) := Lib.hid (by have := Ngr_4.out.lt; omega)
        have Ngy_23 := Lib.hid (Ngy_4.out.keep hb23)
        have Ngr_23 := Lib.hid (Ngr_4.out.keep hb23)
        have HF_23 : Hid (Below w.heap.size w W23) := Lib.hid (HF_4.out.trans (hb23.mono HF_4.out.size))
        have HL_23 : Hid (u2.heap.size ≤ W23.heap.size) := Lib.hid (Nat.le_trans HL_4.out hb23.size)
        have RZ23_23 : Hid (RAt W23 g23 [0]) := Lib.hid (zrow (k := 1) hz23)
        clear hb23 hz23 hg23 hW23 HL_4 Ngy_4 Ngr_4 HF_4
        simp only [Act.put, List.setIfInBounds_toArray, List.set_cons_zero, List.set_cons_succ]
        refine eachW [3, 4] (by kernel_rfl) (by simp) ?_
        intro k hk
        simp only [List.mem_cons, List.not_mem_nil, or_false] at hk
        rcases hk with rfl | rfl
        · refine wpOp_call (i := 3) (oi := { dst := some 10, op := Op.call { callee := Callee.value (Operand.func 25), args := #[Operand.tmp 8, Operand.tmp 9], argTypes := #[23, 23] }, type := 23, pos := "curve.go:119", after := #[{ on := 1, ground := Ground.data }, { on := 2, ground := Ground.data }, { on := 0, ground := Ground.chain }], guard := none }) rfl (by rfl) (exec_callL 25 [.tmp 8, .tmp 9] #[23, 23] rfl [vN y, vN y] rfl (CG25 _)) ((C1.out W23).mono ?_)
          rintro e24 W24 ⟨rfl, hb24⟩
          refine ⟨_, rfl, fun _ => hb24.mono HL_23.out, ?_⟩
          have Ngy_24 := Lib.hid (Ngy_23.out.keep hb24)
          have Ngr_24 := Lib.hid (Ngr_23.out.keep hb24)
          have RZ23_24 := Lib.hid (RZ23_23.out.keep hb24)
          have HF_24 : Hid (Below w.heap.size w W24) := Lib.hid (HF_23.out.trans (hb24.mono HF_23.out.size))
          have HL_24 : Hid (u2.heap.size ≤ W24.heap.size) := Lib.hid (Nat.le_trans HL_23.out hb24.size)
          clear hb24 HL_23 Ngy_23 Ngr_23 RZ23_23 HF_23
          simp only [Act.put, List.setIfInBounds_toArray, List.set_cons_zero, List.set_cons_succ]
          refine opW _ _ (i := 4) (oi := { dst := some 4, op := Op.alloc 23, type := 0, pos := "curve.go:119", after := #[], guard := none }) rfl (by kernel_rfl) (by rfl) (exec_alloc 23 rfl (.agg (zbs 32)) zero23 W24) (fun _ => (below_alloc W24 _).mono HL_24.out) ?_
          obtain ⟨W25, hW25, hb25, hz25⟩ := alloc_zero W24
          rw [← hW25]
          obtain ⟨g25, hg25⟩ : ∃ g, g = W24.heap.size := ⟨_, rfl⟩
          rw [← hg25] at hz25 ⊢
          have HG25 : Hid (u2.heap.size ≤ g25) := Lib.hid (by rw [hg25]; exact HL_24.out)
          have HX25_3 : Hid (w.heap.size ≠ g25) := Lib.hid (by have := Ngy_24.out.lt; omega)
          have HX25_4 : Hid (gr ≠ g25) := Lib.hid (by have := Ngr_24.out.lt; omega)
          have HX25_5 : Hid (g23 ≠ g25) := Lib.hid (by have := RZ23_24.out.lt; omega)
          have Ngy_25 := Lib.hid (Ngy_24.out.keep hb25)
          have Ngr_25 := Lib.hid (Ngr_24.out.keep hb25)
          have RZ23_25 := Lib.hid (RZ23_24.out.keep hb25)
          have HF_25 : Hid (Below w.heap.size w W25) := Lib.hid (HF_24.out.trans (hb25.mono HF_24.out.size))
          have HL_25 : Hid (u2.heap.size ≤ W25.heap.size) := Lib.hid (Nat.le_trans HL_24.out hb25.size)
          have RZ25_25 : Hid (RAt W25 g25 [0]) := Lib.hid (zrow (k := 1) hz25)
          clear hb25 hz25 hg25 hW25 HL_24 Ngy_24 Ngr_24 RZ23_24 HF_24
          simp only [Act.put, List.setIfInBounds_toArray, List.set_cons_zero, List.set_cons_succ]
          refine storeW_F (i := 6) (oi := { dst := none, op := Op.store 23 (Operand.tmp 4) (Operand.tmp 7), type := 0, pos := "curve.go:119", after := #[{ on := 4, ground := Ground.data }, { on := 0, ground := Ground.data }, { on := 3, ground := Ground.chain }, { on := 0, ground := Ground.phase }, { on := 1, ground := Ground.textOnly Departure.lateStores }, { on := 2, ground := Ground.textOnly Departure.lateStores }, { on := 3, ground := Ground.textOnly Departure.lateStoresUnsure }, { on := 4, ground := Ground.phase }, { on := 5, ground := Ground.phase }], guard := none }) rfl (by kernel_rfl) (by rfl) (.tmp 4) (.tmp 7) rfl (g25) 0 0 rfl [0] 1 rfl rfl RZ25_25.out (show 0 < 1 by omega) rfl ?_
          intro W26 hr26 hg26 hz26
          simp only [Act.put, List.setIfInBounds_toArray, List.set_cons_zero, List.set_cons_succ]
          have Ngy_26 := Lib.hid (Ngy_25.out.grown hg26 (by have := HX25_3.out; simp; omega))
          have Ngr_26 := Lib.hid (Ngr_25.out.grown hg26 (by have := HX25_4.out; simp; omega))
          have RZ23_26 := Lib.hid (RZ23_25.out.grown hg26 (by have := HX25_5.out; simp; omega))
          have RZ25_26 : Hid (RAt W26 g25 [1]) := Lib.hid hr26
          have HF_26 : Hid (Below w.heap.size w W26) := Lib.hid (HF_25.out.grown hg26 HF_25.out.size (fun r hr => by injection hr with hr; have := (show w.heap.size ≤ g25 from (by have := HG25.out; have := HLO3.out; omega)); omega))
          have HL_26 : Hid (u2.heap.size ≤ W26.heap.size) := Lib.hid (Nat.le_trans HL_25.out hg26.size)
          clear hr26 hg26 hz26 HL_25 Ngy_25 Ngr_25 RZ23_25 RZ25_25 HF_25
          refine storeW_F (i := 7) (oi := { dst := none, op := Op.store 23 (Operand.tmp 5) (Operand.tmp 10), type := 0, pos := "curve.go:119", after := #[{ on := 5, ground := Ground.data }, { on := 3, ground := Ground.data }, { on := 6, ground := Ground.chain }, { on := 0, ground := Ground.phase }, { on := 1, ground := Ground.phase }, { on := 2, ground := Ground.phase }, { on := 3, ground := Ground.phase }, { on := 4, ground := Ground.phase }, { on := 5, ground := Ground.phase }, { on := 6, ground := Ground.phase }], guard := none }) rfl (by kernel_rfl) (by rfl) (.tmp 5) (.tmp 10) rfl (g23) 0 0 rfl [0] yy rfl rfl RZ23_26.out (show 0 < 1 by omega) rfl ?_
          intro W27 hr27 hg27 hz27
          simp only [Act.put, List.setIfInBounds_toArray, List.set_cons_zero, List.set_cons_succ]
          have Ngy_27 := Lib.hid (Ngy_26.out.grown hg27 (by have := HX23_1.out; simp; omega))
          have Ngr_27 := Lib.hid (Ngr_26.out.grown hg27 (by have := HX23_2.out; simp; omega))
          have RZ23_27 : Hid (RAt W27 g23 [yy]) := Lib.hid hr27
          have RZ25_27 := Lib.hid (RZ25_26.out.grown hg27 (by have := HX25_5.out; simp; omega))
          have HF_27 : Hid (Below w.heap.size w W27) := Lib.hid (HF_26.out.grown hg27 HF_26.out.size (fun r hr => by injection hr with hr; have := (show w.heap.size ≤ g23 from (by have := HG23.out; have := HLO3.out; omega)); omega))
          have HL_27 : Hid (u2.heap.size ≤ W27.heap.size) := Lib.hid (Nat.le_trans HL_26.out hg27.size)
          clear hr27 hg27 hz27 HL_26 Ngy_26 Ngr_26 RZ23_26 RZ25_26 HF_26
          refine doneW (by kernel_rfl) ⟨rfl, ?_⟩ _
          exact ⟨g25, g23, Ngy_27.out, Ngr_27.out, RZ25_27.out, RZ23_27.out, HG25.out, HG23.out, (by have := HX25_5.out; omega), HF_27.out, rfl⟩
        · refine wpOp_value (i := 4) (oi := { dst := some 4, op := Op.alloc 23, type := 0, pos := "curve.go:119", after := #[], guard := none }) rfl (by rfl) (exec_alloc 23 rfl (.agg (zbs 32)) zero23 W23) ⟨fun _ => (below_alloc W23 _).mono HL_23.out, ?_⟩
          obtain ⟨W28, hW28, hb28, hz28⟩ := alloc_zero W23
          rw [← hW28]
          obtain ⟨g28, hg28⟩ : ∃ g, g = W23.heap.size := ⟨_, rfl⟩
          rw [← hg28] at hz28 ⊢
          have HG28 : Hid (u2.heap.size ≤ g28) := Lib.hid (by rw [hg28]; exact HL_23.out)
          have HX28_3 : Hid (w.heap.size ≠ g28) := Lib.hid (by have := Ngy_23.out.lt; omega)
          have HX28_4 : Hid (gr ≠ g28) := Lib.hid (by have := Ngr_23.out.lt; omega)
          have HX28_5 : Hid (g23 ≠ g28) := Lib.hid (by have := RZ23_23.out.lt; omega)
          have Ngy_28 := Lib.hid (Ngy_23.out.keep hb28)
          have Ngr_28 := Lib.hid (Ngr_23.out.keep hb28)
          have RZ23_28 := Lib.hid (RZ23_23.out.keep hb28)
          have HF_28 : Hid (Below w.heap.size w W28) := Lib.hid (HF_23.out.trans (hb28.mono HF_23.out.size))
          have HL_28 : Hid (u2.heap.size ≤ W28.heap.size) := Lib.hid (Nat.le_trans HL_23.out hb28.size)
          have RZ28_28 : Hid (RAt W28 g28 [0]) := Lib.hid (zrow (k := 1) hz28)
          clear hb28 hz28 hg28 hW28 HL_23 Ngy_23 Ngr_23 RZ23_23 HF_23
          simp only [Act.put, List.setIfInBounds_toArray, List.set_cons_zero, List.set_cons_succ]
          refine callW (i := 3) (oi := { dst := some 10, op := Op.call { callee := Callee.value (Operand.func 25), args := #[Operand.tmp 8, Operand.tmp 9], argTypes := #[23, 23] }, type := 23, pos := "curve.go:119", after := #[{ on := 1, ground := Ground.data }, { on := 2, ground := Ground.data }, { on := 0, ground := Ground.chain }], guard := none }) rfl (by kernel_rfl) (by rfl) (exec_callL 25 [.tmp 8, .tmp 9] #[23, 23] rfl [vN y, vN y] rfl (CG25 _)) ((C1.out W28).mono ?_)
          rintro e29 W29 ⟨rfl, hb29⟩
          refine ⟨_, rfl, fun _ => hb29.mono HL_28.out, ?_⟩
          have Ngy_29 := Lib.hid (Ngy_28.out.keep hb29)
          have Ngr_29 := Lib.hid (Ngr_28.out.keep hb29)
          have RZ23_29 := Lib.hid (RZ23_28.out.keep hb29)
          have RZ28_29 := Lib.hid (RZ28_28.out.keep hb29)
          have HF_29 : Hid (Below w.heap.size w W29) := Lib.hid (HF_28.out.trans (hb29.mono HF_28.out.size))
          have HL_29 : Hid (u2.heap.size ≤ W29.heap.size) := Lib.hid (Nat.le_trans HL_28.out hb29.size)
          clear hb29 HL_28 Ngy_28 Ngr_28 RZ23_28 RZ28_28 HF_28
          simp only [Act.put, List.setIfInBounds_toArray, List.set_cons_zero, List.set_cons_succ]
          refine storeW_F (i := 6) (oi := { dst := none, op := Op.store 23 (Operand.tmp 4) (Operand.tmp 7), type := 0, pos := "curve.go:119", after := #[{ on := 4, ground := Ground.data }, { on := 0, ground := Ground.data }, { on := 3, ground := Ground.chain }, { on := 0, ground := Ground.phase }, { on := 1, ground := Ground.textOnly Departure.lateStores }, { on := 2, ground := Ground.textOnly Departure.lateStores }, { on := 3, ground := Ground.textOnly Departure.lateStoresUnsure }, { on := 4, ground := Ground.phase }, { on := 5, ground := Ground.phase }], guard := none }) rfl (by kernel_rfl) (by rfl) (.tmp 4) (.tmp 7) rfl (g28) 0 0 rfl [0] 1 rfl rfl RZ28_29.out (show 0 < 1 by omega) rfl ?_
          intro W30 hr30 hg30 hz30
          simp only [Act.put, List.setIfInBounds_toArray, List.set_cons_zero, List.set_cons_succ]
          have Ngy_30 := Lib.hid (Ngy_29.out.grown hg30 (by have := HX28_3.out; simp; omega))
          have Ngr_30 := Lib.hid (Ngr_29.out.grown hg30 (by have := HX28_4.out; simp; omega))
          have RZ23_30 := Lib.hid (RZ23_29.out.grown hg30 (by have := HX28_5.out; simp; omega))
          have RZ28_30 : Hid (RAt W30 g28 [1]) := Lib.hid hr30
          have HF_30 : Hid (Below w.heap.size w W30) := Lib.hid (HF_29.out.grown hg30 HF_29.out.size (fun r hr => by injection hr with hr; have := (show w.heap.size ≤ g28 from (by have := HG28.out; have := HLO3.out; omega)); omega))
          have HL_30 : Hid (u2.heap.size ≤ W30.heap.size) := Lib.hid (Nat.le_trans HL_29.out hg30.size)
          clear hr30 hg30 hz30 HL_29 Ngy_29 Ngr_29 RZ23_29 RZ28_29 HF_29
          refine storeW_F (i := 7) (oi := { dst := none, op := Op.store 23 (Operand.tmp 5) (Operand.tmp 10), type := 0, pos := "curve.go:119", after := #[{ on := 5, ground := Ground.data }, { on := 3, ground := Ground.data }, { on := 6, ground := Ground.chain }, { on := 0, ground := Ground.phase }, { on := 1, ground := Ground.phase }, { on := 2, ground := Ground.phase }, { on := 3, ground := Ground.phase }, { on := 4, ground := Ground.phase }, { on := 5, ground := Ground.phase }, { on := 6, ground := Ground.phase }], guard := none }) rfl (by kernel_rfl) (by rfl) (.tmp 5) (.tmp 10) rfl (g23) 0 0 rfl [0] yy rfl rfl RZ23_30.out (show 0 < 1 by omega) rfl ?_
          intro W31 hr31 hg31 hz31
          simp only [Act.put, List.setIfInBounds_toArray, List.set_cons_zero, List.set_cons_succ]
          have Ngy_31 := Lib.hid (Ngy_30.out.grown hg31 (by have := HX23_1.out; simp; omega))
          have Ngr_31 := Lib.hid (Ngr_30.out.grown hg31 (by have := HX23_2.out; simp; omega))
          have RZ23_31 : Hid (RAt W31 g23 [yy]) := Lib.hid hr31
          have RZ28_31 := Lib.hid (RZ28_30.out.grown hg31 (by have := HX28_5.out; simp; omega))
          have HF_31 : Hid (Below w.heap.size w W31) := Lib.hid (HF_30.out.grown hg31 HF_30.out.size (fun r hr => by injection hr with hr; have := (show w.heap.size ≤ g23 from (by have := HG23.out; have := HLO3.out; omega)); omega))
          have HL_31 : Hid (u2.heap.size ≤ W31.heap.size) := Lib.hid (Nat.le_trans HL_30.out hg31.size)
          clear hr31 hg31 hz31 HL_30 Ngy_30 Ngr_30 RZ23_30 RZ28_30 HF_30
          refine doneW (by kernel_rfl) ⟨rfl, ?_⟩ _
          exact ⟨g28, g23, Ngy_31.out, Ngr_31.out, RZ28_31.out, RZ23_31.out, HG28.out, HG23.out, (by have := HX28_5.out; omega), HF_31.out, rfl⟩
    · refine wpOp_value (i := 4) (oi := { dst := some 4, op := Op.alloc 23, type := 0, pos := "curve.go:119", after := #[], guard := none }) rfl (by rfl) (exec_alloc 23 rfl (.agg (zbs 32)) zero23 D3) ⟨fun _ => (below_alloc D3 _).mono HL_3.out, ?_⟩
      obtain ⟨W32, hW32, hb32, hz32⟩ := alloc_zero D3
      rw [← hW32]
      obtain ⟨g32, hg32⟩ : ∃ g, g = D3.heap.size := ⟨_, rfl⟩
      rw [← hg32] at hz32 ⊢
      have HG32 : Hid (u2.heap.size ≤ g32) := Lib.hid (by rw [hg32]; exact HL_3.out)
      have HX32_1 : Hid (w.heap.size ≠ g32) := Lib.hid (by have := Ngy_3.out.lt; omega)
      have HX32_2 : Hid (gr ≠ g32) := Lib.hid (by have := Ngr_3.out.lt; omega)
      have Ngy_32 := Lib.hid (Ngy_3.out.keep hb32)
      have Ngr_32 := Lib.hid (Ngr_3.out.keep hb32)
      have HF_32 : Hid (Below w.heap.size w W32) := Lib.hid (HF_3.out.trans (hb32.mono HF_3.out.size))
      have HL_32 : Hid (u2.heap.size ≤ W32.heap.size) := Lib.hid (Nat.le_trans HL_3.out hb32.size)
      have RZ32_32 : Hid (RAt W32 g32 [0]) := Lib.hid (zrow (k := 1) hz32)
      clear hb32 hz32 hg32 hW32 HL_3 Ngy_3 Ngr_3 HF_3
      simp only [Act.put, List.setIfInBounds_toArray, List.set_cons_zero, List.set_cons_succ]
      refine eachW [0, 5] (by kernel_rfl) (by simp) ?_
      intro k hk
      simp only [List.mem_cons, List.not_mem_nil, or_false] at hk
      rcases hk with rfl | rfl
      · refine wpOp_call (i := 0) (oi := { dst := some 7, op := Op.call { callee := Callee.value (Operand.func 17), args := #[Operand.const (Value.int IntKind.u64 1)], argTypes := #[24] }, type := 23, pos := "curve.go:119", after := #[], guard := none }) rfl (by rfl) (exec_callL 17 [.const (.int .u64 1)] #[24] rfl [.int .u64 1] rfl (CG17 _)) ((C0.out W32).mono ?_)
        rintro e33 W33 ⟨rfl, hb33⟩
        refine ⟨_, rfl, fun _ => hb33.mono HL_32.out, ?_⟩
        have Ngy_33 := Lib.hid (Ngy_32.out.keep hb33)
        have Ngr_33 := Lib.hid (Ngr_32.out.keep hb33)
        have RZ32_33 := Lib.hid (RZ32_32.out.keep hb33)
        have HF_33 : Hid (Below w.heap.size w W33) := Lib.hid (HF_32.out.trans (hb33.mono HF_32.out.size))
        have HL_33 : Hid (u2.heap.size ≤ W33.heap.size) := Lib.hid (Nat.le_trans HL_32.out hb33.size)
        clear hb33 HL_32 Ngy_32 Ngr_32 RZ32_32 HF_32
        simp only [Act.put, List.setIfInBounds_toArray, List.set_cons_zero, List.set_cons_succ]
        refine eachW [3, 5] (by kernel_rfl) (by simp) ?_
        intro k hk
        simp only [List.mem_cons, List.not_mem_nil, or_false] at hk
        rcases hk with rfl | rfl
        · refine wpOp_call (i := 3) (oi := { dst := some 10, op := Op.call { callee := Callee.value (Operand.func 25), args := #[Operand.tmp 8, Operand.tmp 9], argTypes := #[23, 23] }, type := 23, pos := "curve.go:119", after := #[{ on := 1, ground := Ground.data }, { on := 2, ground := Ground.data }, { on := 0, ground := Ground.chain }], guard := none }) rfl (by rfl) (exec_callL 25 [.tmp 8, .tmp 9] #[23, 23] rfl [vN y, vN y] rfl (CG25 _)) ((C1.out W33).mono ?_)
          rintro e34 W34 ⟨rfl, hb34⟩
          refine ⟨_, rfl, fun _ => hb34.mono HL_33.out, ?_⟩
          have Ngy_34 := Lib.hid (Ngy_33.out.keep hb34)
          have Ngr_34 := Lib.hid (Ngr_33.out.keep hb34)
          have RZ32_34 := Lib.hid (RZ32_33.out.keep hb34)
          have HF_34 : Hid (Below w.heap.size w W34) := Lib.hid (HF_33.out.trans (hb34.mono HF_33.out.size))
          have HL_34 : Hid (u2.heap.size ≤ W34.heap.size) := Lib.hid (Nat.le_trans HL_33.out hb34.size)
          clear hb34 HL_33 Ngy_33 Ngr_33 RZ32_33 HF_33
          simp only [Act.put, List.setIfInBounds_toArray, List.set_cons_zero, List.set_cons_succ]
          refine opW _ _ (i := 5) (oi := { dst := some 5, op := Op.alloc 23, type := 0, pos := "curve.go:119", after := #[], guard := none }) rfl (by kernel_rfl) (by rfl) (exec_alloc 23 rfl (.agg (zbs 32)) zero23 W34) (fun _ => (below_alloc W34 _).mono HL_34.out) ?_
          obtain ⟨W35, hW35, hb35, hz35⟩ := alloc_zero W34
          rw [← hW35]
          obtain ⟨g35, hg35⟩ : ∃ g, g = W34.heap.size := ⟨_, rfl⟩
          rw [← hg35] at hz35 ⊢
          have HG35 : Hid (u2.heap.size ≤ g35) := Lib.hid (by rw [hg35]; exact HL_34.out)
          have HX35_3 : Hid (w.heap.size ≠ g35) := Lib.hid (by have := Ngy_34.out.lt; omega)
          have HX35_4 : Hid (gr ≠ g35) := Lib.hid (by have := Ngr_34.out.lt; omega)
          have HX35_5 : Hid (g32 ≠ g35) := Lib.hid (by have := RZ32_34.out.lt; omega)
          have Ngy_35 := Lib.hid (Ngy_34.out.keep hb35)
          have Ngr_35 := Lib.hid (Ngr_34.out.keep hb35)
          have RZ32_35 := Lib.hid (RZ32_34.out.keep hb35)
          have HF_35 : Hid (Below w.heap.size w W35) := Lib.hid (HF_34.out.trans (hb35.mono HF_34.out.size))
          have HL_35 : Hid (u2.heap.size ≤ W35.heap.size) := Lib.hid (Nat.le_trans HL_34.out hb35.size)
          have RZ35_35 : Hid (RAt W35 g35 [0]) := Lib.hid (zrow (k := 1) hz35)
          clear hb35 hz35 hg35 hW35 HL_34 Ngy_34 Ngr_34 RZ32_34 HF_34
          simp only [Act.put, List.setIfInBounds_toArray, List.set_cons_zero, List.set_cons_succ]
          refine storeW_F (i := 6) (oi := { dst := none, op := Op.store 23 (Operand.tmp 4) (Operand.tmp 7), type := 0, pos := "curve.go:119", after := #[{ on := 4, ground := Ground.data }, { on := 0, ground := Ground.data }, { on := 3, ground := Ground.chain }, { on := 0, ground := Ground.phase }, { on := 1, ground := Ground.textOnly Departure.lateStores }, { on := 2, ground := Ground.textOnly Departure.lateStores }, { on := 3, ground := Ground.textOnly Departure.lateStoresUnsure }, { on := 4, ground := Ground.phase }, { on := 5, ground := Ground.phase }], guard := none }) rfl (by kernel_rfl) (by rfl) (.tmp 4) (.tmp 7) rfl (g32) 0 0 rfl [0] 1 rfl rfl RZ32_35.out (show 0 < 1 by omega) rfl ?_
          intro W36 hr36 hg36 hz36
          simp only [Act.put, List.setIfInBounds_toArray, List.set_cons_zero, List.set_cons_succ]
          have Ngy_36 := Lib.hid (Ngy_35.out.grown hg36 (by have := HX32_1.out; simp; omega))
          have Ngr_36 := Lib.hid (Ngr_35.out.grown hg36 (by have := HX32_2.out; simp; omega))
          have RZ32_36 : Hid (RAt W36 g32 [1]) := Lib.hid hr36
          have RZ35_36 := Lib.hid (RZ35_35.out.grown hg36 (by have := HX35_5.out; simp; omega))
          have HF_36 : Hid (Below w.heap.size w W36) := Lib.hid (HF_35.out.grown hg36 HF_35.out.size (fun r hr => by injection hr with hr; have := (show w.heap.size ≤ g32 from (by have := HG32.out; have := HLO3.out; omega)); omega))
          have HL_36 : Hid (u2.heap.size ≤ W36.heap.size) := Lib.hid (Nat.le_trans HL_35.out hg36.size)
          clear hr36 hg36 hz36 HL_35 Ngy_35 Ngr_35 RZ32_35 RZ35_35 HF_35
          refine storeW_F (i := 7) (oi := { dst := none, op := Op.store 23 (Operand.tmp 5) (Operand.tmp 10), type := 0, pos := "curve.go:119", after := #[{ on := 5, ground := Ground.data }, { on := 3, ground := Ground.data }, { on := 6, ground := Ground.chain }, { on := 0, ground := Ground.phase }, { on := 1, ground := Ground.phase }, { on := 2, ground := Ground.phase }, { on := 3, ground := Ground.phase }, { on := 4, ground := Ground.phase }, { on := 5, ground := Ground.phase }, { on := 6, ground := Ground.phase }], guard := none }) rfl (by kernel_rfl) (by rfl) (.tmp 5) (.tmp 10) rfl (g35) 0 0 rfl [0] yy rfl rfl RZ35_36.out (show 0 < 1 by omega) rfl ?_
          intro W37 hr37 hg37 hz37
          simp only [Act.put, List.setIfInBounds_toArray, List.set_cons_zero, List.set_cons_succ]
          have Ngy_37 := Lib.hid (Ngy_36.out.grown hg37 (by have := HX35_3.out; simp; omega))
          have Ngr_37 := Lib.hid (Ngr_36.out.grown hg37 (by have := HX35_4.out; simp; omega))
          have RZ32_37 := Lib.hid (RZ32_36.out.grown hg37 (by have := HX35_5.out; simp; omega))
          have RZ35_37 : Hid (RAt W37 g35 [yy]) := Lib.hid hr37
          have HF_37 : Hid (Below w.heap.size w W37) := Lib.hid (HF_36.out.grown hg37 HF_36.out.size (fun r hr => by injection hr with hr; have := (show w.heap.size ≤ g35 from (by have := HG35.out; have := HLO3.out; omega)); omega))
          have HL_37 : Hid (u2.heap.size ≤ W37.heap.size) := Lib.hid (Nat.le_trans HL_36.out hg37.size)
          clear hr37 hg37 hz37 HL_36 Ngy_36 Ngr_36 RZ32_36 RZ35_36 HF_36
          refine doneW (by kernel_rfl) ⟨rfl, ?_⟩ _
          exact ⟨g32, g35, Ngy_37.out, Ngr_37.out, RZ32_37.out, RZ35_37.out, HG32.out, HG35.out, (by have := HX35_5.out; omega), HF_37.out, rfl⟩
        · refine wpOp_value (i := 5) (oi := { dst := some 5, op := Op.alloc 23, type := 0, pos := "curve.go:119", after := #[], guard := none }) rfl (by rfl) (exec_alloc 23 rfl (.agg (zbs 32)) zero23 W33) ⟨fun _ => (below_alloc W33 _).mono HL_33.out, ?_⟩
          obtain ⟨W38, hW38, hb38, hz38⟩ := alloc_zero W33
          rw [← hW38]
          obtain ⟨g38, hg38⟩ : ∃ g, g = W33.heap.size := ⟨_, rfl⟩
          rw [← hg38] at hz38 ⊢
          have HG38 : Hid (u2.heap.size ≤ g38) := Lib.hid (by rw [hg38]; exact HL_33.out)
          have HX38_3 : Hid (w.heap.size ≠ g38) := Lib.hid (by have := Ngy_33.out.lt; omega)
          have HX38_4 : Hid (gr ≠ g38) := Lib.hid (by have := Ngr_33.out.lt; omega)
          have HX38_5 : Hid (g32 ≠ g38) := Lib.hid (by have := RZ32_33.out.lt; omega)
          have Ngy_38 := Lib.hid (Ngy_33.out.keep hb38)
          have Ngr_38 := Lib.hid (Ngr_33.out.keep hb38)
          have RZ32_38 := Lib.hid (RZ32_33.out.keep hb38)
          have HF_38 : Hid (Below w.heap.size w W38) := Lib.hid (HF_33.out.trans (hb38.mono HF_33.out.size))
          have HL_38 : Hid (u2.heap.size ≤ W38.heap.size) := Lib.hid (Nat.le_trans HL_33.out hb38.size)
          have RZ38_38 : Hid (RAt W38 g38 [0]) := Lib.hid (zrow (k := 1) hz38)
          clear hb38 hz38 hg38 hW38 HL_33 Ngy_33 Ngr_33 RZ32_33 HF_33
          simp only [Act.put, List.setIfInBounds_toArray, List.set_cons_zero, List.set_cons_succ]
          refine callW (i := 3) (oi := { dst := some 10, op := Op.call { callee := Callee.value (Operand.func 25), args := #[Operand.tmp 8, Operand.tmp 9], argTypes := #[23, 23] }, type := 23, pos := "curve.go:119", after := #[{ on := 1, ground := Ground.data }, { on := 2, ground := Ground.data }, { on := 0, ground := Ground.chain }], guard := none }) rfl (by kernel_rfl) (by rfl) (exec_callL 25 [.tmp 8, .tmp 9] #[23, 23] rfl [vN y, vN y] rfl (CG25 _)) ((C1.out W38).mono ?_)
          rintro e39 W39 ⟨rfl, hb39⟩
          refine ⟨_, rfl, fun _ => hb39.mono HL_38.out, ?_⟩
          have Ngy_39 := Lib.hid (Ngy_38.out.keep hb39)
          have Ngr_39 := Lib.hid (Ngr_38.out.keep hb39)
          have RZ32_39 := Lib.hid (RZ32_38.out.keep hb39)
          have RZ38_39 := Lib.hid (RZ38_38.out.keep hb39)
          have HF_39 : Hid (Below w.heap.size w W39) := Lib.hid (HF_38.out.trans (hb39.mono HF_38.out.size))
          have HL_39 : Hid (u2.heap.size ≤ W39.heap.size) := Lib.hid (Nat.le_trans HL_38.out hb39.size)
          clear hb39 HL_38 Ngy_38 Ngr_38 RZ32_38 RZ38_38 HF_38
          simp only [Act.put, List.setIfInBounds_toArray, List.set_cons_zero, List.set_cons_succ]
          refine storeW_F (i := 6) (oi := { dst := none, op := Op.store 23 (Operand.tmp 4) (Operand.tmp 7), type := 0, pos := "curve.go:119", after := #[{ on := 4, ground := Ground.data }, { on := 0, ground := Ground.data }, { on := 3, ground := Ground.chain }, { on := 0, ground := Ground.phase }, { on := 1, ground := Ground.textOnly Departure.lateStores }, { on := 2, ground := Ground.textOnly Departure.lateStores }, { on := 3, ground := Ground.textOnly Departure.lateStoresUnsure }, { on := 4, ground := Ground.phase }, { on := 5, ground := Ground.phase }], guard := none }) rfl (by kernel_rfl) (by rfl) (.tmp 4) (.tmp 7) rfl (g32) 0 0 rfl [0] 1 rfl rfl RZ32_39.out (show 0 < 1 by omega) rfl ?_
          intro W40 hr40 hg40 hz40
          simp only [Act.put, List.setIfInBounds_toArray, List.set_cons_zero, List.set_cons_succ]
          have Ngy_40 := Lib.hid (Ngy_39.out.grown hg40 (by have := HX32_1.out; simp; omega))
          have Ngr_40 := Lib.hid (Ngr_39.out.grown hg40 (by have := HX32_2.out; simp; omega))
          have RZ32_40 : Hid (RAt W40 g32 [1]) := Lib.hid hr40
          have RZ38_40 := Lib.hid (RZ38_39.out.grown hg40 (by have := HX38_5.out; simp; omega))
          have HF_40 : Hid (Below w.heap.size w W40) := Lib.hid (HF_39.out.grown hg40 HF_39.out.size (fun r hr => by injection hr with hr; have := (show w.heap.size ≤ g32 from (by have := HG32.out; have := HLO3.out; omega)); omega))
          have HL_40 : Hid (u2.heap.size ≤ W40.heap.size) := Lib.hid (Nat.le_trans HL_39.out hg40.size)
          clear hr40 hg40 hz40 HL_39 Ngy_39 Ngr_39 RZ32_39 RZ38_39 HF_39
          refine storeW_F (i := 7) (oi := { dst := none, op := Op.store 23 (Operand.tmp 5) (Operand.tmp 10), type := 0, pos := "curve.go:119", after := #[{ on := 5, ground := Ground.data }, { on := 3, ground := Ground.data }, { on := 6, ground := Ground.chain }, { on := 0, ground := Ground.phase }, { on := 1, ground := Ground.phase }, { on := 2, ground := Ground.phase }, { on := 3, ground := Ground.phase }, { on := 4, ground := Ground.phase }, { on := 5, ground := Ground.phase }, { on := 6, ground := Ground.phase }], guard := none }) rfl (by kernel_rfl) (by rfl) (.tmp 5) (.tmp 10) rfl (g38) 0 0 rfl [0] yy rfl rfl RZ38_40.out (show 0 < 1 by omega) rfl ?_
          intro W41 hr41 hg41 hz41
          simp only [Act.put, List.setIfInBounds_toArray, List.set_cons_zero, List.set_cons_succ]
          have Ngy_41 := Lib.hid (Ngy_40.out.grown hg41 (by have := HX38_3.out; simp; omega))
          have Ngr_41 := Lib.hid (Ngr_40.out.grown hg41 (by have := HX38_4.out; simp; omega))
          have RZ32_41 := Lib.hid (RZ32_40.out.grown hg41 (by have := HX38_5.out; simp; omega))
          have RZ38_41 : Hid (RAt W41 g38 [yy]) := Lib.hid hr41
          have HF_41 : Hid (Below w.heap.size w W41) := Lib.hid (HF_40.out.grown hg41 HF_40.out.size (fun r hr => by injection hr with hr; have := (show w.heap.size ≤ g38 from (by have := HG38.out; have := HLO3.out; omega)); omega))
          have HL_41 : Hid (u2.heap.size ≤ W41.heap.size) := Lib.hid (Nat.le_trans HL_40.out hg41.size)
          clear hr41 hg41 hz41 HL_40 Ngy_40 Ngr_40 RZ32_40 RZ38_40 HF_40
          refine doneW (by kernel_rfl) ⟨rfl, ?_⟩ _
          exact ⟨g32, g38, Ngy_41.out, Ngr_41.out, RZ32_41.out, RZ38_41.out, HG32.out, HG38.out, (by have := HX38_5.out; omega), HF_41.out, rfl⟩
      · refine wpOp_value (i := 5) (oi := { dst := some 5, op := Op.alloc 23, type := 0, pos := "curve.go:119", after := #[], guard := none }) rfl (by rfl) (exec_alloc 23 rfl (.agg (zbs 32)) zero23 W32) ⟨fun _ => (below_alloc W32 _).mono HL_32.out, ?_⟩
        obtain ⟨W42, hW42, hb42, hz42⟩ := alloc_zero W32
        rw [← hW42]
        obtain ⟨g42, hg42⟩ : ∃ g, g = W32.heap.size := ⟨_, rfl⟩
        rw [← hg42] at hz42 ⊢
        have HG42 : Hid (u2.heap.size ≤ g42) := Lib.hid (by rw [hg42]; exact HL_32.out)
        have HX42_3 : Hid (w.heap.size ≠ g42) := Lib.hid (by have := Ngy_32.out.lt; omega)
        have HX42_4 : Hid (gr ≠ g42) := Lib.hid (by have := Ngr_32.out.lt; omega)
        have HX42_5 : Hid (g32 ≠ g42) := Lib.hid (by have := RZ32_32.out.lt; omega)
        have Ngy_42 := Lib.hid (Ngy_32.out.keep hb42)
        have Ngr_42 := Lib.hid (Ngr_32.out.keep hb42)
        have RZ32_42 := Lib.hid (RZ32_32.out.keep hb42)
        have HF_42 : Hid (Below w.heap.size w W42) := Lib.hid (HF_32.out.trans (hb42.mono HF_32.out.size))
        have HL_42 : Hid (u2.heap.size ≤ W42.heap.size) := Lib.hid (Nat.le_trans HL_32.out hb42.size)
        have RZ42_42 : Hid (RAt W42 g42 [0]) := Lib.hid (zrow (k := 1) hz42)
        clear hb42 hz42 hg42 hW42 HL_32 Ngy_32 Ngr_32 RZ32_32 HF_32
        simp only [Act.put, List.setIfInBounds_toArray, List.set_cons_zero, List.set_cons_succ]
        refine callW (i := 0) (oi := { dst := some 7, op := Op.call { callee := Callee.value (Operand.func 17), args := #[Operand.const (Value.int IntKind.u64 1)], argTypes := #[24] }, type := 23, pos := "curve.go:119", after := #[], guard := none }) rfl (by kernel_rfl) (by rfl) (exec_callL 17 [.const (.int .u64 1)] #[24] rfl [.int .u64 1] rfl (CG17 _)) ((C0.out W42).mono ?_)
        rintro e43 W43 ⟨rfl, hb43⟩
        refine ⟨_, rfl, fun _ => hb43.mono HL_42.out, ?_⟩
        have Ngy_43 := Lib.hid (Ngy_42.out.keep hb43)
        have Ngr_43 := Lib.hid (Ngr_42.out.keep hb43)
        have RZ32_43 := Lib.hid (RZ32_42.out.keep hb43)
        have RZ42_43 := Lib.hid (RZ42_42.out.keep hb43)
        have HF_43 : Hid (Below w.heap.size w W43) := Lib.hid (HF_42.out.trans (hb43.mono HF_42.out.size))
        have HL_43 : Hid (u2.heap.size ≤ W43.heap.size) := Lib.hid (Nat.le_trans HL_42.out hb43.size)
        clear hb43 HL_42 Ngy_42 Ngr_42 RZ32_42 RZ42_42 HF_42
        simp only [Act.put, List.setIfInBounds_toArray, List.set_cons_zero, List.set_cons_succ]
        refine callW (i := 3) (oi := { dst := some 10, op := Op.call { callee := Callee.value (Operand.func 25), args := #[Operand.tmp 8, Operand.tmp 9], argTypes := #[23, 23] }, type := 23, pos := "curve.go:119", after := #[{ on := 1, ground := Ground.data }, { on := 2, ground := Ground.data }, { on := 0, ground := Ground.chain }], guard := none }) rfl (by kernel_rfl) (by rfl) (exec_callL 25 [.tmp 8, .tmp 9] #[23, 23] rfl [vN y, vN y] rfl (CG25 _)) ((C1.out W43).mono ?_)
        rintro e44 W44 ⟨rfl, hb44⟩
        refine ⟨_, rfl, fun _ => hb44.mono HL_43.out, ?_⟩
        have Ngy_44 := Lib.hid (Ngy_43.out.keep hb44)
        have Ngr_44 := Lib.hid (Ngr_43.out.keep hb44)
        have RZ32_44 := Lib.hid (RZ32_43.out.keep hb44)
        have RZ42_44 := Lib.hid (RZ42_43.out.keep hb44)
        have HF_44 : Hid (Below w.heap.size w W44) := Lib.hid (HF_43.out.trans (hb44.mono HF_43.out.size))
        have HL_44 : Hid (u2.heap.size ≤ W44.heap.size) := Lib.hid (Nat.le_trans HL_43.out hb44.size)
        clear hb44 HL_43 Ngy_43 Ngr_43 RZ32_43 RZ42_43 HF_43
        simp only [Act.put, List.setIfInBounds_toArray, List.set_cons_zero, List.set_cons_succ]
        refine storeW_F (i := 6) (oi := { dst := none, op := Op.store 23 (Operand.tmp 4) (Operand.tmp 7), type := 0, pos := "curve.go:119", after := #[{ on := 4, ground := Ground.data }, { on := 0, ground := Ground.data }, { on := 3, ground := Ground.chain }, { on := 0, ground := Ground.phase }, { on := 1, ground := Ground.textOnly Departure.lateStores }, { on := 2, ground := Ground.textOnly Departure.lateStores }, { on := 3, ground := Ground.textOnly Departure.lateStoresUnsure }, { on := 4, ground := Ground.phase }, { on := 5, ground := Ground.phase }], guard := none }) rfl (by kernel_rfl) (by rfl) (.tmp 4) (.tmp 7) rfl (g32) 0 0 rfl [0] 1 rfl rfl RZ32_44.out (show 0 < 1 by omega) rfl ?_
        intro W45 hr45 hg45 hz45
        simp only [Act.put, List.setIfInBounds_toArray, List.set_cons_zero, List.set_cons_succ]
        have Ngy_45 := Lib.hid (Ngy_44.out.grown hg45 (by have := HX32_1.out; simp; omega))
        have Ngr_45 := Lib.hid (Ngr_44.out.grown hg45 (by have := HX32_2.out; simp; omega))
        have RZ32_45 : Hid (RAt W45 g32 [1]) := Lib.hid hr45
        have RZ42_45 := Lib.hid (RZ42_44.out.grown hg45 (by have := HX42_5.out; simp; omega))
        have HF_45 : Hid (Below w.heap.size w W45) := Lib.hid (HF_44.out.grown hg45 HF_44.out.size (fun r hr => by injection hr with hr; have := (show w.heap.size ≤ g32 from (by have := HG32.out; have := HLO3.out; omega)); omega))
        have HL_45 : Hid (u2.heap.size ≤ W45.heap.size) := Lib.hid (Nat.le_trans HL_44.out hg45.size)
        clear hr45 hg45 hz45 HL_44 Ngy_44 Ngr_44 RZ32_44 RZ42_44 HF_44
        refine storeW_F (i := 7) (oi := { dst := none, op := Op.store 23 (Operand.tmp 5) (Operand.tmp 10), type := 0, pos := "curve.go:119", after := #[{ on := 5, ground := Ground.data }, { on := 3, ground := Ground.data }, { on := 6, ground := Ground.chain }, { on := 0, ground := Ground.phase }, { on := 1, ground := Ground.phase }, { on := 2, ground := Ground.phase }, { on := 3, ground := Ground.phase }, { on := 4, ground := Ground.phase }, { on := 5, ground := Ground.phase }, { on := 6, ground := Ground.phase }], guard := none }) rfl (by kernel_rfl) (by rfl) (.tmp 5) (.tmp 10) rfl (g42) 0 0 rfl [0] yy rfl rfl RZ42_45.out (show 0 < 1 by omega) rfl ?_
        intro W46 hr46 hg46 hz46
        simp only [Act.put, List.setIfInBounds_toArray, List.set_cons_zero, List.set_cons_succ]
        have Ngy_46 := Lib.hid (Ngy_45.out.grown hg46 (by have := HX42_3.out; simp; omega))
        have Ngr_46 := Lib.hid (Ngr_45.out.grown hg46 (by have := HX42_4.out; simp; omega))
        have RZ32_46 := Lib.hid (RZ32_45.out.grown hg46 (by have := HX42_5.out; simp; omega))
        have RZ42_46 : Hid (RAt W46 g42 [yy]) := Lib.hid hr46
        have HF_46 : Hid (Below w.heap.size w W46) := Lib.hid (HF_45.out.grown hg46 HF_45.out.size (fun r hr => by injection hr with hr; have := (show w.heap.size ≤ g42 from (by have := HG42.out; have := HLO3.out; omega)); omega))
        have HL_46 : Hid (u2.heap.size ≤ W46.heap.size) := Lib.hid (Nat.le_trans HL_45.out hg46.size)
        clear hr46 hg46 hz46 HL_45 Ngy_45 Ngr_45 RZ32_45 RZ42_45 HF_45
        refine doneW (by kernel_rfl) ⟨rfl, ?_⟩ _
        exact ⟨g32, g42, Ngy_46.out, Ngr_46.out, RZ32_46.out, RZ42_46.out, HG32.out, HG42.out, (by have := HX42_5.out; omega), HF_46.out, rfl⟩
    · refine wpOp_value (i := 5) (oi := { dst := some 5, op := Op.alloc 23, type := 0, pos := "curve.go:119", after := #[], guard := none }) rfl (by rfl) (exec_alloc 23 rfl (.agg (zbs 32)) zero23 D3) ⟨fun _ => (below_alloc D3 _).mono HL_3.out, ?_⟩
      obtain ⟨W47, hW47, hb47, hz47⟩ := alloc_zero D3
      rw [← hW47]
      obtain ⟨g47, hg47⟩ : ∃ g, g = D3.heap.size := ⟨_, rfl⟩
      rw [← hg47] at hz47 ⊢
      have HG47 : Hid (u2.heap.size ≤ g47) := Lib.hid (by rw [hg47]; exact HL_3.out)
      have HX47_1 : Hid (w.heap.size ≠ g47) := Lib.hid (by have := Ngy_3.out.lt; omega)
      have HX47_2 : Hid (gr ≠ g47) := Lib.hid (by have := Ngr_3.out.lt; omega)
      have Ngy_47 := Lib.hid (Ngy_3.out.keep hb47)
      have Ngr_47 := Lib.hid (Ngr_3.out.keep hb47)
      have HF_47 : Hid (Below w.heap.size w W47) := Lib.hid (HF_3.out.trans (hb47.mono HF_3.out.size))
      have HL_47 : Hid (u2.heap.size ≤ W47.heap.size) := Lib.hid (Nat.le_trans HL_3.out hb47.size)
      have RZ47_47 : Hid (RAt W47 g47 [0]) := Lib.hid (zrow (k := 1) hz47)
      clear hb47 hz47 hg47 hW47 HL_3 Ngy_3 Ngr_3 HF_3
      simp only [Act.put, List.setIfInBounds_toArray, List.set_cons_zero, List.set_cons_succ]
      refine eachW [0, 4] (by kernel_rfl) (by simp) ?_
      intro k hk
      simp only [List.mem_cons, List.not_mem_nil, or_false] at hk
      rcases hk with rfl | rfl
      · refine wpOp_call (i := 0) (oi := { dst := some 7, op := Op.call { callee := Callee.value (Operand.func 17), args := #[Operand.const (Value.int IntKind.u64 1)], argTypes := #[24] }, type := 23, pos := "curve.go:119", after := #[], guard := none }) rfl (by rfl) (exec_callL 17 [.const (.int .u64 1)] #[24] rfl [.int .u64 1] rfl (CG17 _)) ((C0.out W47).mono ?_)
        rintro e48 W48 ⟨rfl, hb48⟩
        refine ⟨_, rfl, fun _ => hb48.mono HL_47.out, ?_⟩
        have Ngy_48 := Lib.hid (Ngy_47.out.keep hb48)
        have Ngr_48 := Lib.hid (Ngr_47.out.keep hb48)
        have RZ47_48 := Lib.hid (RZ47_47.out.keep hb48)
        have HF_48 : Hid (Below w.heap.size w W48) := Lib.hid (HF_47.out.trans (hb48.mono HF_47.out.size))
        have HL_48 : Hid (u2.heap.size ≤ W48.heap.size) := Lib.hid (Nat.le_trans HL_47.out hb48.size)
        clear hb48 HL_47 Ngy_47 Ngr_47 RZ47_47 HF_47
        simp only [Act.put, List.setIfInBounds_toArray, List.set_cons_zero, List.set_cons_succ]
        refine eachW [3, 4] (by kernel_rfl) (by simp) ?_
        intro k hk
        simp only [List.mem_cons, List.not_mem_nil, or_false] at hk
        rcases hk with rfl | rfl
        · refine wpOp_call (i := 3) (oi := { dst := some 10, op := Op.call { callee := Callee.value (Operand.func 25), args := #[Operand.tmp 8, Operand.tmp 9], argTypes := #[23, 23] }, type := 23, pos := "curve.go:119", after := #[{ on := 1, ground := Ground.data }, { on := 2, ground := Ground.data }, { on := 0, ground := Ground.chain }], guard := none }) rfl (by rfl) (exec_callL 25 [.tmp 8, .tmp 9] #[23, 23] rfl [vN y, vN y] rfl (CG25 _)) ((C1.out W48).mono ?_)
          rintro e49 W49 ⟨rfl, hb49⟩
          refine ⟨_, rfl, fun _ => hb49.mono HL_48.out, ?_⟩
          have Ngy_49 := Lib.hid (Ngy_48.out.keep hb49)
          have Ngr_49 := Lib.hid (Ngr_48.out.keep hb49)
          have RZ47_49 := Lib.hid (RZ47_48.out.keep hb49)
          have HF_49 : Hid (Below w.heap.size w W49) := Lib.hid (HF_48.out.trans (hb49.mono HF_48.out.size))
          have HL_49 : Hid (u2.heap.size ≤ W49.heap.size) := Lib.hid (Nat.le_trans HL_48.out hb49.size)
          clear hb49 HL_48 Ngy_48 Ngr_48 RZ47_48 HF_48
          simp only [Act.put, List.setIfInBounds_toArray, List.set_cons_zero, List.set_cons_succ]
          refine opW _ _ (i := 4) (oi := { dst := some 4, op := Op.alloc 23, type := 0, pos := "curve.go:119", after := #[], guard := none }) rfl (by kernel_rfl) (by rfl) (exec_alloc 23 rfl (.agg (zbs 32)) zero23 W49) (fun _ => (below_alloc W49 _).mono HL_49.out) ?_
          obtain ⟨W50, hW50, hb50, hz50⟩ := alloc_zero W49
          rw [← hW50]
          obtain ⟨g50, hg50⟩ : ∃ g, g = W49.heap.size := ⟨_, rfl⟩
          rw [← hg50] at hz50 ⊢
          have HG50 : Hid (u2.heap.size ≤ g50) := Lib.hid (by rw [hg50]; exact HL_49.out)
          have HX50_3 : Hid (w.heap.size ≠ g50) := Lib.hid (by have := Ngy_49.out.lt; omega)
          have HX50_4 : Hid (gr ≠ g50) := Lib.hid (by have := Ngr_49.out.lt; omega)
          have HX50_5 : Hid (g47 ≠ g50) := Lib.hid (by have := RZ47_49.out.lt; omega)
          have Ngy_50 := Lib.hid (Ngy_49.out.keep hb50)
          have Ngr_50 := Lib.hid (Ngr_49.out.keep hb50)
          have RZ47_50 := Lib.hid (RZ47_49.out.keep hb50)
          have HF_50 : Hid (Below w.heap.size w W50) := Lib.hid (HF_49.out.trans (hb50.mono HF_49.out.size))
          have HL_50 : Hid (u2.heap.size ≤ W50.heap.size) := Lib.hid (Nat.le_trans HL_49.out hb50.size)
          have RZ50_50 : Hid (RAt W50 g50 [0]) := Lib.hid (zrow (k := 1) hz50)
          clear hb50 hz50 hg50 hW50 HL_49 Ngy_49 Ngr_49 RZ47_49 HF_49
          simp only [Act.put, List.setIfInBounds_toArray, List.set_cons_zero, List.set_cons_succ]
          refine storeW_F (i := 6) (oi := { dst := none, op := Op.store 23 (Operand.tmp 4) (Operand.tmp 7), type := 0, pos := "curve.go:119", after := #[{ on := 4, ground := Ground.data }, { on := 0, ground := Ground.data }, { on := 3, ground := Ground.chain }, { on := 0, ground := Ground.phase }, { on := 1, ground := Ground.textOnly Departure.lateStores }, { on := 2, ground := Ground.textOnly Departure.lateStores }, { on := 3, ground := Ground.textOnly Departure.lateStoresUnsure }, { on := 4, ground := Ground.phase }, { on := 5, ground := Ground.phase }], guard := none }) rfl (by kernel_rfl) (by rfl) (.tmp 4) (.tmp 7) rfl (g50) 0 0 rfl [0] 1 rfl rfl RZ50_50.out (show 0 < 1 by omega) rfl ?_
          intro W51 hr51 hg51 hz51
          simp only [Act.put, List.setIfInBounds_toArray, List.set_cons_zero, List.set_cons_succ]
          have Ngy_51 := Lib.hid (Ngy_50.out.grown hg51 (by have := HX50_3.out; simp; omega))
          have Ngr_51 := Lib.hid (Ngr_50.out.grown hg51 (by have := HX50_4.out; simp; omega))
          have RZ47_51 := Lib.hid (RZ47_50.out.grown hg51 (by have := HX50_5.out; simp; omega))
          have RZ50_51 : Hid (RAt W51 g50 [1]) := Lib.hid hr51
          have HF_51 : Hid (Below w.heap.size w W51) := Lib.hid (HF_50.out.grown hg51 HF_50.out.size (fun r hr => by injection hr with hr; have := (show w.heap.size ≤ g50 from (by have := HG50.out; have := HLO3.out; omega)); omega))
          have HL_51 : Hid (u2.heap.size ≤ W51.heap.size) := Lib.hid (Nat.le_trans HL_50.out hg51.size)
          clear hr51 hg51 hz51 HL_50 Ngy_50 Ngr_50 RZ47_50 RZ50_50 HF_50
          refine storeW_F (i := 7) (oi := { dst := none, op := Op.store 23 (Operand.tmp 5) (Operand.tmp 10), type := 0, pos := "curve.go:119", after := #[{ on := 5, ground := Ground.data }, { on := 3, ground := Ground.data }, { on := 6, ground := Ground.chain }, { on := 0, ground := Ground.phase }, { on := 1, ground := Ground.phase }, { on := 2, ground := Ground.phase }, { on := 3, ground := Ground.phase }, { on := 4, ground := Ground.phase }, { on := 5, ground := Ground.phase }, { on := 6, ground := Ground.phase }], guard := none }) rfl (by kernel_rfl) (by rfl) (.tmp 5) (.tmp 10) rfl (g47) 0 0 rfl [0] yy rfl rfl RZ47_51.out (show 0 < 1 by omega) rfl ?_
          intro W52 hr52 hg52 hz52
          simp only [Act.put, List.setIfInBounds_toArray, List.set_cons_zero, List.set_cons_succ]
          have Ngy_52 := Lib.hid (Ngy_51.out.grown hg52 (by have := HX47_1.out; simp; omega))
          have Ngr_52 := Lib.hid (Ngr_51.out.grown hg52 (by have := HX47_2.out; simp; omega))
          have RZ47_52 : Hid (RAt W52 g47 [yy]) := Lib.hid hr52
          have RZ50_52 := Lib.hid (RZ50_51.out.grown hg52 (by have := HX50_5.out; simp; omega))
          have HF_52 : Hid (Below w.heap.size w W52) := Lib.hid (HF_51.out.grown hg52 HF_51.out.size (fun r hr => by injection hr with hr; have := (show w.heap.size ≤ g47 from (by have := HG47.out; have := HLO3.out; omega)); omega))
          have HL_52 : Hid (u2.heap.size ≤ W52.heap.size) := Lib.hid (Nat.le_trans HL_51.out hg52.size)
          clear hr52 hg52 hz52 HL_51 Ngy_51 Ngr_51 RZ47_51 RZ50_51 HF_51
          refine doneW (by kernel_rfl) ⟨rfl, ?_⟩ _
          exact ⟨g50, g47, Ngy_52.out, Ngr_52.out, RZ50_52.out, RZ47_52.out, HG50.out, HG47.out, (by have := HX50_5.out; omega), HF_52.out, rfl⟩
        · refine wpOp_value (i := 4) (oi := { dst := some 4, op := Op.alloc 23, type := 0, pos := "curve.go:119", after := #[], guard := none }) rfl (by rfl) (exec_alloc 23 rfl (.agg (zbs 32)) zero23 W48) ⟨fun _ => (below_alloc W48 _).mono HL_48.out, ?_⟩
          obtain ⟨W53, hW53, hb53, hz53⟩ := alloc_zero W48
          rw [← hW53]
          obtain ⟨g53, hg53⟩ : ∃ g, g = W48.heap.size := ⟨_, rfl⟩
          rw [← hg53] at hz53 ⊢
          have HG53 : Hid (u2.heap.size ≤ g53) := Lib.hid (by rw [hg53]; exact HL_48.out)
          have HX53_3 : Hid (w.heap.size ≠ g53) := Lib.hid (by have := Ngy_48.out.lt; omega)
          have HX53_4 : Hid (gr ≠ g53) := Lib.hid (by have := Ngr_48.out.lt; omega)
          have HX53_5 : Hid (g47 ≠ g53) := Lib.hid (by have := RZ47_48.out.lt; omega)
          have Ngy_53 := Lib.hid (Ngy_48.out.keep hb53)
          have Ngr_53 := Lib.hid (Ngr_48.out.keep hb53)
          have RZ47_53 := Lib.hid (RZ47_48.out.keep hb53)
          have HF_53 : Hid (Below w.heap.size w W53) := Lib.hid (HF_48.out.trans (hb53.mono HF_48.out.size))
          have HL_53 : Hid (u2.heap.size ≤ W53.heap.size) := Lib.hid (Nat.le_trans HL_48.out hb53.size)
          have RZ53_53 : Hid (RAt W53 g53 [0]) := Lib.hid (zrow (k := 1) hz53)
          clear hb53 hz53 hg53 hW53 HL_48 Ngy_48 Ngr_48 RZ47_48 HF_48
          simp only [Act.put, List.setIfInBounds_toArray, List.set_cons_zero, List.set_cons_succ]
          refine callW (i := 3) (oi := { dst := some 10, op := Op.call { callee := Callee.value (Operand.func 25), args := #[Operand.tmp 8, Operand.tmp 9], argTypes := #[23, 23] }, type := 23, pos := "curve.go:119", after := #[{ on := 1, ground := Ground.data }, { on := 2, ground := Ground.data }, { on := 0, ground := Ground.chain }], guard := none }) rfl (by kernel_rfl) (by rfl) (exec_callL 25 [.tmp 8, .tmp 9] #[23, 23] rfl [vN y, vN y] rfl (CG25 _)) ((C1.out W53).mono ?_)
          rintro e54 W54 ⟨rfl, hb54⟩
          refine ⟨_, rfl, fun _ => hb54.mono HL_53.out, ?_⟩
          have Ngy_54 := Lib.hid (Ngy_53.out.keep hb54)
          have Ngr_54 := Lib.hid (Ngr_53.out.keep hb54)
          have RZ47_54 := Lib.hid (RZ47_53.out.keep hb54)
          have RZ53_54 := Lib.hid (RZ53_53.out.keep hb54)
          have HF_54 : Hid (Below w.heap.size w W54) := Lib.hid (HF_53.out.trans (hb54.mono HF_53.out.size))
          have HL_54 : Hid (u2.heap.size ≤ W54.heap.size) := Lib.hid (Nat.le_trans HL_53.out hb54.size)
          clear hb54 HL_53 Ngy_53 Ngr_53 RZ47_53 RZ53_53 HF_53
          simp only [Act.put, List.setIfInBounds_toArray, List.set_cons_zero, List.set_cons_succ]
          refine storeW_F (i := 6) (oi := { dst := none, op := Op.store 23 (Operand.tmp 4) (Operand.tmp 7), type := 0, pos := "curve.go:119", after := #[{ on := 4, ground := Ground.data }, { on := 0, ground := Ground.data }, { on := 3, ground := Ground.chain }, { on := 0, ground := Ground.phase }, { on := 1, ground := Ground.textOnly Departure.lateStores }, { on := 2, ground := Ground.textOnly Departure.lateStores }, { on := 3, ground := Ground.textOnly Departure.lateStoresUnsure }, { on := 4, ground := Ground.phase }, { on := 5, ground := Ground.phase }], guard := none }) rfl (by kernel_rfl) (by rfl) (.tmp 4) (.tmp 7) rfl (g53) 0 0 rfl [0] 1 rfl rfl RZ53_54.out (show 0 < 1 by omega) rfl ?_
          intro W55 hr55 hg55 hz55
          simp only [Act.put, List.setIfInBounds_toArray, List.set_cons_zero, List.set_cons_succ]
          have Ngy_55 := Lib.hid (Ngy_54.out.grown hg55 (by have := HX53_3.out; simp; omega))
          have Ngr_55 := Lib.hid (Ngr_54.out.grown hg55 (by have := HX53_4.out; simp; omega))
          have RZ47_55 := Lib.hid (RZ47_54.out.grown hg55 (by have := HX53_5.out; simp; omega))
          have RZ53_55 : Hid (RAt W55 g53 [1]) := Lib.hid hr55
          have HF_55 : Hid (Below w.heap.size w W55) := Lib.hid (HF_54.out.grown hg55 HF_54.out.size (fun r hr => by injection hr with hr; have := (show w.heap.size ≤ g53 from (by have := HG53.out; have := HLO3.out; omega)); omega))
          have HL_55 : Hid (u2.heap.size ≤ W55.heap.size) := Lib.hid (Nat.le_trans HL_54.out hg55.size)
          clear hr55 hg55 hz55 HL_54 Ngy_54 Ngr_54 RZ47_54 RZ53_54 HF_54
          refine storeW_F (i := 7) (oi := { dst := none, op := Op.store 23 (Operand.tmp 5) (Operand.tmp 10), type := 0, pos := "curve.go:119", after := #[{ on := 5, ground := Ground.data }, { on := 3, ground := Ground.data }, { on := 6, ground := Ground.chain }, { on := 0, ground := Ground.phase }, { on := 1, ground := Ground.phase }, { on := 2, ground := Ground.phase }, { on := 3, ground := Ground.phase }, { on := 4, ground := Ground.phase }, { on := 5, ground := Ground.phase }, { on := 6, ground := Ground.phase }], guard := none }) rfl (by kernel_rfl) (by rfl) (.tmp 5) (.tmp 10) rfl (g47) 0 0 rfl [0] yy rfl rfl RZ47_55.out (show 0 < 1 by omega) rfl ?_
          intro W56 hr56 hg56 hz56
          simp only [Act.put, List.setIfInBounds_toArray, List.set_cons_zero, List.set_cons_succ]
          have Ngy_56 := Lib.hid (Ngy_55.out.grown hg56 (by have := HX47_1.out; simp; omega))
          have Ngr_56 := Lib.hid (Ngr_55.out.grown hg56 (by have := HX47_2.out; simp; omega))
          have RZ47_56 : Hid (RAt W56 g47 [yy]) := Lib.hid hr56
          have RZ53_56 := Lib.hid (RZ53_55.out.grown hg56 (by have := HX53_5.out; simp; omega))
          have HF_56 : Hid (Below w.heap.size w W56) := Lib.hid (HF_55.out.grown hg56 HF_55.out.size (fun r hr => by injection hr with hr; have := (show w.heap.size ≤ g47 from (by have := HG47.out; have := HLO3.out; omega)); omega))
          have HL_56 : Hid (u2.heap.size ≤ W56.heap.size) := Lib.hid (Nat.le_trans HL_55.out hg56.size)
          clear hr56 hg56 hz56 HL_55 Ngy_55 Ngr_55 RZ47_55 RZ53_55 HF_55
          refine doneW (by kernel_rfl) ⟨rfl, ?_⟩ _
          exact ⟨g53, g47, Ngy_56.out, Ngr_56.out, RZ53_56.out, RZ47_56.out, HG53.out, HG47.out, (by have := HX53_5.out; omega), HF_56.out, rfl⟩
      · refine wpOp_value (i := 4) (oi := { dst := some 4, op := Op.alloc 23, type := 0, pos := "curve.go:119", after := #[], guard := none }) rfl (by rfl) (exec_alloc 23 rfl (.agg (zbs 32)) zero23 W47) ⟨fun _ => (below_alloc W47 _).mono HL_47.out, ?_⟩
        obtain ⟨W57, hW57, hb57, hz57⟩ := alloc_zero W47
        rw [← hW57]
        obtain ⟨g57, hg57⟩ : ∃ g, g = W47.heap.size := ⟨_, rfl⟩
        rw [← hg57] at hz57 ⊢
        have HG57 : Hid (u2.heap.size ≤ g57) := Lib.hid (by rw [hg57]; exact HL_47.out)
        have HX57_3 : Hid (w.heap.size ≠ g57) := Lib.hid (by have := Ngy_47.out.lt; omega)
        have HX57_4 : Hid (gr ≠ g57) := Lib.hid (by have := Ngr_47.out.lt; omega)
        have HX57_5 : Hid (g47 ≠ g57) := Lib.hid (by have := RZ47_47.out.lt; omega)
        have Ngy_57 := Lib.hid (Ngy_47.out.keep hb57)
        have Ngr_57 := Lib.hid (Ngr_47.out.keep hb57)
        have RZ47_57 := Lib.hid (RZ47_47.out.keep hb57)
        have HF_57 : Hid (Below w.heap.size w W57) := Lib.hid (HF_47.out.trans (hb57.mono HF_47.out.size))
        have HL_57 : Hid (u2.heap.size ≤ W57.heap.size) := Lib.hid (Nat.le_trans HL_47.out hb57.size)
        have RZ57_57 : Hid (RAt W57 g57 [0]) := Lib.hid (zrow (k := 1) hz57)
        clear hb57 hz57 hg57 hW57 HL_47 Ngy_47 Ngr_47 RZ47_47 HF_47
        simp only [Act.put, List.setIfInBounds_toArray, List.set_cons_zero, List.set_cons_succ]
        refine callW (i := 0) (oi := { dst := some 7, op := Op.call { callee := Callee.value (Operand.func 17), args := #[Operand.const (Value.int IntKind.u64 1)], argTypes := #[24] }, type := 23, pos := "curve.go:119", after := #[], guard := none }) rfl (by kernel_rfl) (by rfl) (exec_callL 17 [.const (.int .u64 1)] #[24] rfl [.int .u64 1] rfl (CG17 _)) ((C0.out W57).mono ?_)
        rintro e58 W58 ⟨rfl, hb58⟩
        refine ⟨_, rfl, fun _ => hb58.mono HL_57.out, ?_⟩
        have Ngy_58 := Lib.hid (Ngy_57.out.keep hb58)
        have Ngr_58 := Lib.hid (Ngr_57.out.keep hb58)
        have RZ47_58 := Lib.hid (RZ47_57.out.keep hb58)
        have RZ57_58 := Lib.hid (RZ57_57.out.keep hb58)
        have HF_58 : Hid (Below w.heap.size w W58) := Lib.hid (HF_57.out.trans (hb58.mono HF_57.out.size))
        have HL_58 : Hid (u2.heap.size ≤ W58.heap.size) := Lib.hid (Nat.le_trans HL_57.out hb58.size)
        clear hb58 HL_57 Ngy_57 Ngr_57 RZ47_57 RZ57_57 HF_57
        simp only [Act.put, List.setIfInBounds_toArray, List.set_cons_zero, List.set_cons_succ]
        refine callW (i := 3) (oi := { dst := some 10, op := Op.call { callee := Callee.value (Operand.func 25), args := #[Operand.tmp 8, Operand.tmp 9], argTypes := #[23, 23] }, type := 23, pos := "curve.go:119", after := #[{ on := 1, ground := Ground.data }, { on := 2, ground := Ground.data }, { on := 0, ground := Ground.chain }], guard := none }) rfl (by kernel_rfl) (by rfl) (exec_callL 25 [.tmp 8, .tmp 9] #[23, 23] rfl [vN y, vN y] rfl (CG25 _)) ((C1.out W58).mono ?_)
        rintro e59 W59 ⟨rfl, hb59⟩
        refine ⟨_, rfl, fun _ => hb59.mono HL_58.out, ?_⟩
        have Ngy_59 := Lib.hid (Ngy_58.out.keep hb59)
        have Ngr_59 := Lib.hid (Ngr_58.out.keep hb59)
        have RZ47_59 := Lib.hid (RZ47_58.out.keep hb59)
        have RZ57_59 := Lib.hid (RZ57_58.out.keep hb59)
        have HF_59 : Hid (Below w.heap.size w W59) := Lib.hid (HF_58.out.trans (hb59.mono HF_58.out.size))
        have HL_59 : Hid (u2.heap.size ≤ W59.heap.size) := Lib.hid (Nat.le_trans HL_58.out hb59.size)
        clear hb59 HL_58 Ngy_58 Ngr_58 RZ47_58 RZ57_58 HF_58
        simp only [Act.put, List.setIfInBounds_toArray, List.set_cons_zero, List.set_cons_succ]
        refine storeW_F (i := 6) (oi := { dst := none, op := Op.store 23 (Operand.tmp 4) (Operand.tmp 7), type := 0, pos := "curve.go:119", after := #[{ on := 4, ground := Ground.data }, { on := 0, ground := Ground.data }, { on := 3, ground := Ground.chain }, { on := 0, ground := Ground.phase }, { on := 1, ground := Ground.textOnly Departure.lateStores }, { on := 2, ground := Ground.textOnly Departure.lateStores }, { on := 3, ground := Ground.textOnly Departure.lateStoresUnsure }, { on := 4, ground := Ground.phase }, { on := 5, ground := Ground.phase }], guard := none }) rfl (by kernel_rfl) (by rfl) (.tmp 4) (.tmp 7) rfl (g57) 0 0 rfl [0] 1 rfl rfl RZ57_59.out (show 0 < 1 by omega) rfl ?_
        intro W60 hr60 hg60 hz60
        simp only [Act.put, List.setIfInBounds_toArray, List.set_cons_zero, List.set_cons_succ]
        have Ngy_60 := Lib.hid (Ngy_59.out.grown hg60 (by have := HX57_3.out; simp; omega))
        have Ngr_60 := Lib.hid (Ngr_59.out.grown hg60 (by have := HX57_4.out; simp; omega))
        have RZ47_60 := Lib.hid (RZ47_59.out.grown hg60 (by have := HX57_5.out; simp; omega))
        have RZ57_60 : Hid (RAt W60 g57 [1]) := Lib.hid hr60
        have HF_60 : Hid (Below w.heap.size w W60) := Lib.hid (HF_59.out.grown hg60 HF_59.out.size (fun r hr => by injection hr with hr; have := (show w.heap.size ≤ g57 from (by have := HG57.out; have := HLO3.out; omega)); omega))
        have HL_60 : Hid (u2.heap.size ≤ W60.heap.size) := Lib.hid (Nat.le_trans HL_59.out hg60.size)
        clear hr60 hg60 hz60 HL_59 Ngy_59 Ngr_59 RZ47_59 RZ57_59 HF_59
        refine storeW_F (i := 7) (oi := { dst := none, op := Op.store 23 (Operand.tmp 5) (Operand.tmp 10), type := 0, pos := "curve.go:119", after := #[{ on := 5, ground := Ground.data }, { on := 3, ground := Ground.data }, { on := 6, ground := Ground.chain }, { on := 0, ground := Ground.phase }, { on := 1, ground := Ground.phase }, { on := 2, ground := Ground.phase }, { on := 3, ground := Ground.phase }, { on := 4, ground := Ground.phase }, { on := 5, ground := Ground.phase }, { on := 6, ground := Ground.phase }], guard := none }) rfl (by kernel_rfl) (by rfl) (.tmp 5) (.tmp 10) rfl (g47) 0 0 rfl [0] yy rfl rfl RZ47_60.out (show 0 < 1 by omega) rfl ?_
        intro W61 hr61 hg61 hz61
        simp only [Act.put, List.setIfInBounds_toArray, List.set_cons_zero, List.set_cons_succ]
        have Ngy_61 := Lib.hid (Ngy_60.out.grown hg61 (by have := HX47_1.out; simp; omega))
        have Ngr_61 := Lib.hid (Ngr_60.out.grown hg61 (by have := HX47_2.out; simp; omega))
        have RZ47_61 : Hid (RAt W61 g47 [yy]) := Lib.hid hr61
        have RZ57_61 := Lib.hid (RZ57_60.out.grown hg61 (by have := HX57_5.out; simp; omega))
        have HF_61 : Hid (Below w.heap.size w W61) := Lib.hid (HF_60.out.grown hg61 HF_60.out.size (fun r hr => by injection hr with hr; have := (show w.heap.size ≤ g47 from (by have := HG47.out; have := HLO3.out; omega)); omega))
        have HL_61 : Hid (u2.heap.size ≤ W61.heap.size) := Lib.hid (Nat.le_trans HL_60.out hg61.size)
        clear hr61 hg61 hz61 HL_60 Ngy_60 Ngr_60 RZ47_60 RZ57_60 HF_60
        refine doneW (by kernel_rfl) ⟨rfl, ?_⟩ _
        exact ⟨g57, g47, Ngy_61.out, Ngr_61.out, RZ57_61.out, RZ47_61.out, HG57.out, HG47.out, (by have := HX57_5.out; omega), HF_61.out, rfl⟩
  rintro a' v62 ⟨a3_0, a3_1, h0, h1, h2, h3, k0, k1, q0, hF, rfl⟩
  have Ngy_62 := Lib.hid h0
  have Ngr_62 := Lib.hid h1
  have Na3_0_62 := Lib.hid h2
  have Na3_1_62 := Lib.hid h3
  have HNE62_1 : Hid (w.heap.size ≠ a3_0) := Lib.hid (by have := HLT3_0.out; omega)
  have HNE62_2 : Hid (gr ≠ a3_0) := Lib.hid (by have := HLT3_1.out; omega)
  have HGE62_0 : Hid (w.heap.size ≤ a3_0) := Lib.hid (by have := HLO3.out; omega)
  have HNE62_3 : Hid (w.heap.size ≠ a3_1) := Lib.hid (by have := HLT3_0.out; omega)
  have HNE62_4 : Hid (gr ≠ a3_1) := Lib.hid (by have := HLT3_1.out; omega)
  have HGE62_1 : Hid (w.heap.size ≤ a3_1) := Lib.hid (by have := HLO3.out; omega)
  have HNE62_5 := Lib.hid q0
  have HF_62 := Lib.hid hF
  clear h0 h1 h2 h3 k0 k1 q0 hF HLT3_0 HLT3_1 HLO3 Ngy_2 Ngr_2 HF_2
  go_wp2_with fail
  have HLT63_0 : Hid (w.heap.size < v62.heap.size) := Lib.hid Ngy_62.out.lt
  have HLT63_1 : Hid (gr < v62.heap.size) := Lib.hid Ngr_62.out.lt
  have HLT63_2 : Hid (a3_0 < v62.heap.size) := Lib.hid Na3_0_62.out.lt
  have HLT63_3 : Hid (a3_1 < v62.heap.size) := Lib.hid Na3_1_62.out.lt
  have HLO63 : Hid (w.heap.size ≤ v62.heap.size) := Lib.hid HF_62.out.size
  refine region_split (fun a' W => ∃ a63_0, RAt W w.heap.size [y] ∧ RAt W gr [0] ∧ RAt W a3_0 [1] ∧ RAt W a3_1 [yy] ∧ RAt W a63_0 [below] ∧ v62.heap.size ≤ a63_0 ∧ Below w.heap.size w W ∧ a' = ⟨#[vN y, .pointer (some ⟨w.heap.size, 0, none⟩), .pointer (some ⟨gr, 0, none⟩), .bool false, .pointer (some ⟨a3_0, 0, none⟩), .pointer (some ⟨a3_1, 0, none⟩), .pointer (some ⟨a63_0, 0, none⟩), vN 1, vN y, vN y, vN yy, vN dd, vN yy, vN m, vN 1, vN s, vN below, undef, undef, undef, undef, undef, undef, undef, undef], []⟩) ?_ ?_
  · refine startW (fun j => j == 7) (v62.heap.size) (by kernel_rfl) ?_
    obtain ⟨D63, hD63⟩ : ∃ D, D = v62.drew := ⟨_, rfl⟩
    rw [← hD63]
    have HL_63 : Hid (v62.heap.size ≤ D63.heap.size) := Lib.hid (by rw [hD63]; exact Nat.le_refl _)
    have Ngy_63 : Hid (RAt D63 w.heap.size [y]) := Lib.hid (by rw [hD63]; exact Ngy_62.out)
    have Ngr_63 : Hid (RAt D63 gr [0]) := Lib.hid (by rw [hD63]; exact Ngr_62.out)
    have Na3_0_63 : Hid (RAt D63 a3_0 [1]) := Lib.hid (by rw [hD63]; exact Na3_0_62.out)
    have Na3_1_63 : Hid (RAt D63 a3_1 [yy]) := Lib.hid (by rw [hD63]; exact Na3_1_62.out)
    have HF_63 : Hid (Below w.heap.size w D63) := Lib.hid (by rw [hD63]; exact below_drewN' HF_62.out 1)
    clear hD63 Ngy_62 Ngr_62 Na3_0_62 Na3_1_62 HF_62
    refine takeT (i := 1) (oi := { dst := some 12, op := Op.load 23 (Operand.tmp 5), type := 23, pos := "curve.go:120", after := #[], guard := none }) (vN yy) rfl (by kernel_rfl) (by kernel_rfl) (by kernel_rfl) (by kernel_rfl) (by kernel_rfl) (fun _ _ _ h => nomatch h.1) (by rfl) (fun w' hk => exec_loadF (.tmp 5) rfl (a3_1) 0 0 rfl [yy] yy rfl (Na3_1_63.out.below hk HLT63_3.out) rfl) ?_
    simp only [Act.put, List.setIfInBounds_toArray, List.set_cons_zero, List.set_cons_succ]
    refine takeT (i := 3) (oi := { dst := some 14, op := Op.load 23 (Operand.tmp 4), type := 23, pos := "curve.go:120", after := #[], guard := none }) (vN 1) rfl (by kernel_rfl) (by kernel_rfl) (by kernel_rfl) (by kernel_rfl) (by kernel_rfl) (fun _ _ _ h => nomatch h.1) (by rfl) (fun w' hk => exec_loadF (.tmp 4) rfl (a3_0) 0 0 rfl [1] 1 rfl (Na3_0_63.out.below hk HLT63_2.out) rfl) ?_
    simp only [Act.put, List.setIfInBounds_toArray, List.set_cons_zero, List.set_cons_succ]
    refine eachW [0, 6] (by kernel_rfl) (by simp) ?_
    intro k hk
    simp only [List.mem_cons, List.not_mem_nil, or_false] at hk
    rcases hk with rfl | rfl
    · refine wpOp_call (i := 0) (oi := { dst := some 11, op := Op.call { callee := Callee.value (Operand.func 45), args := #[], argTypes := #[] }, type := 23, pos := "curve.go:120", after := #[], guard := none }) rfl (by rfl) (exec_callL 45 [] #[] rfl [] rfl (CG45 _)) ((C2.out D63).mono ?_)
      rintro e64 W64 ⟨rfl, hb64⟩
      refine ⟨_, rfl, fun _ => hb64.mono HL_63.out, ?_⟩
      have Ngy_64 := Lib.hid (Ngy_63.out.keep hb64)
      have Ngr_64 := Lib.hid (Ngr_63.out.keep hb64)
      have Na3_0_64 := Lib.hid (Na3_0_63.out.keep hb64)
      have Na3_1_64 := Lib.hid (Na3_1_63.out.keep hb64)
      have HF_64 : Hid (Below w.heap.size w W64) := Lib.hid (HF_63.out.trans (hb64.mono HF_63.out.size))
      have HL_64 : Hid (v62.heap.size ≤ W64.heap.size) := Lib.hid (Nat.le_trans HL_63.out hb64.size)
      clear hb64 HL_63 Ngy_63 Ngr_63 Na3_0_63 Na3_1_63 HF_63
      simp only [Act.put, List.setIfInBounds_toArray, List.set_cons_zero, List.set_cons_succ]
      refine eachW [2, 6] (by kernel_rfl) (by simp) ?_
      intro k hk
      simp only [List.mem_cons, List.not_mem_nil, or_false] at hk
      rcases hk with rfl | rfl
      · refine wpOp_call (i := 2) (oi := { dst := some 13, op := Op.call { callee := Callee.value (Operand.func 25), args := #[Operand.tmp 11, Operand.tmp 12], argTypes := #[23, 23] }, type := 23, pos := "curve.go:120", after := #[{ on := 0, ground := Ground.data }, { on := 1, ground := Ground.data }, { on := 0, ground := Ground.chain }], guard := none }) rfl (by rfl) (exec_callL 25 [.tmp 11, .tmp 12] #[23, 23] rfl [vN dd, vN yy] rfl (CG25 _)) ((C3.out W64).mono ?_)
        rintro e65 W65 ⟨rfl, hb65⟩
        refine ⟨_, rfl, fun _ => hb65.mono HL_64.out, ?_⟩
        have Ngy_65 := Lib.hid (Ngy_64.out.keep hb65)
        have Ngr_65 := Lib.hid (Ngr_64.out.keep hb65)
        have Na3_0_65 := Lib.hid (Na3_0_64.out.keep hb65)
        have Na3_1_65 := Lib.hid (Na3_1_64.out.keep hb65)
        have HF_65 : Hid (Below w.heap.size w W65) := Lib.hid (HF_64.out.trans (hb65.mono HF_64.out.size))
        have HL_65 : Hid (v62.heap.size ≤ W65.heap.size) := Lib.hid (Nat.le_trans HL_64.out hb65.size)
        clear hb65 HL_64 Ngy_64 Ngr_64 Na3_0_64 Na3_1_64 HF_64
        simp only [Act.put, List.setIfInBounds_toArray, List.set_cons_zero, List.set_cons_succ]
        refine eachW [4, 6] (by kernel_rfl) (by simp) ?_
        intro k hk
        simp only [List.mem_cons, List.not_mem_nil, or_false] at hk
        rcases hk with rfl | rfl
        · refine wpOp_call (i := 4) (oi := { dst := some 15, op := Op.call { callee := Callee.value (Operand.func 19), args := #[Operand.tmp 13, Operand.tmp 14], argTypes := #[23, 23] }, type := 23, pos := "curve.go:120", after := #[{ on := 2, ground := Ground.data }, { on := 3, ground := Ground.data }, { on := 2, ground := Ground.chain }], guard := none }) rfl (by rfl) (exec_callL 19 [.tmp 13, .tmp 14] #[23, 23] rfl [vN m, vN 1] rfl (CG19 _)) ((C4.out W65).mono ?_)
          rintro e66 W66 ⟨rfl, hb66⟩
          refine ⟨_, rfl, fun _ => hb66.mono HL_65.out, ?_⟩
          have Ngy_66 := Lib.hid (Ngy_65.out.keep hb66)
          have Ngr_66 := Lib.hid (Ngr_65.out.keep hb66)
          have Na3_0_66 := Lib.hid (Na3_0_65.out.keep hb66)
          have Na3_1_66 := Lib.hid (Na3_1_65.out.keep hb66)
          have HF_66 : Hid (Below w.heap.size w W66) := Lib.hid (HF_65.out.trans (hb66.mono HF_65.out.size))
          have HL_66 : Hid (v62.heap.size ≤ W66.heap.size) := Lib.hid (Nat.le_trans HL_65.out hb66.size)
          clear hb66 HL_65 Ngy_65 Ngr_65 Na3_0_65 Na3_1_65 HF_65
          simp only [Act.put, List.setIfInBounds_toArray, List.set_cons_zero, List.set_cons_succ]
          refine eachW [5, 6] (by kernel_rfl) (by simp) ?_
          intro k hk
          simp only [List.mem_cons, List.not_mem_nil, or_false] at hk
          rcases hk with rfl | rfl
          · refine wpOp_call (i := 5) (oi := { dst := some 16, op := Op.call { callee := Callee.value (Operand.func 29), args := #[Operand.tmp 15], argTypes := #[23] }, type := 23, pos := "curve.go:120", after := #[{ on := 4, ground := Ground.data }, { on := 4, ground := Ground.chain }], guard := none }) rfl (by rfl) (exec_callL 29 [.tmp 15] #[23] rfl [vN s] rfl (CG29 _)) ((C5.out W66).mono ?_)
            rintro e67 W67 ⟨rfl, hb67⟩
            refine ⟨_, rfl, fun _ => hb67.mono HL_66.out, ?_⟩
            have Ngy_67 := Lib.hid (Ngy_66.out.keep hb67)
            have Ngr_67 := Lib.hid (Ngr_66.out.keep hb67)
            have Na3_0_67 := Lib.hid (Na3_0_66.out.keep hb67)
            have Na3_1_67 := Lib.hid (Na3_1_66.out.keep hb67)
            have HF_67 : Hid (Below w.heap.size w W67) := Lib.hid (HF_66.out.trans (hb67.mono HF_66.out.size))
            have HL_67 : Hid (v62.heap.size ≤ W67.heap.size) := Lib.hid (Nat.le_trans HL_66.out hb67.size)
            clear hb67 HL_66 Ngy_66 Ngr_66 Na3_0_66 Na3_1_66 HF_66
            simp only [Act.put, List.setIfInBounds_toArray, List.set_cons_zero, List.set_cons_succ]
            refine opW _ _ (i := 6) (oi := { dst := some 6, op := Op.alloc 23, type := 0, pos := "curve.go:120", after := #[], guard := none }) rfl (by kernel_rfl) (by rfl) (exec_alloc 23 rfl (.agg (zbs 32)) zero23 W67) (fun _ => (below_alloc W67 _).mono HL_67.out) ?_
            obtain ⟨W68, hW68, hb68, hz68⟩ := alloc_zero W67
            rw [← hW68]
            obtain ⟨g68, hg68⟩ : ∃ g, g = W67.heap.size := ⟨_, rfl⟩
            rw [← hg68] at hz68 ⊢
            have HG68 : Hid (v62.heap.size ≤ g68) := Lib.hid (by rw [hg68]; exact HL_67.out)
            have HX68_6 : Hid (w.heap.size ≠ g68) := Lib.hid (by have := Ngy_67.out.lt; omega)
            have HX68_7 : Hid (gr ≠ g68) := Lib.hid (by have := Ngr_67.out.lt; omega)
            have HX68_8 : Hid (a3_0 ≠ g68) := Lib.hid (by have := Na3_0_67.out.lt; omega)
            have HX68_9 : Hid (a3_1 ≠ g68) := Lib.hid (by have := Na3_1_67.out.lt; omega)
            have Ngy_68 := Lib.hid (Ngy_67.out.keep hb68)
            have Ngr_68 := Lib.hid (Ngr_67.out.keep hb68)
            have Na3_0_68 := Lib.hid (Na3_0_67.out.keep hb68)
            have Na3_1_68 := Lib.hid (Na3_1_67.out.keep hb68)
            have HF_68 : Hid (Below w.heap.size w W68) := Lib.hid (HF_67.out.trans (hb68.mono HF_67.out.size))
            have HL_68 : Hid (v62.heap.size ≤ W68.heap.size) := Lib.hid (Nat.le_trans HL_67.out hb68.size)
            have RZ68_68 : Hid (RAt W68 g68 [0]) := Lib.hid (zrow (k := 1) hz68)
            clear hb68 hz68 hg68 hW68 HL_67 Ngy_67 Ngr_67 Na3_0_67 Na3_1_67 HF_67
            simp only [Act.put, List.setIfInBounds_toArray, List.set_cons_zero, List.set_cons_succ]
            refine storeW_F (i := 7) (oi := { dst := none, op := Op.store 23 (Operand.tmp 6) (Operand.tmp 16), type := 0, pos := "curve.go:120", after := #[{ on := 6, ground := Ground.data }, { on := 5, ground := Ground.data }, { on := 5, ground := Ground.chain }, { on := 0, ground := Ground.phase }, { on := 1, ground := Ground.phase }, { on := 2, ground := Ground.phase }, { on := 3, ground := Ground.phase }, { on := 4, ground := Ground.phase }, { on := 5, ground := Ground.phase }, { on := 6, ground := Ground.phase }], guard := none }) rfl (by kernel_rfl) (by rfl) (.tmp 6) (.tmp 16) rfl (g68) 0 0 rfl [0] below rfl rfl RZ68_68.out (show 0 < 1 by omega) rfl ?_
            intro W69 hr69 hg69 hz69
            simp only [Act.put, List.setIfInBounds_toArray, List.set_cons_zero, List.set_cons_succ]
            have Ngy_69 := Lib.hid (Ngy_68.out.grown hg69 (by have := HX68_6.out; simp; omega))
            have Ngr_69 := Lib.hid (Ngr_68.out.grown hg69 (by have := HX68_7.out; simp; omega))
            have Na3_0_69 := Lib.hid (Na3_0_68.out.grown hg69 (by have := HX68_8.out; simp; omega))
            have Na3_1_69 := Lib.hid (Na3_1_68.out.grown hg69 (by have := HX68_9.out; simp; omega))
            have RZ68_69 : Hid (RAt W69 g68 [below]) := Lib.hid hr69
            have HF_69 : Hid (Below w.heap.size w W69) := Lib.hid (HF_68.out.grown hg69 HF_68.out.size (fun r hr => by injection hr with hr; have := (show w.heap.size ≤ g68 from (by have := HG68.out; have := HLO63.out; omega)); omega))
            have HL_69 : Hid (v62.heap.size ≤ W69.heap.size) := Lib.hid (Nat.le_trans HL_68.out hg69.size)
            clear hr69 hg69 hz69 HL_68 Ngy_68 Ngr_68 Na3_0_68 Na3_1_68 RZ68_68 HF_68
            refine doneW (by kernel_rfl) ⟨rfl, ?_⟩ _
            exact ⟨g68, Ngy_69.out, Ngr_69.out, Na3_0_69.out, Na3_1_69.out, RZ68_69.out, HG68.out, HF_69.out, rfl⟩
          · refine wpOp_value (i := 6) (oi := { dst := some 6, op := Op.alloc 23, type := 0, pos := "curve.go:120", after := #[], guard := none }) rfl (by rfl) (exec_alloc 23 rfl (.agg (zbs 32)) zero23 W66) ⟨fun _ => (below_alloc W66 _).mono HL_66.out, ?_⟩
            obtain ⟨W70, hW70, hb70, hz70⟩ := alloc_zero W66
            rw [← hW70]
            obtain ⟨g70, hg70⟩ : ∃ g, g = W66.heap.size := ⟨_, rfl⟩
            rw [← hg70] at hz70 ⊢
            have HG70 : Hid (v62.heap.size ≤ g70) := Lib.hid (by rw [hg70]; exact HL_66.out)
            have HX70_6 : Hid (w.heap.size ≠ g70) := Lib.hid (by have := Ngy_66.out.lt; omega)
            have HX70_7 : Hid (gr ≠ g70) := Lib.hid (by have := Ngr_66.out.lt; omega)
            have HX70_8 : Hid (a3_0 ≠ g70) := Lib.hid (by have := Na3_0_66.out.lt; omega)
            have HX70_9 : Hid (a3_1 ≠ g70) := Lib.hid (by have := Na3_1_66.out.lt; omega)
            have Ngy_70 := Lib.hid (Ngy_66.out.keep hb70)
            have Ngr_70 := Lib.hid (Ngr_66.out.keep hb70)
            have Na3_0_70 := Lib.hid (Na3_0_66.out.keep hb70)
            have Na3_1_70 := Lib.hid (Na3_1_66.out.keep hb70)
            have HF_70 : Hid (Below w.heap.size w W70) := Lib.hid (HF_66.out.trans (hb70.mono HF_66.out.size))
            have HL_70 : Hid (v62.heap.size ≤ W70.heap.size) := Lib.hid (Nat.le_trans HL_66.out hb70.size)
            have RZ70_70 : Hid (RAt W70 g70 [0]) := Lib.hid (zrow (k := 1) hz70)
            clear hb70 hz70 hg70 hW70 HL_66 Ngy_66 Ngr_66 Na3_0_66 Na3_1_66 HF_66
            simp only [Act.put, List.setIfInBounds_toArray, List.set_cons_zero, List.set_cons_succ]
            refine callW (i := 5) (oi := { dst := some 16, op := Op.call { callee := Callee.value (Operand.func 29), args := #[Operand.tmp 15], argTypes := #[23] }, type := 23, pos := "curve.go:120", after := #[{ on := 4, ground := Ground.data }, { on := 4, ground := Ground.chain }], guard := none }) rfl (by kernel_rfl) (by rfl) (exec_callL 29 [.tmp 15] #[23] rfl [vN s] rfl (CG29 _)) ((C5.out W70).mono ?_)
            rintro e71 W71 ⟨rfl, hb71⟩
            refine ⟨_, rfl, fun _ => hb71.mono HL_70.out, ?_⟩
            have Ngy_71 := Lib.hid (Ngy_70.out.keep hb71)
            have Ngr_71 := Lib.hid (Ngr_70.out.keep hb71)
            have Na3_0_71 := Lib.hid (Na3_0_70.out.keep hb71)
            have Na3_1_71 := Lib.hid (Na3_1_70.out.keep hb71)
            have RZ70_71 := Lib.hid (RZ70_70.out.keep hb71)
            have HF_71 : Hid (Below w.heap.size w W71) := Lib.hid (HF_70.out.trans (hb71.mono HF_70.out.size))
            have HL_71 : Hid (v62.heap.size ≤ W71.heap.size) := Lib.hid (Nat.le_trans HL_70.out hb71.size)
            clear hb71 HL_70 Ngy_70 Ngr_70 Na3_0_70 Na3_1_70 RZ70_70 HF_70
            simp only [Act.put, List.setIfInBounds_toArray, List.set_cons_zero, List.set_cons_succ]
            refine storeW_F (i := 7) (oi := { dst := none, op := Op.store 23 (Operand.tmp 6) (Operand.tmp 16), type := 0, pos := "curve.go:120", after := #[{ on := 6, ground := Ground.data }, { on := 5, ground := Ground.data }, { on := 5, ground := Ground.chain }, { on := 0, ground := Ground.phase }, { on := 1, ground := Ground.phase }, { on := 2, ground := Ground.phase }, { on := 3, ground := Ground.phase }, { on := 4, ground := Ground.phase }, { on := 5, ground := Ground.phase }, { on := 6, ground := Ground.phase }], guard := none }) rfl (by kernel_rfl) (by rfl) (.tmp 6) (.tmp 16) rfl (g70) 0 0 rfl [0] below rfl rfl RZ70_71.out (show 0 < 1 by omega) rfl ?_
            intro W72 hr72 hg72 hz72
            simp only [Act.put, List.setIfInBounds_toArray, List.set_cons_zero, List.set_cons_succ]
            have Ngy_72 := Lib.hid (Ngy_71.out.grown hg72 (by have := HX70_6.out; simp; omega))
            have Ngr_72 := Lib.hid (Ngr_71.out.grown hg72 (by have := HX70_7.out; simp; omega))
            have Na3_0_72 := Lib.hid (Na3_0_71.out.grown hg72 (by have := HX70_8.out; simp; omega))
            have Na3_1_72 := Lib.hid (Na3_1_71.out.grown hg72 (by have := HX70_9.out; simp; omega))
            have RZ70_72 : Hid (RAt W72 g70 [below]) := Lib.hid hr72
            have HF_72 : Hid (Below w.heap.size w W72) := Lib.hid (HF_71.out.grown hg72 HF_71.out.size (fun r hr => by injection hr with hr; have := (show w.heap.size ≤ g70 from (by have := HG70.out; have := HLO63.out; omega)); omega))
            have HL_72 : Hid (v62.heap.size ≤ W72.heap.size) := Lib.hid (Nat.le_trans HL_71.out hg72.size)
            clear hr72 hg72 hz72 HL_71 Ngy_71 Ngr_71 Na3_0_71 Na3_1_71 RZ70_71 HF_71
            refine doneW (by kernel_rfl) ⟨rfl, ?_⟩ _
            exact ⟨g70, Ngy_72.out, Ngr_72.out, Na3_0_72.out, Na3_1_72.out, RZ70_72.out, HG70.out, HF_72.out, rfl⟩
        · refine wpOp_value (i := 6) (oi := { dst := some 6, op := Op.alloc 23, type := 0, pos := "curve.go:120", after := #[], guard := none }) rfl (by rfl) (exec_alloc 23 rfl (.agg (zbs 32)) zero23 W65) ⟨fun _ => (below_alloc W65 _).mono HL_65.out, ?_⟩
          obtain ⟨W73, hW73, hb73, hz73⟩ := alloc_zero W65
          rw [← hW73]
          obtain ⟨g73, hg73⟩ : ∃ g, g = W65.heap.size := ⟨_, rfl⟩
          rw [← hg73] at hz73 ⊢
          have HG73 : Hid (v62.heap.size ≤ g73) := Lib.hid (by rw [hg73]; exact HL_65.out)
          have HX73_6 : Hid (w.heap.size ≠ g73) := Lib.hid (by have := Ngy_65.out.lt; omega)
          have HX73_7 : Hid (gr ≠ g73) := Lib.hid (by have := Ngr_65.out.lt; omega)
          have HX73_8 : Hid (a3_0 ≠ g73) := Lib.hid (by have := Na3_0_65.out.lt; omega)
          have HX73_9 : Hid (a3_1 ≠ g73) := Lib.hid (by have := Na3_1_65.out.lt; omega)
          have Ngy_73 := Lib.hid (Ngy_65.out.keep hb73)
          have Ngr_73 := Lib.hid (Ngr_65.out.keep hb73)
          have Na3_0_73 := Lib.hid (Na3_0_65.out.keep hb73)
          have Na3_1_73 := Lib.hid (Na3_1_65.out.keep hb73)
          have HF_73 : Hid (Below w.heap.size w W73) := Lib.hid (HF_65.out.trans (hb73.mono HF_65.out.size))
          have HL_73 : Hid (v62.heap.size ≤ W73.heap.size) := Lib.hid (Nat.le_trans HL_65.out hb73.size)
          have RZ73_73 : Hid (RAt W73 g73 [0]) := Lib.hid (zrow (k := 1) hz73)
          clear hb73 hz73 hg73 hW73 HL_65 Ngy_65 Ngr_65 Na3_0_65 Na3_1_65 HF_65
          simp only [Act.put, List.setIfInBounds_toArray, List.set_cons_zero, List.set_cons_succ]
          refine callW (i := 4) (oi := { dst := some 15, op := Op.call { callee := Callee.value (Operand.func 19), args := #[Operand.tmp 13, Operand.tmp 14], argTypes := #[23, 23] }, type := 23, pos := "curve.go:120", after := #[{ on := 2, ground := Ground.data }, { on := 3, ground := Ground.data }, { on := 2, ground := Ground.chain }], guard := none }) rfl (by kernel_rfl) (by rfl) (exec_callL 19 [.tmp 13, .tmp 14] #[23, 23] rfl [vN m, vN 1] rfl (CG19 _)) ((C4.out W73).mono ?_)
          rintro e74 W74 ⟨rfl, hb74⟩
          refine ⟨_, rfl, fun _ => hb74.mono HL_73.out, ?_⟩
          have Ngy_74 := Lib.hid (Ngy_73.out.keep hb74)
          have Ngr_74 := Lib.hid (Ngr_73.out.keep hb74)
          have Na3_0_74 := Lib.hid (Na3_0_73.out.keep hb74)
          have Na3_1_74 := Lib.hid (Na3_1_73.out.keep hb74)
          have RZ73_74 := Lib.hid (RZ73_73.out.keep hb74)
          have HF_74 : Hid (Below w.heap.size w W74) := Lib.hid (HF_73.out.trans (hb74.mono HF_73.out.size))
          have HL_74 : Hid (v62.heap.size ≤ W74.heap.size) := Lib.hid (Nat.le_trans HL_73.out hb74.size)
          clear hb74 HL_73 Ngy_73 Ngr_73 Na3_0_73 Na3_1_73 RZ73_73 HF_73
          simp only [Act.put, List.setIfInBounds_toArray, List.set_cons_zero, List.set_cons_succ]
          refine callW (i := 5) (oi := { dst := some 16, op := Op.call { callee := Callee.value (Operand.func 29), args := #[Operand.tmp 15], argTypes := #[23] }, type := 23, pos := "curve.go:120", after := #[{ on := 4, ground := Ground.data }, { on := 4, ground := Ground.chain }], guard := none }) rfl (by kernel_rfl) (by rfl) (exec_callL 29 [.tmp 15] #[23] rfl [vN s] rfl (CG29 _)) ((C5.out W74).mono ?_)
          rintro e75 W75 ⟨rfl, hb75⟩
          refine ⟨_, rfl, fun _ => hb75.mono HL_74.out, ?_⟩
          have Ngy_75 := Lib.hid (Ngy_74.out.keep hb75)
          have Ngr_75 := Lib.hid (Ngr_74.out.keep hb75)
          have Na3_0_75 := Lib.hid (Na3_0_74.out.keep hb75)
          have Na3_1_75 := Lib.hid (Na3_1_74.out.keep hb75)
          have RZ73_75 := Lib.hid (RZ73_74.out.keep hb75)
          have HF_75 : Hid (Below w.heap.size w W75) := Lib.hid (HF_74.out.trans (hb75.mono HF_74.out.size))
          have HL_75 : Hid (v62.heap.size ≤ W75.heap.size) := Lib.hid (Nat.le_trans HL_74.out hb75.size)
          clear hb75 HL_74 Ngy_74 Ngr_74 Na3_0_74 Na3_1_74 RZ73_74 HF_74
          simp only [Act.put, List.setIfInBounds_toArray, List.set_cons_zero, List.set_cons_succ]
          refine storeW_F (i := 7) (oi := { dst := none, op := Op.store 23 (Operand.tmp 6) (Operand.tmp 16), type := 0, pos := "curve.go:120", after := #[{ on := 6, ground := Ground.data }, { on := 5, ground := Ground.data }, { on := 5, ground := Ground.chain }, { on := 0, ground := Ground.phase }, { on := 1, ground := Ground.phase }, { on := 2, ground := Ground.phase }, { on := 3, ground := Ground.phase }, { on := 4, ground := Ground.phase }, { on := 5, ground := Ground.phase }, { on := 6, ground := Ground.phase }], guard := none }) rfl (by kernel_rfl) (by rfl) (.tmp 6) (.tmp 16) rfl (g73) 0 0 rfl [0] below rfl rfl RZ73_75.out (show 0 < 1 by omega) rfl ?_
          intro W76 hr76 hg76 hz76
          simp only [Act.put, List.setIfInBounds_toArray, List.set_cons_zero, List.set_cons_succ]
          have Ngy_76 := Lib.hid (Ngy_75.out.grown hg76 (by have := HX73_6.out; simp; omega))
          have Ngr_76 := Lib.hid (Ngr_75.out.grown hg76 (by have := HX73_7.out; simp; omega))
          have Na3_0_76 := Lib.hid (Na3_0_75.out.grown hg76 (by have := HX73_8.out; simp; omega))
          have Na3_1_76 := Lib.hid (Na3_1_75.out.grown hg76 (by have := HX73_9.out; simp; omega))
          have RZ73_76 : Hid (RAt W76 g73 [below]) := Lib.hid hr76
          have HF_76 : Hid (Below w.heap.size w W76) := Lib.hid (HF_75.out.grown hg76 HF_75.out.size (fun r hr => by injection hr with hr; have := (show w.heap.size ≤ g73 from (by have := HG73.out; have := HLO63.out; omega)); omega))
          have HL_76 : Hid (v62.heap.size ≤ W76.heap.size) := Lib.hid (Nat.le_trans HL_75.out hg76.size)
          clear hr76 hg76 hz76 HL_75 Ngy_75 Ngr_75 Na3_0_75 Na3_1_75 RZ73_75 HF_75
          refine doneW (by kernel_rfl) ⟨rfl, ?_⟩ _
          exact ⟨g73, Ngy_76.out, Ngr_76.out, Na3_0_76.out, Na3_1_76.out, RZ73_76.out, HG73.out, HF_76.out, rfl⟩
      · refine wpOp_value (i := 6) (oi := { dst := some 6, op := Op.alloc 23, type := 0, pos := "curve.go:120", after := #[], guard := none }) rfl (by rfl) (exec_alloc 23 rfl (.agg (zbs 32)) zero23 W64) ⟨fun _ => (below_alloc W64 _).mono HL_64.out, ?_⟩
        obtain ⟨W77, hW77, hb77, hz77⟩ := alloc_zero W64
        rw [← hW77]
        obtain ⟨g77, hg77⟩ : ∃ g, g = W64.heap.size := ⟨_, rfl⟩
        rw [← hg77] at hz77 ⊢
        have HG77 : Hid (v62.heap.size ≤ g77) := Lib.hid (by rw [hg77]; exact HL_64.out)
        have HX77_6 : Hid (w.heap.size ≠ g77) := Lib.hid (by have := Ngy_64.out.lt; omega)
        have HX77_7 : Hid (gr ≠ g77) := Lib.hid (by have := Ngr_64.out.lt; omega)
        have HX77_8 : Hid (a3_0 ≠ g77) := Lib.hid (by have := Na3_0_64.out.lt; omega)
        have HX77_9 : Hid (a3_1 ≠ g77) := Lib.hid (by have := Na3_1_64.out.lt; omega)
        have Ngy_77 := Lib.hid (Ngy_64.out.keep hb77)
        have Ngr_77 := Lib.hid (Ngr_64.out.keep hb77)
        have Na3_0_77 := Lib.hid (Na3_0_64.out.keep hb77)
        have Na3_1_77 := Lib.hid (Na3_1_64.out.keep hb77)
        have HF_77 : Hid (Below w.heap.size w W77) := Lib.hid (HF_64.out.trans (hb77.mono HF_64.out.size))
        have HL_77 : Hid (v62.heap.size ≤ W77.heap.size) := Lib.hid (Nat.le_trans HL_64.out hb77.size)
        have RZ77_77 : Hid (RAt W77 g77 [0]) := Lib.hid (zrow (k := 1) hz77)
        clear hb77 hz77 hg77 hW77 HL_64 Ngy_64 Ngr_64 Na3_0_64 Na3_1_64 HF_64
        simp only [Act.put, List.setIfInBounds_toArray, List.set_cons_zero, List.set_cons_succ]
        refine callW (i := 2) (oi := { dst := some 13, op := Op.call { callee := Callee.value (Operand.func 25), args := #[Operand.tmp 11, Operand.tmp 12], argTypes := #[23, 23] }, type := 23, pos := "curve.go:120", after := #[{ on := 0, ground := Ground.data }, { on := 1, ground := Ground.data }, { on := 0, ground := Ground.chain }], guard := none }) rfl (by kernel_rfl) (by rfl) (exec_callL 25 [.tmp 11, .tmp 12] #[23, 23] rfl [vN dd, vN yy] rfl (CG25 _)) ((C3.out W77).mono ?_)
        rintro e78 W78 ⟨rfl, hb78⟩
        refine ⟨_, rfl, fun _ => hb78.mono HL_77.out, ?_⟩
        have Ngy_78 := Lib.hid (Ngy_77.out.keep hb78)
        have Ngr_78 := Lib.hid (Ngr_77.out.keep hb78)
        have Na3_0_78 := Lib.hid (Na3_0_77.out.keep hb78)
        have Na3_1_78 := Lib.hid (Na3_1_77.out.keep hb78)
        have RZ77_78 := Lib.hid (RZ77_77.out.keep hb78)
        have HF_78 : Hid (Below w.heap.size w W78) := Lib.hid (HF_77.out.trans (hb78.mono HF_77.out.size))
        have HL_78 : Hid (v62.heap.size ≤ W78.heap.size) := Lib.hid (Nat.le_trans HL_77.out hb78.size)
        clear hb78 HL_77 Ngy_77 Ngr_77 Na3_0_77 Na3_1_77 RZ77_77 HF_77
        simp only [Act.put, List.setIfInBounds_toArray, List.set_cons_zero, List.set_cons_succ]
        refine callW (i := 4) (oi := { dst := some 15, op := Op.call { callee := Callee.value (Operand.func 19), args := #[Operand.tmp 13, Operand.tmp 14], argTypes := #[23, 23] }, type := 23, pos := "curve.go:120", after := #[{ on := 2, ground := Ground.data }, { on := 3, ground := Ground.data }, { on := 2, ground := Ground.chain }], guard := none }) rfl (by kernel_rfl) (by rfl) (exec_callL 19 [.tmp 13, .tmp 14] #[23, 23] rfl [vN m, vN 1] rfl (CG19 _)) ((C4.out W78).mono ?_)
        rintro e79 W79 ⟨rfl, hb79⟩
        refine ⟨_, rfl, fun _ => hb79.mono HL_78.out, ?_⟩
        have Ngy_79 := Lib.hid (Ngy_78.out.keep hb79)
        have Ngr_79 := Lib.hid (Ngr_78.out.keep hb79)
        have Na3_0_79 := Lib.hid (Na3_0_78.out.keep hb79)
        have Na3_1_79 := Lib.hid (Na3_1_78.out.keep hb79)
        have RZ77_79 := Lib.hid (RZ77_78.out.keep hb79)
        have HF_79 : Hid (Below w.heap.size w W79) := Lib.hid (HF_78.out.trans (hb79.mono HF_78.out.size))
        have HL_79 : Hid (v62.heap.size ≤ W79.heap.size) := Lib.hid (Nat.le_trans HL_78.out hb79.size)
        clear hb79 HL_78 Ngy_78 Ngr_78 Na3_0_78 Na3_1_78 RZ77_78 HF_78
        simp only [Act.put, List.setIfInBounds_toArray, List.set_cons_zero, List.set_cons_succ]
        refine callW (i := 5) (oi := { dst := some 16, op := Op.call { callee := Callee.value (Operand.func 29), args := #[Operand.tmp 15], argTypes := #[23] }, type := 23, pos := "curve.go:120", after := #[{ on := 4, ground := Ground.data }, { on := 4, ground := Ground.chain }], guard := none }) rfl (by kernel_rfl) (by rfl) (exec_callL 29 [.tmp 15] #[23] rfl [vN s] rfl (CG29 _)) ((C5.out W79).mono ?_)
        rintro e80 W80 ⟨rfl, hb80⟩
        refine ⟨_, rfl, fun _ => hb80.mono HL_79.out, ?_⟩
        have Ngy_80 := Lib.hid (Ngy_79.out.keep hb80)
        have Ngr_80 := Lib.hid (Ngr_79.out.keep hb80)
        have Na3_0_80 := Lib.hid (Na3_0_79.out.keep hb80)
        have Na3_1_80 := Lib.hid (Na3_1_79.out.keep hb80)
        have RZ77_80 := Lib.hid (RZ77_79.out.keep hb80)
        have HF_80 : Hid (Below w.heap.size w W80) := Lib.hid (HF_79.out.trans (hb80.mono HF_79.out.size))
        have HL_80 : Hid (v62.heap.size ≤ W80.heap.size) := Lib.hid (Nat.le_trans HL_79.out hb80.size)
        clear hb80 HL_79 Ngy_79 Ngr_79 Na3_0_79 Na3_1_79 RZ77_79 HF_79
        simp only [Act.put, List.setIfInBounds_toArray, List.set_cons_zero, List.set_cons_succ]
        refine storeW_F (i := 7) (oi := { dst := none, op := Op.store 23 (Operand.tmp 6) (Operand.tmp 16), type := 0, pos := "curve.go:120", after := #[{ on := 6, ground := Ground.data }, { on := 5, ground := Ground.data }, { on := 5, ground := Ground.chain }, { on := 0, ground := Ground.phase }, { on := 1, ground := Ground.phase }, { on := 2, ground := Ground.phase }, { on := 3, ground := Ground.phase }, { on := 4, ground := Ground.phase }, { on := 5, ground := Ground.phase }, { on := 6, ground := Ground.phase }], guard := none }) rfl (by kernel_rfl) (by rfl) (.tmp 6) (.tmp 16) rfl (g77) 0 0 rfl [0] below rfl rfl RZ77_80.out (show 0 < 1 by omega) rfl ?_
        intro W81 hr81 hg81 hz81
        simp only [Act.put, List.setIfInBounds_toArray, List.set_cons_zero, List.set_cons_succ]
        have Ngy_81 := Lib.hid (Ngy_80.out.grown hg81 (by have := HX77_6.out; simp; omega))
        have Ngr_81 := Lib.hid (Ngr_80.out.grown hg81 (by have := HX77_7.out; simp; omega))
        have Na3_0_81 := Lib.hid (Na3_0_80.out.grown hg81 (by have := HX77_8.out; simp; omega))
        have Na3_1_81 := Lib.hid (Na3_1_80.out.grown hg81 (by have := HX77_9.out; simp; omega))
        have RZ77_81 : Hid (RAt W81 g77 [below]) := Lib.hid hr81
        have HF_81 : Hid (Below w.heap.size w W81) := Lib.hid (HF_80.out.grown hg81 HF_80.out.size (fun r hr => by injection hr with hr; have := (show w.heap.size ≤ g77 from (by have := HG77.out; have := HLO63.out; omega)); omega))
        have HL_81 : Hid (v62.heap.size ≤ W81.heap.size) := Lib.hid (Nat.le_trans HL_80.out hg81.size)
        clear hr81 hg81 hz81 HL_80 Ngy_80 Ngr_80 Na3_0_80 Na3_1_80 RZ77_80 HF_80
        refine doneW (by kernel_rfl) ⟨rfl, ?_⟩ _
        exact ⟨g77, Ngy_81.out, Ngr_81.out, Na3_0_81.out, Na3_1_81.out, RZ77_81.out, HG77.out, HF_81.out, rfl⟩
    · refine wpOp_value (i := 6) (oi := { dst := some 6, op := Op.alloc 23, type := 0, pos := "curve.go:120", after := #[], guard := none }) rfl (by rfl) (exec_alloc 23 rfl (.agg (zbs 32)) zero23 D63) ⟨fun _ => (below_alloc D63 _).mono HL_63.out, ?_⟩
      obtain ⟨W82, hW82, hb82, hz82⟩ := alloc_zero D63
      rw [← hW82]
      obtain ⟨g82, hg82⟩ : ∃ g, g = D63.heap.size := ⟨_, rfl⟩
      rw [← hg82] at hz82 ⊢
      have HG82 : Hid (v62.heap.size ≤ g82) := Lib.hid (by rw [hg82]; exact HL_63.out)
      have HX82_6 : Hid (w.heap.size ≠ g82) := Lib.hid (by have := Ngy_63.out.lt; omega)
      have HX82_7 : Hid (gr ≠ g82) := Lib.hid (by have := Ngr_63.out.lt; omega)
      have HX82_8 : Hid (a3_0 ≠ g82) := Lib.hid (by have := Na3_0_63.out.lt; omega)
      have HX82_9 : Hid (a3_1 ≠ g82) := Lib.hid (by have := Na3_1_63.out.lt; omega)
      have Ngy_82 := Lib.hid (Ngy_63.out.keep hb82)
      have Ngr_82 := Lib.hid (Ngr_63.out.keep hb82)
      have Na3_0_82 := Lib.hid (Na3_0_63.out.keep hb82)
      have Na3_1_82 := Lib.hid (Na3_1_63.out.keep hb82)
      have HF_82 : Hid (Below w.heap.size w W82) := Lib.hid (HF_63.out.trans (hb82.mono HF_63.out.size))
      have HL_82 : Hid (v62.heap.size ≤ W82.heap.size) := Lib.hid (Nat.le_trans HL_63.out hb82.size)
      have RZ82_82 : Hid (RAt W82 g82 [0]) := Lib.hid (zrow (k := 1) hz82)
      clear hb82 hz82 hg82 hW82 HL_63 Ngy_63 Ngr_63 Na3_0_63 Na3_1_63 HF_63
      simp only [Act.put, List.setIfInBounds_toArray, List.set_cons_zero, List.set_cons_succ]
      refine callW (i := 0) (oi := { dst := some 11, op := Op.call { callee := Callee.value (Operand.func 45), args := #[], argTypes := #[] }, type := 23, pos := "curve.go:120", after := #[], guard := none }) rfl (by kernel_rfl) (by rfl) (exec_callL 45 [] #[] rfl [] rfl (CG45 _)) ((C2.out W82).mono ?_)
      rintro e83 W83 ⟨rfl, hb83⟩
      refine ⟨_, rfl, fun _ => hb83.mono HL_82.out, ?_⟩
      have Ngy_83 := Lib.hid (Ngy_82.out.keep hb83)
      have Ngr_83 := Lib.hid (Ngr_82.out.keep hb83)
      have Na3_0_83 := Lib.hid (Na3_0_82.out.keep hb83)
      have Na3_1_83 := Lib.hid (Na3_1_82.out.keep hb83)
      have RZ82_83 := Lib.hid (RZ82_82.out.keep hb83)
      have HF_83 : Hid (Below w.heap.size w W83) := Lib.hid (HF_82.out.trans (hb83.mono HF_82.out.size))
      have HL_83 : Hid (v62.heap.size ≤ W83.heap.size) := Lib.hid (Nat.le_trans HL_82.out hb83.size)
      clear hb83 HL_82 Ngy_82 Ngr_82 Na3_0_82 Na3_1_82 RZ82_82 HF_82
      simp only [Act.put, List.setIfInBounds_toArray, List.set_cons_zero, List.set_cons_succ]
      refine callW (i := 2) (oi := { dst := some 13, op := Op.call { callee := Callee.value (Operand.func 25), args := #[Operand.tmp 11, Operand.tmp 12], argTypes := #[23, 23] }, type := 23, pos := "curve.go:120", after := #[{ on := 0, ground := Ground.data }, { on := 1, ground := Ground.data }, { on := 0, ground := Ground.chain }], guard := none }) rfl (by kernel_rfl) (by rfl) (exec_callL 25 [.tmp 11, .tmp 12] #[23, 23] rfl [vN dd, vN yy] rfl (CG25 _)) ((C3.out W83).mono ?_)
      rintro e84 W84 ⟨rfl, hb84⟩
      refine ⟨_, rfl, fun _ => hb84.mono HL_83.out, ?_⟩
      have Ngy_84 := Lib.hid (Ngy_83.out.keep hb84)
      have Ngr_84 := Lib.hid (Ngr_83.out.keep hb84)
      have Na3_0_84 := Lib.hid (Na3_0_83.out.keep hb84)
      have Na3_1_84 := Lib.hid (Na3_1_83.out.keep hb84)
      have RZ82_84 := Lib.hid (RZ82_83.out.keep hb84)
      have HF_84 : Hid (Below w.heap.size w W84) := Lib.hid (HF_83.out.trans (hb84.mono HF_83.out.size))
      have HL_84 : Hid (v62.heap.size ≤ W84.heap.size) := Lib.hid (Nat.le_trans HL_83.out hb84.size)
      clear hb84 HL_83 Ngy_83 Ngr_83 Na3_0_83 Na3_1_83 RZ82_83 HF_83
      simp only [Act.put, List.setIfInBounds_toArray, List.set_cons_zero, List.set_cons_succ]
      refine callW (i := 4) (oi := { dst := some 15, op := Op.call { callee := Callee.value (Operand.func 19), args := #[Operand.tmp 13, Operand.tmp 14], argTypes := #[23, 23] }, type := 23, pos := "curve.go:120", after := #[{ on := 2, ground := Ground.data }, { on := 3, ground := Ground.data }, { on := 2, ground := Ground.chain }], guard := none }) rfl (by kernel_rfl) (by rfl) (exec_callL 19 [.tmp 13, .tmp 14] #[23, 23] rfl [vN m, vN 1] rfl (CG19 _)) ((C4.out W84).mono ?_)
      rintro e85 W85 ⟨rfl, hb85⟩
      refine ⟨_, rfl, fun _ => hb85.mono HL_84.out, ?_⟩
      have Ngy_85 := Lib.hid (Ngy_84.out.keep hb85)
      have Ngr_85 := Lib.hid (Ngr_84.out.keep hb85)
      have Na3_0_85 := Lib.hid (Na3_0_84.out.keep hb85)
      have Na3_1_85 := Lib.hid (Na3_1_84.out.keep hb85)
      have RZ82_85 := Lib.hid (RZ82_84.out.keep hb85)
      have HF_85 : Hid (Below w.heap.size w W85) := Lib.hid (HF_84.out.trans (hb85.mono HF_84.out.size))
      have HL_85 : Hid (v62.heap.size ≤ W85.heap.size) := Lib.hid (Nat.le_trans HL_84.out hb85.size)
      clear hb85 HL_84 Ngy_84 Ngr_84 Na3_0_84 Na3_1_84 RZ82_84 HF_84
      simp only [Act.put, List.setIfInBounds_toArray, List.set_cons_zero, List.set_cons_succ]
      refine callW (i := 5) (oi := { dst := some 16, op := Op.call { callee := Callee.value (Operand.func 29), args := #[Operand.tmp 15], argTypes := #[23] }, type := 23, pos := "curve.go:120", after := #[{ on := 4, ground := Ground.data }, { on := 4, ground := Ground.chain }], guard := none }) rfl (by kernel_rfl) (by rfl) (exec_callL 29 [.tmp 15] #[23] rfl [vN s] rfl (CG29 _)) ((C5.out W85).mono ?_)
      rintro e86 W86 ⟨rfl, hb86⟩
      refine ⟨_, rfl, fun _ => hb86.mono HL_85.out, ?_⟩
      have Ngy_86 := Lib.hid (Ngy_85.out.keep hb86)
      have Ngr_86 := Lib.hid (Ngr_85.out.keep hb86)
      have Na3_0_86 := Lib.hid (Na3_0_85.out.keep hb86)
      have Na3_1_86 := Lib.hid (Na3_1_85.out.keep hb86)
      have RZ82_86 := Lib.hid (RZ82_85.out.keep hb86)
      have HF_86 : Hid (Below w.heap.size w W86) := Lib.hid (HF_85.out.trans (hb86.mono HF_85.out.size))
      have HL_86 : Hid (v62.heap.size ≤ W86.heap.size) := Lib.hid (Nat.le_trans HL_85.out hb86.size)
      clear hb86 HL_85 Ngy_85 Ngr_85 Na3_0_85 Na3_1_85 RZ82_85 HF_85
      simp only [Act.put, List.setIfInBounds_toArray, List.set_cons_zero, List.set_cons_succ]
      refine storeW_F (i := 7) (oi := { dst := none, op := Op.store 23 (Operand.tmp 6) (Operand.tmp 16), type := 0, pos := "curve.go:120", after := #[{ on := 6, ground := Ground.data }, { on := 5, ground := Ground.data }, { on := 5, ground := Ground.chain }, { on := 0, ground := Ground.phase }, { on := 1, ground := Ground.phase }, { on := 2, ground := Ground.phase }, { on := 3, ground := Ground.phase }, { on := 4, ground := Ground.phase }, { on := 5, ground := Ground.phase }, { on := 6, ground := Ground.phase }], guard := none }) rfl (by kernel_rfl) (by rfl) (.tmp 6) (.tmp 16) rfl (g82) 0 0 rfl [0] below rfl rfl RZ82_86.out (show 0 < 1 by omega) rfl ?_
      intro W87 hr87 hg87 hz87
      simp only [Act.put, List.setIfInBounds_toArray, List.set_cons_zero, List.set_cons_succ]
      have Ngy_87 := Lib.hid (Ngy_86.out.grown hg87 (by have := HX82_6.out; simp; omega))
      have Ngr_87 := Lib.hid (Ngr_86.out.grown hg87 (by have := HX82_7.out; simp; omega))
      have Na3_0_87 := Lib.hid (Na3_0_86.out.grown hg87 (by have := HX82_8.out; simp; omega))
      have Na3_1_87 := Lib.hid (Na3_1_86.out.grown hg87 (by have := HX82_9.out; simp; omega))
      have RZ82_87 : Hid (RAt W87 g82 [below]) := Lib.hid hr87
      have HF_87 : Hid (Below w.heap.size w W87) := Lib.hid (HF_86.out.grown hg87 HF_86.out.size (fun r hr => by injection hr with hr; have := (show w.heap.size ≤ g82 from (by have := HG82.out; have := HLO63.out; omega)); omega))
      have HL_87 : Hid (v62.heap.size ≤ W87.heap.size) := Lib.hid (Nat.le_trans HL_86.out hg87.size)
      clear hr87 hg87 hz87 HL_86 Ngy_86 Ngr_86 Na3_0_86 Na3_1_86 RZ82_86 HF_86
      refine doneW (by kernel_rfl) ⟨rfl, ?_⟩ _
      exact ⟨g82, Ngy_87.out, Ngr_87.out, Na3_0_87.out, Na3_1_87.out, RZ82_87.out, HG82.out, HF_87.out, rfl⟩
  rintro a' v88 ⟨a63_0, h0, h1, h2, h3, h4, k0, hF, rfl⟩
  have Ngy_88 := Lib.hid h0
  have Ngr_88 := Lib.hid h1
  have Na3_0_88 := Lib.hid h2
  have Na3_1_88 := Lib.hid h3
  have Na63_0_88 := Lib.hid h4
  have HNE88_6 : Hid (w.heap.size ≠ a63_0) := Lib.hid (by have := HLT63_0.out; omega)
  have HNE88_7 : Hid (gr ≠ a63_0) := Lib.hid (by have := HLT63_1.out; omega)
  have HNE88_8 : Hid (a3_0 ≠ a63_0) := Lib.hid (by have := HLT63_2.out; omega)
  have HNE88_9 : Hid (a3_1 ≠ a63_0) := Lib.hid (by have := HLT63_3.out; omega)
  have HGE88_0 : Hid (w.heap.size ≤ a63_0) := Lib.hid (by have := HLO63.out; omega)
  have HF_88 := Lib.hid hF
  clear h0 h1 h2 h3 h4 k0 hF HLT63_0 HLT63_1 HLT63_2 HLT63_3 HLO63 Ngy_62 Ngr_62 Na3_0_62 Na3_1_62 HF_62
  go_wp2_with fail
  have HLT89_0 : Hid (w.heap.size < v88.heap.size) := Lib.hid Ngy_88.out.lt
  have HLT89_1 : Hid (gr < v88.heap.size) := Lib.hid Ngr_88.out.lt
  have HLT89_2 : Hid (a3_0 < v88.heap.size) := Lib.hid Na3_0_88.out.lt
  have HLT89_3 : Hid (a3_1 < v88.heap.size) := Lib.hid Na3_1_88.out.lt
  have HLT89_4 : Hid (a63_0 < v88.heap.size) := Lib.hid Na63_0_88.out.lt
  have HLO89 : Hid (w.heap.size ≤ v88.heap.size) := Lib.hid HF_88.out.size
  refine region_split (fun a' W => RAt W w.heap.size [y] ∧ RAt W gr [x] ∧ RAt W a3_0 [1] ∧ RAt W a3_1 [yy] ∧ RAt W a63_0 [below] ∧ Below w.heap.size w W ∧ a' = ⟨#[vN y, .pointer (some ⟨w.heap.size, 0, none⟩), .pointer (some ⟨gr, 0, none⟩), .bool ok, .pointer (some ⟨a3_0, 0, none⟩), .pointer (some ⟨a3_1, 0, none⟩), .pointer (some ⟨a63_0, 0, none⟩), vN 1, vN y, vN y, vN yy, vN dd, vN yy, vN m, vN 1, vN s, vN below, vN yy, vN 1, vN u, vN below, vN q, .tuple #[vN x, .bool ok], vN x, .bool ok], []⟩) ?_ ?_
  · refine startW (fun j => j == 8) (v88.heap.size) (by kernel_rfl) ?_
    obtain ⟨D89, hD89⟩ : ∃ D, D = v88.drew := ⟨_, rfl⟩
    rw [← hD89]
    have HL_89 : Hid (v88.heap.size ≤ D89.heap.size) := Lib.hid (by rw [hD89]; exact Nat.le_refl _)
    have Ngy_89 : Hid (RAt D89 w.heap.size [y]) := Lib.hid (by rw [hD89]; exact Ngy_88.out)
    have Ngr_89 : Hid (RAt D89 gr [0]) := Lib.hid (by rw [hD89]; exact Ngr_88.out)
    have Na3_0_89 : Hid (RAt D89 a3_0 [1]) := Lib.hid (by rw [hD89]; exact Na3_0_88.out)
    have Na3_1_89 : Hid (RAt D89 a3_1 [yy]) := Lib.hid (by rw [hD89]; exact Na3_1_88.out)
    have Na63_0_89 : Hid (RAt D89 a63_0 [below]) := Lib.hid (by rw [hD89]; exact Na63_0_88.out)
    have HF_89 : Hid (Below w.heap.size w D89) := Lib.hid (by rw [hD89]; exact below_drewN' HF_88.out 1)
    clear hD89 Ngy_88 Ngr_88 Na3_0_88 Na3_1_88 Na63_0_88 HF_88
    refine takeT (i := 0) (oi := { dst := some 17, op := Op.load 23 (Operand.tmp 5), type := 23, pos := "curve.go:121", after := #[], guard := none }) (vN yy) rfl (by kernel_rfl) (by kernel_rfl) (by kernel_rfl) (by kernel_rfl) (by kernel_rfl) (fun _ _ _ h => nomatch h.1) (by rfl) (fun w' hk => exec_loadF (.tmp 5) rfl (a3_1) 0 0 rfl [yy] yy rfl (Na3_1_89.out.below hk HLT89_3.out) rfl) ?_
    simp only [Act.put, List.setIfInBounds_toArray, List.set_cons_zero, List.set_cons_succ]
    refine takeT (i := 1) (oi := { dst := some 18, op := Op.load 23 (Operand.tmp 4), type := 23, pos := "curve.go:121", after := #[], guard := none }) (vN 1) rfl (by kernel_rfl) (by kernel_rfl) (by kernel_rfl) (by kernel_rfl) (by kernel_rfl) (fun _ _ _ h => nomatch h.1) (by rfl) (fun w' hk => exec_loadF (.tmp 4) rfl (a3_0) 0 0 rfl [1] 1 rfl (Na3_0_89.out.below hk HLT89_2.out) rfl) ?_
    simp only [Act.put, List.setIfInBounds_toArray, List.set_cons_zero, List.set_cons_succ]
    refine takeT (i := 3) (oi := { dst := some 20, op := Op.load 23 (Operand.tmp 6), type := 23, pos := "curve.go:121", after := #[], guard := none }) (vN below) rfl (by kernel_rfl) (by kernel_rfl) (by kernel_rfl) (by kernel_rfl) (by kernel_rfl) (fun _ _ _ h => nomatch h.1) (by rfl) (fun w' hk => exec_loadF (.tmp 6) rfl (a63_0) 0 0 rfl [below] below rfl (Na63_0_89.out.below hk HLT89_4.out) rfl) ?_
    simp only [Act.put, List.setIfInBounds_toArray, List.set_cons_zero, List.set_cons_succ]
    refine callW (i := 2) (oi := { dst := some 19, op := Op.call { callee := Callee.value (Operand.func 21), args := #[Operand.tmp 17, Operand.tmp 18], argTypes := #[23, 23] }, type := 23, pos := "curve.go:121", after := #[{ on := 0, ground := Ground.data }, { on := 1, ground := Ground.data }], guard := none }) rfl (by kernel_rfl) (by rfl) (exec_callL 21 [.tmp 17, .tmp 18] #[23, 23] rfl [vN yy, vN 1] rfl (CG21 _)) ((C6.out D89).mono ?_)
    rintro e90 W90 ⟨rfl, hb90⟩
    refine ⟨_, rfl, fun _ => hb90.mono HL_89.out, ?_⟩
    have Ngy_90 := Lib.hid (Ngy_89.out.keep hb90)
    have Ngr_90 := Lib.hid (Ngr_89.out.keep hb90)
    have Na3_0_90 := Lib.hid (Na3_0_89.out.keep hb90)
    have Na3_1_90 := Lib.hid (Na3_1_89.out.keep hb90)
    have Na63_0_90 := Lib.hid (Na63_0_89.out.keep hb90)
    have HF_90 : Hid (Below w.heap.size w W90) := Lib.hid (HF_89.out.trans (hb90.mono HF_89.out.size))
    have HL_90 : Hid (v88.heap.size ≤ W90.heap.size) := Lib.hid (Nat.le_trans HL_89.out hb90.size)
    clear hb90 HL_89 Ngy_89 Ngr_89 Na3_0_89 Na3_1_89 Na63_0_89 HF_89
    simp only [Act.put, List.setIfInBounds_toArray, List.set_cons_zero, List.set_cons_succ]
    refine callW (i := 4) (oi := { dst := some 21, op := Op.call { callee := Callee.value (Operand.func 25), args := #[Operand.tmp 19, Operand.tmp 20], argTypes := #[23, 23] }, type := 23, pos := "curve.go:121", after := #[{ on := 2, ground := Ground.data }, { on := 3, ground := Ground.data }, { on := 2, ground := Ground.chain }], guard := none }) rfl (by kernel_rfl) (by rfl) (exec_callL 25 [.tmp 19, .tmp 20] #[23, 23] rfl [vN u, vN below] rfl (CG25 _)) ((C7.out W90).mono ?_)
    rintro e91 W91 ⟨rfl, hb91⟩
    refine ⟨_, rfl, fun _ => hb91.mono HL_90.out, ?_⟩
    have Ngy_91 := Lib.hid (Ngy_90.out.keep hb91)
    have Ngr_91 := Lib.hid (Ngr_90.out.keep hb91)
    have Na3_0_91 := Lib.hid (Na3_0_90.out.keep hb91)
    have Na3_1_91 := Lib.hid (Na3_1_90.out.keep hb91)
    have Na63_0_91 := Lib.hid (Na63_0_90.out.keep hb91)
    have HF_91 : Hid (Below w.heap.size w W91) := Lib.hid (HF_90.out.trans (hb91.mono HF_90.out.size))
    have HL_91 : Hid (v88.heap.size ≤ W91.heap.size) := Lib.hid (Nat.le_trans HL_90.out hb91.size)
    clear hb91 HL_90 Ngy_90 Ngr_90 Na3_0_90 Na3_1_90 Na63_0_90 HF_90
    simp only [Act.put, List.setIfInBounds_toArray, List.set_cons_zero, List.set_cons_succ]
    refine callW (i := 5) (oi := { dst := some 22, op := Op.call { callee := Callee.value (Operand.func 11), args := #[Operand.tmp 21], argTypes := #[23] }, type := 26, pos := "curve.go:121", after := #[{ on := 4, ground := Ground.data }, { on := 4, ground := Ground.chain }], guard := none }) rfl (by kernel_rfl) (by rfl) (exec_callL 11 [.tmp 21] #[23] rfl [vN q] rfl (CG11 _)) ((C8.out W91).mono ?_)
    rintro e92 W92 ⟨rfl, hb92⟩
    refine ⟨_, rfl, fun _ => hb92.mono HL_91.out, ?_⟩
    have Ngy_92 := Lib.hid (Ngy_91.out.keep hb92)
    have Ngr_92 := Lib.hid (Ngr_91.out.keep hb92)
    have Na3_0_92 := Lib.hid (Na3_0_91.out.keep hb92)
    have Na3_1_92 := Lib.hid (Na3_1_91.out.keep hb92)
    have Na63_0_92 := Lib.hid (Na63_0_91.out.keep hb92)
    have HF_92 : Hid (Below w.heap.size w W92) := Lib.hid (HF_91.out.trans (hb92.mono HF_91.out.size))
    have HL_92 : Hid (v88.heap.size ≤ W92.heap.size) := Lib.hid (Nat.le_trans HL_91.out hb92.size)
    clear hb92 HL_91 Ngy_91 Ngr_91 Na3_0_91 Na3_1_91 Na63_0_91 HF_91
    simp only [Act.put, List.setIfInBounds_toArray, List.set_cons_zero, List.set_cons_succ]
    refine takeAE (i := 6) (oi := { dst := some 23, op := Op.extract (Operand.tmp 22) 0, type := 23, pos := "curve.go:121", after := #[{ on := 5, ground := Ground.data }], guard := none }) rfl (by kernel_rfl) (by kernel_rfl) (by kernel_rfl) (fun _ _ _ _ h => nomatch h.1) (by rfl) ?_
    refine ⟨vN x, fun w' => exec_extract (.tmp 22) 0 rfl #[vN x, .bool ok] rfl _ rfl, ?_⟩
    simp only [Act.put, List.setIfInBounds_toArray, List.set_cons_zero, List.set_cons_succ]
    refine takeAE (i := 7) (oi := { dst := some 24, op := Op.extract (Operand.tmp 22) 1, type := 4, pos := "curve.go:121", after := #[{ on := 5, ground := Ground.data }], guard := none }) rfl (by kernel_rfl) (by kernel_rfl) (by kernel_rfl) (fun _ _ _ _ h => nomatch h.1) (by rfl) ?_
    refine ⟨.bool ok, fun w' => exec_extract (.tmp 22) 1 rfl #[vN x, .bool ok] rfl _ rfl, ?_⟩
    simp only [Act.put, List.setIfInBounds_toArray, List.set_cons_zero, List.set_cons_succ]
    refine storeW_F (i := 8) (oi := { dst := none, op := Op.store 23 (Operand.tmp 2) (Operand.tmp 23), type := 0, pos := "curve.go:121", after := #[{ on := 6, ground := Ground.data }, { on := 5, ground := Ground.chain }, { on := 0, ground := Ground.phase }, { on := 1, ground := Ground.phase }, { on := 2, ground := Ground.phase }, { on := 3, ground := Ground.phase }, { on := 4, ground := Ground.phase }, { on := 5, ground := Ground.phase }, { on := 6, ground := Ground.phase }, { on := 7, ground := Ground.phase }], guard := none }) rfl (by kernel_rfl) (by rfl) (.tmp 2) (.tmp 23) rfl (gr) 0 0 rfl [0] x rfl rfl Ngr_92.out (show 0 < 1 by omega) rfl ?_
    intro W93 hr93 hg93 hz93
    simp only [Act.put, List.setIfInBounds_toArray, List.set_cons_zero, List.set_cons_succ]
    have Ngy_93 := Lib.hid (Ngy_92.out.grown hg93 (by have := HNE2_0.out; simp; omega))
    have Ngr_93 : Hid (RAt W93 gr [x]) := Lib.hid hr93
    have Na3_0_93 := Lib.hid (Na3_0_92.out.grown hg93 (by have := HNE62_2.out; simp; omega))
    have Na3_1_93 := Lib.hid (Na3_1_92.out.grown hg93 (by have := HNE62_4.out; simp; omega))
    have Na63_0_93 := Lib.hid (Na63_0_92.out.grown hg93 (by have := HNE88_7.out; simp; omega))
    have HF_93 : Hid (Below w.heap.size w W93) := Lib.hid (HF_92.out.grown hg93 HF_92.out.size (fun r hr => by injection hr with hr; have := HGE2.out; omega))
    have HL_93 : Hid (v88.heap.size ≤ W93.heap.size) := Lib.hid (Nat.le_trans HL_92.out hg93.size)
    clear hr93 hg93 hz93 HL_92 Ngy_92 Ngr_92 Na3_0_92 Na3_1_92 Na63_0_92 HF_92
    refine takeAE (i := 9) (oi := { dst := some 3, op := Op.assign (Operand.tmp 24), type := 4, pos := "curve.go:121", after := #[{ on := 7, ground := Ground.data }, { on := 8, ground := Ground.chain }, { on := 0, ground := Ground.phase }, { on := 1, ground := Ground.phase }, { on := 2, ground := Ground.phase }, { on := 3, ground := Ground.phase }, { on := 4, ground := Ground.phase }, { on := 5, ground := Ground.phase }, { on := 6, ground := Ground.phase }, { on := 7, ground := Ground.phase }, { on := 8, ground := Ground.phase }], guard := none }) rfl (by kernel_rfl) (by kernel_rfl) (by kernel_rfl) (fun _ _ _ _ h => nomatch h.1) (by rfl) ?_
    refine ⟨.bool ok, fun w' => exec_moveA (.tmp 24) rfl _ rfl, ?_⟩
    simp only [Act.put, List.setIfInBounds_toArray, List.set_cons_zero, List.set_cons_succ]
    refine doneW (by kernel_rfl) ⟨rfl, ?_⟩ _
    exact ⟨Ngy_93.out, Ngr_93.out, Na3_0_93.out, Na3_1_93.out, Na63_0_93.out, HF_93.out, rfl⟩
  rintro a' v94 ⟨h0, h1, h2, h3, h4, hF, rfl⟩
  have Ngy_94 := Lib.hid h0
  have Ngr_94 := Lib.hid h1
  have Na3_0_94 := Lib.hid h2
  have Na3_1_94 := Lib.hid h3
  have Na63_0_94 := Lib.hid h4
  have HF_94 := Lib.hid hF
  clear h0 h1 h2 h3 h4 hF HLT89_0 HLT89_1 HLT89_2 HLT89_3 HLT89_4 HLO89 Ngy_88 Ngr_88 Na3_0_88 Na3_1_88 Na63_0_88 HF_88
  go_wp2
  obtain ⟨tr, htr⟩ := Ngr_94.out.num
  exact bodyPost_ret (results_cell2 rfl _ _ gr tr (bcs (enc x)).toArray (0, 0) _ rfl htr under23 rfl (by rw [List.size_toArray, bcs_enc_len]; exact size23)) rfl ⟨rfl, HF_94.out⟩

set_option maxHeartbeats 4000000 in
theorem Bytes_bad (x y : Nat) (w : World) (C1 : Hid (∀ w, Calls Try.prog 40 #[vR [x, y]] w (Gives (.int .i64 2) w))) :
    Calls Try.prog 36 #[vR [x, y]] w (Gives (.tuple #[vN 0, .int .i64 2]) w) := by
  go_enter Try.func36, Try.ntmps36
  go_wp2_with (first | ((with_reducible show wpList _ _ _ (⟨some 1, .box 35 (.tmp 0), _, _, _, _⟩ :: _) _ _); go_must (refine wpList_box_row rfl 35 (.tmp 0) rfl (bcs (encs [x, y])).toArray rfl ?_; intro a1 h1 z1 g1; have H1 := Lib.hid h1; have Z1 := Lib.hid z1; have G1 := Lib.hid g1; clear h1 z1 g1)) | ((with_reducible show wpList _ _ _ (⟨some 2, .alloc 22, _, _, _, _⟩ :: _) _ _); go_must (refine wpList_alloc_row rfl 22 rfl (.agg (zbs 32)) zero22 ?_; intro a2 h1 z1 g1; have H2 := Lib.hid h1; have Z2 := Lib.hid z1; have G2 := Lib.hid g1; clear h1 z1 g1; have R1 : Hid (RAt a2 w.heap.size [x, y]) := RAt.grown ⟨_, H1.out⟩ G2.out (by simp))) | ((with_reducible show wpList _ _ _ (⟨_, .load 35 (.tmp 1), _, _, _, _⟩ :: _) _ _); go_must (refine wpList_exec rfl (vR [x, y]) (exec_loadP (.tmp 1) rfl (w.heap.size) x y rfl R1.out) ?_)) | fail)
  have HB : Hid (Below w.heap.size w a2) := (below_of_grownBy G1.out).trans ((below_of_grownBy G2.out).mono (by have := Z1.out; omega))
  refine (C1.out _).mono ?_
  rintro e x1 ⟨rfl, hb⟩
  have HR : Hid (x1.heap[a1.heap.size]? = some (.cells (zbs 32) 22 (0, 0))) := Lib.hid ((hb.block _ (Array.getElem?_eq_some_iff.1 H2.out).1).trans H2.out)
  have HBel := Lib.hid (HB.out.trans (hb.mono HB.out.size))
  have HGE : Hid (w.heap.size ≤ a1.heap.size) := Lib.hid (by have := Z1.out; omega)
  clear hb HB H1 Z1 G1 H2 Z2 G2 R1
  go_wp2_with (first | ((with_reducible show wpList _ _ _ (⟨_, .build 22 _, _, _, _, _⟩ :: _) _ _); go_must (refine wpList_exec rfl (vN 0) (exec_buildc rfl (by kernel_rfl)) ?_)) | ((with_reducible show wpList _ _ _ (⟨none, .store 22 (.tmp 2) (.tmp 10), _, _, _, _⟩ :: _) _ _); go_must (refine wpList_store_all rfl 22 (.tmp 2) (.tmp 10) rfl (a1.heap.size) rfl (bcs (enc 0)).toArray rfl 22 _ HR.out (by rw [List.size_toArray, bcs_enc_len]; exact size22) (by rw [List.size_toArray, bcs_enc_len]; rfl) (bcs_one _) ?_; intro b5 hh hg hz; have HH5 := Lib.hid hh; have HG5 := Lib.hid hg; have HZ5 := Lib.hid hz; clear hh hg hz)) | fail)
  exact bodyPost_ret (results_cell2 rfl _ _ a1.heap.size 22 (bcs (enc 0)).toArray (0, 0) _ rfl HH5.out under22 rfl (by rw [List.size_toArray, bcs_enc_len]; exact size22)) rfl ⟨rfl, HBel.out.grown HG5.out HBel.out.size (fun r hr => by injection hr with hr; have := HGE.out; omega)⟩

set_option maxHeartbeats 4000000 in
theorem Bytes_core (x y r : Nat) (o : Bool) (w : World) (C1 : Hid (∀ w, Calls Try.prog 40 #[vR [x, y]] w (Gives (.int .i64 0) w))) (C2 : Hid (∀ w, Calls Try.prog 31 #[vN x] w (Gives (.bool o) w)))
    (HR : Hid (if o then (enc y).set 31 (UInt8.ofNat (((enc y).getD 31 0).toNat + 128)) = enc r else y = r)) (HY : Hid (((enc y).getD 31 0).toNat < 128)) :
    Calls Try.prog 36 #[vR [x, y]] w (Gives (.tuple #[vN r, .int .i64 0]) w) := by
  go_enter Try.func36, Try.ntmps36
  go_wp2_with (first | ((with_reducible show wpList _ _ _ (⟨some 1, .box 35 (.tmp 0), _, _, _, _⟩ :: _) _ _); go_must (refine wpList_box_row rfl 35 (.tmp 0) rfl (bcs (encs [x, y])).toArray rfl ?_; intro a1 h1 z1 g1; have H1 := Lib.hid h1; have Z1 := Lib.hid z1; have G1 := Lib.hid g1; clear h1 z1 g1)) | ((with_reducible show wpList _ _ _ (⟨some 2, .alloc 22, _, _, _, _⟩ :: _) _ _); go_must (refine wpList_alloc_row rfl 22 rfl (.agg (zbs 32)) zero22 ?_; intro a2 h1 z1 g1; have H2 := Lib.hid h1; have Z2 := Lib.hid z1; have G2 := Lib.hid g1; clear h1 z1 g1; have R1 : Hid (RAt a2 w.heap.size [x, y]) := RAt.grown ⟨_, H1.out⟩ G2.out (by simp))) | ((with_reducible show wpList _ _ _ (⟨_, .load 35 (.tmp 1), _, _, _, _⟩ :: _) _ _); go_must (refine wpList_exec rfl (vR [x, y]) (exec_loadP (.tmp 1) rfl (w.heap.size) x y rfl R1.out) ?_)) | fail)
  have HB : Hid (Below w.heap.size w a2) := (below_of_grownBy G1.out).trans ((below_of_grownBy G2.out).mono (by have := Z1.out; omega))
  refine (C1.out _).mono ?_
  rintro e x1 ⟨rfl, hb⟩
  have HR1 : Hid (x1.heap[a1.heap.size]? = some (.cells (zbs 32) 22 (0, 0))) := Lib.hid ((hb.block _ (Array.getElem?_eq_some_iff.1 H2.out).1).trans H2.out)
  have R2 := Lib.hid (R1.out.keep hb)
  have HBel := Lib.hid (HB.out.trans (hb.mono HB.out.size))
  have HGE : Hid (w.heap.size < a1.heap.size) := Lib.hid (by have := Z1.out; omega)
  clear hb HB H1 Z1 G1 H2 Z2 G2 R1
  generalize a1.heap.size = gr at *
  go_wp2_with (first | ((with_reducible show wpList _ _ _ (⟨_, .load 23 (.tmp 12), _, _, _, _⟩ :: _) _ _); go_must (refine wpList_exec rfl (vN y) (exec_loadF (.tmp 12) rfl (w.heap.size) 1 32 rfl [x, y] y rfl R2.out rfl) ?_)) | ((with_reducible show wpList _ _ _ (⟨some 5, .alloc 22, _, _, _, _⟩ :: _) _ _); go_must (refine wpList_alloc_row rfl 22 rfl (.agg (zbs 32)) zero22 ?_; intro a5 h1 z1 g1; have H5 := Lib.hid h1; have Z5 := Lib.hid z1; have G5 := Lib.hid g1; clear h1 z1 g1)) | ((with_reducible show wpList _ _ _ (⟨none, .store 22 (.tmp 5) (.tmp 13), _, _, _, _⟩ :: _) _ _); go_must (refine wpList_store_all rfl 22 (.tmp 5) (.tmp 13) rfl (x1.heap.size) rfl (bcs (enc y)).toArray rfl 22 _ H5.out (by rw [List.size_toArray, bcs_enc_len]; exact size22) (by rw [List.size_toArray, bcs_enc_len]; rfl) (bcs_one _) ?_; intro b6 hh hg hz; have HH6 := Lib.hid hh; have HG6 := Lib.hid hg; have HZ6 := Lib.hid hz; clear hh hg hz; have R3 := Lib.hid ((R2.out.grown G5.out (by simp)).grown HG6.out (by have := R2.out.lt; simp; omega)))) | ((with_reducible show wpList _ _ _ (⟨_, .load 23 (.tmp 14), _, _, _, _⟩ :: _) _ _); go_must (refine wpList_exec rfl (vN x) (exec_loadF (.tmp 14) rfl (w.heap.size) 0 0 rfl [x, y] x rfl R3.out rfl) ?_)) | fail)
  have HR2 : Hid (b6.heap[gr]? = some (.cells (zbs 32) 22 (0, 0))) := Lib.hid ((HG6.out.block _ (by have := (Array.getElem?_eq_some_iff.1 HR1.out).1; have := G5.out.size; omega) (by have := (Array.getElem?_eq_some_iff.1 HR1.out).1; simp; omega)).trans ((G5.out.block _ (Array.getElem?_eq_some_iff.1 HR1.out).1 (by simp)).trans HR1.out))
  have HB6 : Hid (Below w.heap.size w b6) := Lib.hid ((HBel.out.grown G5.out HBel.out.size (by simp)).grown HG6.out (by have := HBel.out.size; have := Z5.out; omega) (fun r hr => by injection hr with hr; have := HBel.out.size; omega))
  have HNE : Hid (gr < x1.heap.size) := Lib.hid (Array.getElem?_eq_some_iff.1 HR1.out).1
  clear HR1 HBel H5 Z5 G5 HG6 HZ6 R2 R3
  generalize x1.heap.size = gb at *
  refine (C2.out _).mono ?_
  rintro e x2 ⟨rfl, hb⟩
  have HRow : Hid (x2.heap[gb]? = some (.cells (bcs (enc y)).toArray 22 (0, 0))) := Lib.hid ((hb.block _ (Array.getElem?_eq_some_iff.1 HH6.out).1).trans HH6.out)
  have HR3 : Hid (x2.heap[gr]? = some (.cells (zbs 32) 22 (0, 0))) := Lib.hid ((hb.block _ (Array.getElem?_eq_some_iff.1 HR2.out).1).trans HR2.out)
  have HB7 := Lib.hid (HB6.out.trans (hb.mono HB6.out.size))
  clear hb HB6 HR2 HH6
  cases o
  · obtain rfl : y = r := HR.out
    go_wp2_with (first | ((with_reducible show wpList _ _ _ (⟨_, .load 22 (.tmp 5), _, _, _, _⟩ :: _) _ _); go_must (refine wpList_load_arr rfl 22 (.tmp 5) rfl gb 0 rfl (bcs (enc y)) (fun i u hu => by rw [Nat.zero_add]; exact row_cells HRow.out i u (by simpa using hu)) _ under22 rfl (by rw [bcs_enc_len]; exact size22) ?_)) | ((with_reducible show wpList _ _ _ (⟨none, .store 22 (.tmp 2) (.tmp 21), _, _, _, _⟩ :: _) _ _); go_must (refine wpList_store_all rfl 22 (.tmp 2) (.tmp 21) rfl (gr) rfl (bcs (enc y)).toArray rfl 22 _ HR3.out (by rw [List.size_toArray, bcs_enc_len]; exact size22) (by rw [List.size_toArray, bcs_enc_len]; rfl) (bcs_one _) ?_; intro b8 hh hg hz; have HH8 := Lib.hid hh; have HG8 := Lib.hid hg; have HZ8 := Lib.hid hz; clear hh hg hz)) | fail)
    exact bodyPost_ret (results_cell2 rfl _ _ gr 22 (bcs (enc y)).toArray (0, 0) _ rfl HH8.out under22 rfl (by rw [List.size_toArray, bcs_enc_len]; exact size22)) rfl ⟨rfl, HB7.out.grown HG8.out HB7.out.size (fun r hr => by injection hr with hr; have := HGE.out; omega)⟩
  · have hr : (enc y).set 31 (UInt8.ofNat (((enc y).getD 31 0).toNat + 128)) = enc r := HR.out
    have HRR := Lib.hid hr
    clear hr HR
    have c0 : x2.cell? ⟨gb, 31, none⟩ = some (.int .u8 (((enc y).getD 31 0).toNat : Nat)) := (show BAt x2 gb (enc y) from ⟨enc_len y, 22, HRow.out⟩).cell 31 (by omega)
    generalize ((enc y).getD 31 0).toNat = t at *
    go_wp2_with (first | ((with_reducible show wpList _ _ _ (⟨none, .store 5 (.tmp 20) (.tmp 19), _, _, _, _⟩ :: _) _ _); go_must (refine wpList_store_one rfl 5 (.tmp 20) (.tmp 19) rfl gb 31 rfl .u8 _ rfl 22 _ HRow.out size5 (by simp only [List.size_toArray, bcs_enc_len]; omega) ?_; intro b9 hh hg hz; rw [or_top t HY.out, byte_val (t + 128) (by have := HY.out; omega), bcs_put, HRR.out] at hh; have HH9 := Lib.hid hh; have HR4 : Hid (b9.heap[gr]? = some (.cells (zbs 32) 22 (0, 0))) := Lib.hid ((hg.block _ (Array.getElem?_eq_some_iff.1 HR3.out).1 (by have := HNE.out; simp; omega)).trans HR3.out); have HB8 : Hid (Below w.heap.size w b9) := Lib.hid (HB7.out.grown hg HB7.out.size (fun r hr => by injection hr with hr; have := HGE.out; have := HNE.out; omega)); clear hh hg hz HR3 HB7 HRow)) | ((with_reducible show wpList _ _ _ (⟨_, .load 22 (.tmp 5), _, _, _, _⟩ :: _) _ _); go_must (refine wpList_load_arr rfl 22 (.tmp 5) rfl gb 0 rfl (bcs (enc r)) (fun i u hu => by rw [Nat.zero_add]; exact row_cells HH9.out i u (by simpa using hu)) _ under22 rfl (by rw [bcs_enc_len]; exact size22) ?_)) | ((with_reducible show wpList _ _ _ (⟨none, .store 22 (.tmp 2) (.tmp 21), _, _, _, _⟩ :: _) _ _); go_must (refine wpList_store_all rfl 22 (.tmp 2) (.tmp 21) rfl (gr) rfl (bcs (enc r)).toArray rfl 22 _ HR4.out (by rw [List.size_toArray, bcs_enc_len]; exact size22) (by rw [List.size_toArray, bcs_enc_len]; rfl) (bcs_one _) ?_; intro b8 hh hg hz; have HH8 := Lib.hid hh; have HG8 := Lib.hid hg; have HZ8 := Lib.hid hz; clear hh hg hz)) | fail)
    exact bodyPost_ret (results_cell2 rfl _ _ gr 22 (bcs (enc r)).toArray (0, 0) _ rfl HH8.out under22 rfl (by rw [List.size_toArray, bcs_enc_len]; exact size22)) rfl ⟨rfl, HB8.out.grown HG8.out HB8.out.size (fun r hr => by injection hr with hr; have := HGE.out; omega)⟩
end Go.Proofs.Ytgdimnbdnepbgaa
/- The curve: Read. No statement is proved here. -/
namespace Go.Proofs.Ytgdimnbdnepbgaa
open Go.RowKit
set_option linter.unusedVariables false
set_option maxRecDepth 40000
set_option linter.unusedSimpArgs false

set_option maxHeartbeats 8000000 in
theorem Read_core (n y x m t u rx ry : Nat) (re : Int) (odd c ok z : Bool) (w : World)
    (HT : Hid (((enc n).getD 31 0).toNat = t)) (HO : Hid ((bits .and .u8 (t : Int) 128 != 0) = odd)) (HU : Hid (bits .andNot .u8 (t : Int) 128 = ((u : Nat) : Int))) (HU2 : Hid (u < 256)) (HS : Hid ((enc n).set 31 (UInt8.ofNat u) = enc y))
    (C1 : Hid (∀ w, Calls Try.prog 15 #[vN y] w (Gives (.bool c) w))) (C2 : Hid (∀ w, Calls Try.prog 78 #[vN y] w (Gives (.tuple #[vN x, .bool ok]) w))) (C3 : Hid (∀ w, Calls Try.prog 23 #[vN x] w (Gives (vN m) w)))
    (HE : Hid (∀ w, (Op.equalIn 10000 23 (vN x) (vN 0)).run Try.prog w = .ok z w))
    (HRES : Hid (if c && (ok && !(odd && z)) then (if odd then m else x) = rx ∧ y = ry ∧ (0 : Int) = re else 0 = rx ∧ 0 = ry ∧ (4 : Int) = re)) :
    Calls Try.prog 35 #[vN n] w (Gives (.tuple #[vR [rx, ry], .int .i64 re]) w) := by
  go_enter Try.func35, Try.ntmps35
  go_wp2_with (first | ((with_reducible show wpList _ _ _ (⟨some 1, .box 22 (.tmp 0), _, _, _, _⟩ :: _) _ _); go_must (refine wpList_box_row rfl 22 (.tmp 0) rfl (bcs (enc n)).toArray rfl ?_; intro a1 h1 z1 g1; have H1 := Lib.hid h1; have Z1 := Lib.hid z1; have G1 := Lib.hid g1; clear h1 z1 g1)) | ((with_reducible show wpList _ _ _ (⟨some 2, .alloc 35, _, _, _, _⟩ :: _) _ _); go_must (refine wpList_alloc_row rfl 35 rfl (.agg (zbs 64)) zero35 ?_; intro a2 h1 z1 g1; have HR : Hid (RAt a2 a1.heap.size [0, 0]) := Lib.hid (zrow (k := 2) h1); have HB : Hid (Below w.heap.size w a2) := Lib.hid ((below_of_grownBy G1.out).trans ((below_of_grownBy g1).mono (by have := Z1.out; omega))); have HI : Hid (a2.heap[w.heap.size]? = some (.cells (bcs (enc n)).toArray 22 (0, 0))) := Lib.hid ((g1.block _ (by have := Z1.out; omega) (by simp)).trans H1.out); have HGE : Hid (w.heap.size ≤ a1.heap.size) := Lib.hid (by have := Z1.out; omega); have HNE0 : Hid (w.heap.size ≠ a1.heap.size) := Lib.hid (by have := Z1.out; omega); have c0 : a2.cell? ⟨w.heap.size, 31, none⟩ = some (.int .u8 (((enc n).getD 31 0).toNat : Nat)) := (show BAt a2 w.heap.size (enc n) from ⟨enc_len n, 22, HI.out⟩).cell 31 (by omega); rw [HT.out] at c0; clear h1 z1 g1 H1 Z1 G1)) | ((with_reducible show wpList _ _ _ (⟨none, .store 5 (.tmp 15) (.tmp 14), _, _, _, _⟩ :: _) _ _); go_must (refine wpList_store_one rfl 5 (.tmp 15) (.tmp 14) rfl w.heap.size 31 rfl .u8 _ rfl 22 _ HI.out size5 (by simp only [List.size_toArray, bcs_enc_len]; omega) ?_; intro b9 hh hg hz; rw [HU.out, byte_val u HU2.out, bcs_put, HS.out] at hh; have RY_9 : Hid (RAt b9 w.heap.size [y]) := Lib.hid (NAt.row ⟨_, hh⟩); have RR_9 := Lib.hid (HR.out.grown hg (by have := HNE0.out; simp; omega)); have HB_9 : Hid (Below w.heap.size w b9) := Lib.hid (HB.out.grown hg HB.out.size (fun r hr => by injection hr with hr; omega)); have HGE00 : Hid (w.heap.size ≤ w.heap.size) := Lib.hid (Nat.le_refl _); clear hh hg hz HR HB HI c0)) | ((with_reducible show wpList _ _ _ (⟨_, .load 22 (.tmp 1), _, _, _, _⟩ :: _) _ _); go_must (refine wpList_exec rfl (vN y) (exec_load22 (.tmp 1) rfl (w.heap.size) 0 0 rfl [y] y rfl RY_9.out rfl) ?_)) | ((with_reducible show wpList _ _ _ (⟨some 5, .alloc 23, _, _, _, _⟩ :: _) _ _); go_must (refine wpList_alloc_row rfl 23 rfl (.agg (zbs 32)) zero23 ?_; intro u95 ha95 hza95 hga95; have HA95 := Lib.hid ha95; have HZA95 := Lib.hid hza95; have HGA95 := Lib.hid hga95; clear ha95 hza95 hga95)) | ((with_reducible show wpList _ _ _ (⟨none, .store 23 (.tmp 5) (.tmp 16), _, _, _, _⟩ :: _) _ _); go_must (refine wpList_storeF rfl (.tmp 5) (.tmp 16) rfl (b9.heap.size) 0 0 rfl [0] y rfl rfl (zrow (k := 1) HA95.out) (show 0 < 1 by omega) ?_; intro y95 hr95 hg95 hz95; have RY_95 := Lib.hid ((RY_9.out.grown HGA95.out (by simp)).grown hg95 (by have := RY_9.out.lt; simp; omega)); have RR_95 := Lib.hid ((RR_9.out.grown HGA95.out (by simp)).grown hg95 (by have := RR_9.out.lt; simp; omega)); have Ngy_95 : Hid (RAt y95 b9.heap.size [y]) := Lib.hid hr95; have HF_95 : Hid (Below w.heap.size w y95) := Lib.hid ((HB_9.out.grown HGA95.out HB_9.out.size (by simp)).grown hg95 (by have := HB_9.out.size; have := HZA95.out; omega) (fun r hr => by injection hr with hr; have := HB_9.out.size; omega)); have HNE95_1 : Hid (w.heap.size ≠ b9.heap.size) := Lib.hid (by have := RY_9.out.lt; omega); have HNE95_2 : Hid (a1.heap.size ≠ b9.heap.size) := Lib.hid (by have := RR_9.out.lt; omega); have HGE95 : Hid (w.heap.size ≤ b9.heap.size) := Lib.hid HB_9.out.size; clear hr95 hg95 hz95 HA95 HZA95 HGA95 RY_9 RR_9 HB_9)) | ((with_reducible show wpList _ _ _ (⟨_, .load 23 (.tmp 5), _, _, _, _⟩ :: _) _ _); go_must (refine wpList_exec rfl (vN y) (exec_loadF (.tmp 5) rfl (b9.heap.size) 0 0 rfl [y] y rfl Ngy_95.out rfl) ?_)) | fail)
  rw [HO.out]
  generalize b9.heap.size = gy at *
  generalize a1.heap.size = gr at *
  refine (C1.out _).mono ?_
  rintro e96 x96 ⟨rfl, hb96⟩
  have RY_96 := Lib.hid (RY_95.out.keep hb96)
  have RR_96 := Lib.hid (RR_95.out.keep hb96)
  have Ngy_96 := Lib.hid (Ngy_95.out.keep hb96)
  have HF_96 : Hid (Below w.heap.size w x96) := Lib.hid (HF_95.out.trans (hb96.mono HF_95.out.size))
  clear hb96 RY_95 RR_95 Ngy_95 HF_95
  cases c
  · go_wp2_with (first | ((with_reducible show wpList _ _ _ (⟨_, .build 35 #[], _, _, _, _⟩ :: _) _ _); go_must (refine wpList_exec rfl (vR [0, 0]) (exec_buildc rfl (by kernel_rfl)) ?_)) | ((with_reducible show wpList _ _ _ (⟨none, .store 35 (.tmp 2) (.tmp 20), _, _, _, _⟩ :: _) _ _); go_must (refine wpList_storeP rfl (.tmp 2) (.tmp 20) rfl (gr) [0, 0] 0 0 rfl rfl RR_96.out rfl ?_; intro y97 hr97 hg97 hz97; have RY_97 := Lib.hid (RY_96.out.grown hg97 (by have := HNE0.out; simp; omega)); have RR_97 : Hid (RAt y97 gr [0, 0]) := Lib.hid hr97; have Ngy_97 := Lib.hid (Ngy_96.out.grown hg97 (by have := HNE95_2.out; simp; omega)); have HF_97 : Hid (Below w.heap.size w y97) := Lib.hid (HF_96.out.grown hg97 HF_96.out.size (fun r hr => by injection hr with hr; have := HGE.out; omega)); clear hr97 hg97 hz97 RY_96 RR_96 Ngy_96 HF_96)) | fail)
    obtain ⟨tr, htr⟩ := RR_97.out
    obtain ⟨rfl, rfl, rfl⟩ : 0 = rx ∧ 0 = ry ∧ (4 : Int) = re := HRES.out
    exact bodyPost_ret (results_cell2 rfl _ _ gr tr (bcs (encs [0, 0])).toArray (0, 0) _ rfl htr Try.underlying35 rfl (by rw [List.size_toArray, bcs_len, encs_len]; exact size35)) rfl ⟨rfl, HF_97.out⟩
  · go_wp2_with (first | ((with_reducible show wpList _ _ _ (⟨_, .load 23 (.tmp 5), _, _, _, _⟩ :: _) _ _); go_must (refine wpList_exec rfl (vN y) (exec_loadF (.tmp 5) rfl (gy) 0 0 rfl [y] y rfl Ngy_96.out rfl) ?_)) | fail)
    refine (C2.out _).mono ?_
    rintro e98 x98 ⟨rfl, hb98⟩
    have RY_98 := Lib.hid (RY_96.out.keep hb98)
    have RR_98 := Lib.hid (RR_96.out.keep hb98)
    have Ngy_98 := Lib.hid (Ngy_96.out.keep hb98)
    have HF_98 : Hid (Below w.heap.size w x98) := Lib.hid (HF_96.out.trans (hb98.mono HF_96.out.size))
    clear hb98 RY_96 RR_96 Ngy_96 HF_96
    cases ok
    · go_wp2_with (first | ((with_reducible show wpList _ _ _ (⟨some 6, .alloc 23, _, _, _, _⟩ :: _) _ _); go_must (refine wpList_alloc_row rfl 23 rfl (.agg (zbs 32)) zero23 ?_; intro u99 ha99 hza99 hga99; have HA99 := Lib.hid ha99; have HZA99 := Lib.hid hza99; have HGA99 := Lib.hid hga99; clear ha99 hza99 hga99)) | ((with_reducible show wpList _ _ _ (⟨none, .store 23 (.tmp 6) (.tmp 24), _, _, _, _⟩ :: _) _ _); go_must (refine wpList_storeF rfl (.tmp 6) (.tmp 24) rfl (x98.heap.size) 0 0 rfl [0] x rfl rfl (zrow (k := 1) HA99.out) (show 0 < 1 by omega) ?_; intro y99 hr99 hg99 hz99; have RY_99 := Lib.hid ((RY_98.out.grown HGA99.out (by simp)).grown hg99 (by have := RY_98.out.lt; simp; omega)); have RR_99 := Lib.hid ((RR_98.out.grown HGA99.out (by simp)).grown hg99 (by have := RR_98.out.lt; simp; omega)); have Ngy_99 := Lib.hid ((Ngy_98.out.grown HGA99.out (by simp)).grown hg99 (by have := Ngy_98.out.lt; simp; omega)); have Ngx_99 : Hid (RAt y99 x98.heap.size [x]) := Lib.hid hr99; have HF_99 : Hid (Below w.heap.size w y99) := Lib.hid ((HF_98.out.grown HGA99.out HF_98.out.size (by simp)).grown hg99 (by have := HF_98.out.size; have := HZA99.out; omega) (fun r hr => by injection hr with hr; have := HF_98.out.size; omega)); have HNE99_3 : Hid (w.heap.size ≠ x98.heap.size) := Lib.hid (by have := RY_98.out.lt; omega); have HNE99_4 : Hid (gr ≠ x98.heap.size) := Lib.hid (by have := RR_98.out.lt; omega); have HNE99_5 : Hid (gy ≠ x98.heap.size) := Lib.hid (by have := Ngy_98.out.lt; omega); have HGE99 : Hid (w.heap.size ≤ x98.heap.size) := Lib.hid HF_98.out.size; clear hr99 hg99 hz99 HA99 HZA99 HGA99 RY_98 RR_98 Ngy_98 HF_98)) | ((with_reducible show wpList _ _ _ (⟨_, .build 35 #[], _, _, _, _⟩ :: _) _ _); go_must (refine wpList_exec rfl (vR [0, 0]) (exec_buildc rfl (by kernel_rfl)) ?_)) | ((with_reducible show wpList _ _ _ (⟨none, .store 35 (.tmp 2) (.tmp 36), _, _, _, _⟩ :: _) _ _); go_must (refine wpList_storeP rfl (.tmp 2) (.tmp 36) rfl (gr) [0, 0] 0 0 rfl rfl RR_99.out rfl ?_; intro y100 hr100 hg100 hz100; have RY_100 := Lib.hid (RY_99.out.grown hg100 (by have := HNE0.out; simp; omega)); have RR_100 : Hid (RAt y100 gr [0, 0]) := Lib.hid hr100; have Ngy_100 := Lib.hid (Ngy_99.out.grown hg100 (by have := HNE95_2.out; simp; omega)); have Ngx_100 := Lib.hid (Ngx_99.out.grown hg100 (by have := HNE99_4.out; simp; omega)); have HF_100 : Hid (Below w.heap.size w y100) := Lib.hid (HF_99.out.grown hg100 HF_99.out.size (fun r hr => by injection hr with hr; have := HGE.out; omega)); clear hr100 hg100 hz100 RY_99 RR_99 Ngy_99 Ngx_99 HF_99)) | fail)
      generalize x98.heap.size = gx at *
      obtain ⟨tr, htr⟩ := RR_100.out
      obtain ⟨rfl, rfl, rfl⟩ : 0 = rx ∧ 0 = ry ∧ (4 : Int) = re := HRES.out
      exact bodyPost_ret (results_cell2 rfl _ _ gr tr (bcs (encs [0, 0])).toArray (0, 0) _ rfl htr Try.underlying35 rfl (by rw [List.size_toArray, bcs_len, encs_len]; exact size35)) rfl ⟨rfl, HF_100.out⟩
    · cases odd
      · go_wp2_with (first | ((with_reducible show wpList _ _ _ (⟨some 6, .alloc 23, _, _, _, _⟩ :: _) _ _); go_must (refine wpList_alloc_row rfl 23 rfl (.agg (zbs 32)) zero23 ?_; intro u101 ha101 hza101 hga101; have HA101 := Lib.hid ha101; have HZA101 := Lib.hid hza101; have HGA101 := Lib.hid hga101; clear ha101 hza101 hga101)) | ((with_reducible show wpList _ _ _ (⟨none, .store 23 (.tmp 6) (.tmp 24), _, _, _, _⟩ :: _) _ _); go_must (refine wpList_storeF rfl (.tmp 6) (.tmp 24) rfl (x98.heap.size) 0 0 rfl [0] x rfl rfl (zrow (k := 1) HA101.out) (show 0 < 1 by omega) ?_; intro y101 hr101 hg101 hz101; have RY_101 := Lib.hid ((RY_98.out.grown HGA101.out (by simp)).grown hg101 (by have := RY_98.out.lt; simp; omega)); have RR_101 := Lib.hid ((RR_98.out.grown HGA101.out (by simp)).grown hg101 (by have := RR_98.out.lt; simp; omega)); have Ngy_101 := Lib.hid ((Ngy_98.out.grown HGA101.out (by simp)).grown hg101 (by have := Ngy_98.out.lt; simp; omega)); have Ngx_101 : Hid (RAt y101 x98.heap.size [x]) := Lib.hid hr101; have HF_101 : Hid (Below w.heap.size w y101) := Lib.hid ((HF_98.out.grown HGA101.out HF_98.out.size (by simp)).grown hg101 (by have := HF_98.out.size; have := HZA101.out; omega) (fun r hr => by injection hr with hr; have := HF_98.out.size; omega)); have HNE101_3 : Hid (w.heap.size ≠ x98.heap.size) := Lib.hid (by have := RY_98.out.lt; omega); have HNE101_4 : Hid (gr ≠ x98.heap.size) := Lib.hid (by have := RR_98.out.lt; omega); have HNE101_5 : Hid (gy ≠ x98.heap.size) := Lib.hid (by have := Ngy_98.out.lt; omega); have HGE101 : Hid (w.heap.size ≤ x98.heap.size) := Lib.hid HF_98.out.size; clear hr101 hg101 hz101 HA101 HZA101 HGA101 RY_98 RR_98 Ngy_98 HF_98)) | ((with_reducible show wpList _ _ _ (⟨some 40, .load 23 (.tmp 6), _, _, _, _⟩ :: _) _ _); go_must (refine wpList_exec rfl (vN x) (exec_loadF (.tmp 6) rfl (x98.heap.size) 0 0 rfl [x] x rfl Ngx_101.out rfl) ?_)) | ((with_reducible show wpList _ _ _ (⟨_, .load 23 (.tmp 5), _, _, _, _⟩ :: _) _ _); go_must (refine wpList_exec rfl (vN y) (exec_loadF (.tmp 5) rfl (gy) 0 0 rfl [y] y rfl Ngy_101.out rfl) ?_)) | ((with_reducible show wpList _ _ _ (⟨_, .build 35 _, _, _, _, _⟩ :: _) _ _); go_must (refine wpList_exec rfl (vR [x, y]) (exec_build35 (.tmp 40) (.tmp 41) x y rfl rfl rfl) ?_)) | ((with_reducible show wpList _ _ _ (⟨none, .store 35 (.tmp 2) (.tmp 42), _, _, _, _⟩ :: _) _ _); go_must (refine wpList_storeP rfl (.tmp 2) (.tmp 42) rfl (gr) [0, 0] x y rfl rfl RR_101.out rfl ?_; intro y102 hr102 hg102 hz102; have RY_102 := Lib.hid (RY_101.out.grown hg102 (by have := HNE0.out; simp; omega)); have RR_102 : Hid (RAt y102 gr [x, y]) := Lib.hid hr102; have Ngy_102 := Lib.hid (Ngy_101.out.grown hg102 (by have := HNE95_2.out; simp; omega)); have Ngx_102 := Lib.hid (Ngx_101.out.grown hg102 (by have := HNE101_4.out; simp; omega)); have HF_102 : Hid (Below w.heap.size w y102) := Lib.hid (HF_101.out.grown hg102 HF_101.out.size (fun r hr => by injection hr with hr; have := HGE.out; omega)); clear hr102 hg102 hz102 RY_101 RR_101 Ngy_101 Ngx_101 HF_101)) | fail)
        generalize x98.heap.size = gx at *
        obtain ⟨tr, htr⟩ := RR_102.out
        obtain ⟨rfl, rfl, rfl⟩ : x = rx ∧ y = ry ∧ (0 : Int) = re := HRES.out
        exact bodyPost_ret (results_cell2 rfl _ _ gr tr (bcs (encs [x, y])).toArray (0, 0) _ rfl htr Try.underlying35 rfl (by rw [List.size_toArray, bcs_len, encs_len]; exact size35)) rfl ⟨rfl, HF_102.out⟩
      · cases z
        · go_wp2_with (first | ((with_reducible show wpList _ _ _ (⟨some 6, .alloc 23, _, _, _, _⟩ :: _) _ _); go_must (refine wpList_alloc_row rfl 23 rfl (.agg (zbs 32)) zero23 ?_; intro u103 ha103 hza103 hga103; have HA103 := Lib.hid ha103; have HZA103 := Lib.hid hza103; have HGA103 := Lib.hid hga103; clear ha103 hza103 hga103)) | ((with_reducible show wpList _ _ _ (⟨none, .store 23 (.tmp 6) (.tmp 24), _, _, _, _⟩ :: _) _ _); go_must (refine wpList_storeF rfl (.tmp 6) (.tmp 24) rfl (x98.heap.size) 0 0 rfl [0] x rfl rfl (zrow (k := 1) HA103.out) (show 0 < 1 by omega) ?_; intro y103 hr103 hg103 hz103; have RY_103 := Lib.hid ((RY_98.out.grown HGA103.out (by simp)).grown hg103 (by have := RY_98.out.lt; simp; omega)); have RR_103 := Lib.hid ((RR_98.out.grown HGA103.out (by simp)).grown hg103 (by have := RR_98.out.lt; simp; omega)); have Ngy_103 := Lib.hid ((Ngy_98.out.grown HGA103.out (by simp)).grown hg103 (by have := Ngy_98.out.lt; simp; omega)); have Ngx_103 : Hid (RAt y103 x98.heap.size [x]) := Lib.hid hr103; have HF_103 : Hid (Below w.heap.size w y103) := Lib.hid ((HF_98.out.grown HGA103.out HF_98.out.size (by simp)).grown hg103 (by have := HF_98.out.size; have := HZA103.out; omega) (fun r hr => by injection hr with hr; have := HF_98.out.size; omega)); have HNE103_3 : Hid (w.heap.size ≠ x98.heap.size) := Lib.hid (by have := RY_98.out.lt; omega); have HNE103_4 : Hid (gr ≠ x98.heap.size) := Lib.hid (by have := RR_98.out.lt; omega); have HNE103_5 : Hid (gy ≠ x98.heap.size) := Lib.hid (by have := Ngy_98.out.lt; omega); have HGE103 : Hid (w.heap.size ≤ x98.heap.size) := Lib.hid HF_98.out.size; clear hr103 hg103 hz103 HA103 HZA103 HGA103 RY_98 RR_98 Ngy_98 HF_98)) | ((with_reducible show wpList _ _ _ (⟨_, .load 23 (.tmp 6), _, _, _, _⟩ :: _) _ _); go_must (refine wpList_exec rfl (vN x) (exec_loadF (.tmp 6) rfl (x98.heap.size) 0 0 rfl [x] x rfl Ngx_103.out rfl) ?_)) | ((with_reducible show wpList _ _ _ (⟨_, .build 23 #[], _, _, _, _⟩ :: _) _ _); go_must (refine wpList_exec rfl (vN 0) (exec_build0 rfl) ?_)) | ((with_reducible show wpList _ _ _ (⟨_, .binOp .eql 23 (.tmp 31) (.tmp 32) 23, _, _, _, _⟩ :: _) _ _); go_must (refine wpList_exec rfl (.bool false) (exec_eq23 (.tmp 31) (.tmp 32) rfl rfl rfl (HE.out _)) ?_)) | fail)
          generalize x98.heap.size = gx at *
          refine (C3.out _).mono ?_
          rintro e104 x104 ⟨rfl, hb104⟩
          have RY_104 := Lib.hid (RY_103.out.keep hb104)
          have RR_104 := Lib.hid (RR_103.out.keep hb104)
          have Ngy_104 := Lib.hid (Ngy_103.out.keep hb104)
          have Ngx_104 := Lib.hid (Ngx_103.out.keep hb104)
          have HF_104 : Hid (Below w.heap.size w x104) := Lib.hid (HF_103.out.trans (hb104.mono HF_103.out.size))
          clear hb104 RY_103 RR_103 Ngy_103 Ngx_103 HF_103
          go_wp2_with (first | ((with_reducible show wpList _ _ _ (⟨none, .store 23 (.tmp 6) (.tmp 39), _, _, _, _⟩ :: _) _ _); go_must (refine wpList_storeF rfl (.tmp 6) (.tmp 39) rfl (gx) 0 0 rfl [x] m rfl rfl Ngx_104.out (show 0 < 1 by omega) ?_; intro y105 hr105 hg105 hz105; have RY_105 := Lib.hid (RY_104.out.grown hg105 (by have := HNE103_3.out; simp; omega)); have RR_105 := Lib.hid (RR_104.out.grown hg105 (by have := HNE103_4.out; simp; omega)); have Ngy_105 := Lib.hid (Ngy_104.out.grown hg105 (by have := HNE103_5.out; simp; omega)); have Ngx_105 : Hid (RAt y105 gx [m]) := Lib.hid hr105; have HF_105 : Hid (Below w.heap.size w y105) := Lib.hid (HF_104.out.grown hg105 HF_104.out.size (fun r hr => by injection hr with hr; have := HGE103.out; omega)); clear hr105 hg105 hz105 RY_104 RR_104 Ngy_104 Ngx_104 HF_104)) | ((with_reducible show wpList _ _ _ (⟨_, .load 23 (.tmp 6), _, _, _, _⟩ :: _) _ _); go_must (refine wpList_exec rfl (vN m) (exec_loadF (.tmp 6) rfl (gx) 0 0 rfl [m] m rfl Ngx_105.out rfl) ?_)) | ((with_reducible show wpList _ _ _ (⟨_, .load 23 (.tmp 5), _, _, _, _⟩ :: _) _ _); go_must (refine wpList_exec rfl (vN y) (exec_loadF (.tmp 5) rfl (gy) 0 0 rfl [y] y rfl Ngy_105.out rfl) ?_)) | ((with_reducible show wpList _ _ _ (⟨_, .build 35 _, _, _, _, _⟩ :: _) _ _); go_must (refine wpList_exec rfl (vR [m, y]) (exec_build35 (.tmp 40) (.tmp 41) m y rfl rfl rfl) ?_)) | ((with_reducible show wpList _ _ _ (⟨none, .store 35 (.tmp 2) (.tmp 42), _, _, _, _⟩ :: _) _ _); go_must (refine wpList_storeP rfl (.tmp 2) (.tmp 42) rfl (gr) [0, 0] m y rfl rfl RR_105.out rfl ?_; intro y106 hr106 hg106 hz106; have RY_106 := Lib.hid (RY_105.out.grown hg106 (by have := HNE0.out; simp; omega)); have RR_106 : Hid (RAt y106 gr [m, y]) := Lib.hid hr106; have Ngy_106 := Lib.hid (Ngy_105.out.grown hg106 (by have := HNE95_2.out; simp; omega)); have Ngx_106 := Lib.hid (Ngx_105.out.grown hg106 (by have := HNE103_4.out; simp; omega)); have HF_106 : Hid (Below w.heap.size w y106) := Lib.hid (HF_105.out.grown hg106 HF_105.out.size (fun r hr => by injection hr with hr; have := HGE.out; omega)); clear hr106 hg106 hz106 RY_105 RR_105 Ngy_105 Ngx_105 HF_105)) | fail)
          obtain ⟨tr, htr⟩ := RR_106.out
          obtain ⟨rfl, rfl, rfl⟩ : m = rx ∧ y = ry ∧ (0 : Int) = re := HRES.out
          exact bodyPost_ret (results_cell2 rfl _ _ gr tr (bcs (encs [m, y])).toArray (0, 0) _ rfl htr Try.underlying35 rfl (by rw [List.size_toArray, bcs_len, encs_len]; exact size35)) rfl ⟨rfl, HF_106.out⟩
        · go_wp2_with (first | ((with_reducible show wpList _ _ _ (⟨some 6, .alloc 23, _, _, _, _⟩ :: _) _ _); go_must (refine wpList_alloc_row rfl 23 rfl (.agg (zbs 32)) zero23 ?_; intro u107 ha107 hza107 hga107; have HA107 := Lib.hid ha107; have HZA107 := Lib.hid hza107; have HGA107 := Lib.hid hga107; clear ha107 hza107 hga107)) | ((with_reducible show wpList _ _ _ (⟨none, .store 23 (.tmp 6) (.tmp 24), _, _, _, _⟩ :: _) _ _); go_must (refine wpList_storeF rfl (.tmp 6) (.tmp 24) rfl (x98.heap.size) 0 0 rfl [0] x rfl rfl (zrow (k := 1) HA107.out) (show 0 < 1 by omega) ?_; intro y107 hr107 hg107 hz107; have RY_107 := Lib.hid ((RY_98.out.grown HGA107.out (by simp)).grown hg107 (by have := RY_98.out.lt; simp; omega)); have RR_107 := Lib.hid ((RR_98.out.grown HGA107.out (by simp)).grown hg107 (by have := RR_98.out.lt; simp; omega)); have Ngy_107 := Lib.hid ((Ngy_98.out.grown HGA107.out (by simp)).grown hg107 (by have := Ngy_98.out.lt; simp; omega)); have Ngx_107 : Hid (RAt y107 x98.heap.size [x]) := Lib.hid hr107; have HF_107 : Hid (Below w.heap.size w y107) := Lib.hid ((HF_98.out.grown HGA107.out HF_98.out.size (by simp)).grown hg107 (by have := HF_98.out.size; have := HZA107.out; omega) (fun r hr => by injection hr with hr; have := HF_98.out.size; omega)); have HNE107_3 : Hid (w.heap.size ≠ x98.heap.size) := Lib.hid (by have := RY_98.out.lt; omega); have HNE107_4 : Hid (gr ≠ x98.heap.size) := Lib.hid (by have := RR_98.out.lt; omega); have HNE107_5 : Hid (gy ≠ x98.heap.size) := Lib.hid (by have := Ngy_98.out.lt; omega); have HGE107 : Hid (w.heap.size ≤ x98.heap.size) := Lib.hid HF_98.out.size; clear hr107 hg107 hz107 HA107 HZA107 HGA107 RY_98 RR_98 Ngy_98 HF_98)) | ((with_reducible show wpList _ _ _ (⟨some 31, .load 23 (.tmp 6), _, _, _, _⟩ :: _) _ _); go_must (refine wpList_exec rfl (vN x) (exec_loadF (.tmp 6) rfl (x98.heap.size) 0 0 rfl [x] x rfl Ngx_107.out rfl) ?_)) | ((with_reducible show wpList _ _ _ (⟨_, .build 23 #[], _, _, _, _⟩ :: _) _ _); go_must (refine wpList_exec rfl (vN 0) (exec_build0 rfl) ?_)) | ((with_reducible show wpList _ _ _ (⟨_, .binOp .eql 23 (.tmp 31) (.tmp 32) 23, _, _, _, _⟩ :: _) _ _); go_must (refine wpList_exec rfl (.bool true) (exec_eq23 (.tmp 31) (.tmp 32) rfl rfl rfl (HE.out _)) ?_)) | ((with_reducible show wpList _ _ _ (⟨_, .build 35 #[], _, _, _, _⟩ :: _) _ _); go_must (refine wpList_exec rfl (vR [0, 0]) (exec_buildc rfl (by kernel_rfl)) ?_)) | ((with_reducible show wpList _ _ _ (⟨none, .store 35 (.tmp 2) (.tmp 36), _, _, _, _⟩ :: _) _ _); go_must (refine wpList_storeP rfl (.tmp 2) (.tmp 36) rfl (gr) [0, 0] 0 0 rfl rfl RR_107.out rfl ?_; intro y108 hr108 hg108 hz108; have RY_108 := Lib.hid (RY_107.out.grown hg108 (by have := HNE0.out; simp; omega)); have RR_108 : Hid (RAt y108 gr [0, 0]) := Lib.hid hr108; have Ngy_108 := Lib.hid (Ngy_107.out.grown hg108 (by have := HNE95_2.out; simp; omega)); have Ngx_108 := Lib.hid (Ngx_107.out.grown hg108 (by have := HNE107_4.out; simp; omega)); have HF_108 : Hid (Below w.heap.size w y108) := Lib.hid (HF_107.out.grown hg108 HF_107.out.size (fun r hr => by injection hr with hr; have := HGE.out; omega)); clear hr108 hg108 hz108 RY_107 RR_107 Ngy_107 Ngx_107 HF_107)) | fail)
          generalize x98.heap.size = gx at *
          obtain ⟨tr, htr⟩ := RR_108.out
          obtain ⟨rfl, rfl, rfl⟩ : 0 = rx ∧ 0 = ry ∧ (4 : Int) = re := HRES.out
          exact bodyPost_ret (results_cell2 rfl _ _ gr tr (bcs (encs [0, 0])).toArray (0, 0) _ rfl htr Try.underlying35 rfl (by rw [List.size_toArray, bcs_len, encs_len]; exact size35)) rfl ⟨rfl, HF_108.out⟩
end Go.Proofs.Ytgdimnbdnepbgaa
/- The curve chapter's examples. No statement is proved here. -/
namespace Go.Proofs.Ytgdimnbdnepbgaa
open Go.RowKit
set_option linter.unusedVariables false
set_option maxRecDepth 40000
set_option linter.unusedSimpArgs false

def oddOne : Nat := 57896044618658097711785492504343953926634992332820282019728792003956564819969

set_option maxHeartbeats 4000000 in
theorem clives_core (bx by' n1 : Nat) (w : World) (C1 : Hid (∀ w, Calls Try.prog 42 #[] w (Gives (vR [bx, by']) w))) (C2 : Hid (∀ w, Calls Try.prog 36 #[vR [bx, by']] w (Gives (.tuple #[vN by', .int .i64 0]) w)))
    (C3 : Hid (∀ w, Calls Try.prog 35 #[vN n1] w (Gives (.tuple #[vR [0, 0], .int .i64 4]) w))) (HN : Hid (vN oddOne = vN n1))
    (H0 : Hid (((enc by').getD 0 0).toNat = 88)) (HB : Hid (∀ i, 1 ≤ i → i < 32 → ((enc by').getD i 0).toNat = 102)) :
    Calls Try.prog 38 #[] w (Gives (.bool true) w) := by
  go_enter Try.func38, Try.ntmps38
  go_wp2_with fail
  refine (C1.out _).mono ?_
  rintro e x1 ⟨rfl, hb⟩
  have HF1 : Hid (Below w.heap.size w x1) := hb
  clear hb
  go_wp2_with fail
  refine (C2.out _).mono ?_
  rintro e x2 ⟨rfl, hb⟩
  have HF2 := Lib.hid (HF1.out.trans (hb.mono HF1.out.size))
  clear hb HF1
  go_wp2_with (first | ((with_reducible show wpList _ _ _ (⟨some 1, .alloc 22, _, _, _, _⟩ :: _) _ _); go_must (refine wpList_alloc_row rfl 22 rfl (.agg (zbs 32)) zero22 ?_; intro a1 h1 z1 g1; have H1 := Lib.hid h1; have Z1 := Lib.hid z1; have G1 := Lib.hid g1; clear h1 z1 g1)) | ((with_reducible show wpList _ _ _ (⟨none, .store 22 (.tmp 1) (.tmp 9), _, _, _, _⟩ :: _) _ _); go_must (refine wpList_store_all rfl 22 (.tmp 1) (.tmp 9) rfl (x2.heap.size) rfl (bcs (enc by')).toArray rfl 22 _ H1.out (by rw [List.size_toArray, bcs_enc_len]; exact size22) (by rw [List.size_toArray, bcs_enc_len]; rfl) (bcs_one _) ?_; intro b5 hh hg hz; have HA : Hid (BAt b5 x2.heap.size (enc by')) := Lib.hid ⟨enc_len _, 22, hh⟩; have HF3 : Hid (Below w.heap.size w b5) := Lib.hid ((HF2.out.grown G1.out HF2.out.size (by simp)).grown hg (by have := HF2.out.size; have := Z1.out; omega) (fun r hr => by injection hr with hr; have := HF2.out.size; omega)); clear hh hg hz H1 Z1 G1 HF2)) | fail)
  generalize x2.heap.size = g at *
  go_loopw [3] (fun i wr => ∃ n : Nat, n ≤ 32 ∧ i = .int .i64 n ∧ 1 ≤ n ∧ BAt wr g (enc by') ∧ Below w.heap.size w wr) (fun i _ => 32 - (intOf i).toNat)
  case atStart => exact ⟨1, by omega, rfl, by omega, HA.out, HF3.out⟩
  case round =>
    obtain ⟨n, hn, rfl, hn1, hp, hq⟩ := hrel
    have HA := Lib.hid hp
    have HF := Lib.hid hq
    clear hp hq HF3
    by_cases hlt : n < 32
    · have hni : (n : Int) < 32 := by omega
      have cn := HA.out.cell n hlt
      rw [HB.out n hn1 hlt] at cn
      go_wp2_with fail
      exact ⟨⟨n + 1, by omega, by go_num, by omega, HA.out, HF.out⟩, by simp [intOf]; omega⟩
    · obtain rfl : n = 32 := by omega
      go_wp2_with (first | ((with_reducible show wpList _ _ _ (⟨_, .build 22 _, _, _, _, _⟩ :: _) _ _); go_must (refine wpList_exec rfl (vN n1) (exec_buildc rfl (by rw [← HN.out]; kernel_rfl)) ?_)) | fail)
      refine (C3.out _).mono ?_
      rintro e x3 ⟨rfl, hb⟩
      have HA2 : Hid (BAt x3 g (enc by')) := Lib.hid (HA.out.keep hb)
      have HF4 := Lib.hid (HF.out.trans (hb.mono HF.out.size))
      clear hb HA HF
      go_wp2_with (first | ((with_reducible show wpList _ _ _ (⟨some 4, .alloc 35, _, _, _, _⟩ :: _) _ _); go_must (refine wpList_alloc_row rfl 35 rfl (.agg (zbs 64)) zero35 ?_; intro a2 h1 z1 g1; have R1 : Hid (RAt a2 x3.heap.size [0, 0]) := Lib.hid (zrow (k := 2) h1); have HA3 := Lib.hid (HA2.out.grown g1 (by simp)); have Z2 := Lib.hid z1; have HF5 := Lib.hid (HF4.out.grown g1 HF4.out.size (by simp)); clear h1 z1 g1)) | ((with_reducible show wpList _ _ _ (⟨none, .store 35 (.tmp 4) (.tmp 22), _, _, _, _⟩ :: _) _ _); go_must (refine wpList_storeP rfl (.tmp 4) (.tmp 22) rfl (x3.heap.size) [0, 0] 0 0 rfl rfl R1.out rfl ?_; intro b6 hr hg hz; have HA4 := Lib.hid (HA3.out.grown hg (by obtain ⟨_, t, ht⟩ := HA2.out; have := (Array.getElem?_eq_some_iff.1 ht).1; simp; omega)); have HF6 : Hid (Below w.heap.size w b6) := Lib.hid (HF5.out.grown hg HF5.out.size (fun r hr => by injection hr with hr; have := HF4.out.size; omega)); have c0 := HA4.out.cell 0 (by omega); rw [H0.out] at c0; clear hr hg hz R1 HA3 Z2 HF5 HA2)) | fail)
      go_ret
      exact ⟨rfl, HF6.out⟩
end Go.Proofs.Ytgdimnbdnepbgaa
