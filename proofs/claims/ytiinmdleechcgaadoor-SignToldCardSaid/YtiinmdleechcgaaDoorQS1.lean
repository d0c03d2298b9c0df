/- Layer 6, a part of the proof: Sa Sb Sc Sd Se. -/
import Derived.Test.YtiinmdleechcgaaDoorQF2
set_option maxRecDepth 8000
namespace Go.Proofs.YtiinmdleechcgaaDoor
namespace Ed
/-- How far a pair of numbers is off the curve. -/
def er (d x y : Int) : Int := y*y - x*x - 1 - d*x*x*y*y
theorem assoc_x (d x1 y1 x2 y2 x3 y3 : Int) : ((x1*y2+x2*y1)*(1-d*x1*x2*y1*y2)*y3+x3*((y1*y2+x1*x2)*(1+d*x1*x2*y1*y2)))*((1+d*x2*x3*y2*y3)*(1-d*x2*x3*y2*y3)+d*(x2*y3+x3*y2)*x1*(y2*y3+x2*x3)*y1) - ((x2*y3+x3*y2)*(1-d*x2*x3*y2*y3)*y1+x1*((y2*y3+x2*x3)*(1+d*x2*x3*y2*y3)))*((1+d*x1*x2*y1*y2)*(1-d*x1*x2*y1*y2)+d*(x1*y2+x2*y1)*x3*(y1*y2+x1*x2)*y3) = (-d*d*x1*x2*x2*x2*x2*y2*y2*y2*x3*x3*y3 - d*d*x1*x2*x2*x2*y2*y2*y2*y2*x3*y3*y3 + d*d*y1*x2*x2*x2*x2*y2*y2*y2*x3*y3*y3 + d*d*y1*x2*x2*x2*y2*y2*y2*y2*x3*x3*y3 - d*x1*x2*x2*x2*x2*y2*x3*x3*y3 - d*x1*x2*x2*x2*y2*y2*x3*x3*x3 - d*x1*x2*x2*x2*y2*y2*x3 + d*x1*x2*x2*y2*y2*y2*y3*y3*y3 - d*x1*x2*x2*y2*y2*y2*y3 + d*x1*x2*y2*y2*y2*y2*x3*y3*y3 + d*y1*x2*x2*x2*x2*y2*x3*y3*y3 + d*y1*x2*x2*x2*y2*y2*y3*y3*y3 - d*y1*x2*x2*x2*y2*y2*y3 - d*y1*x2*x2*y2*y2*y2*x3*x3*x3 - d*y1*x2*x2*y2*y2*y2*x3 - d*y1*x2*y2*y2*y2*y2*x3*x3*y3)*(er d x1 y1) + (d*d*x1*x1*y1*x2*x2*y2*x3*x3*x3*y3*y3 - d*d*x1*x1*y1*x2*y2*y2*x3*x3*y3*y3*y3 - d*d*x1*y1*y1*x2*x2*y2*x3*x3*y3*y3*y3 + d*d*x1*y1*y1*x2*y2*y2*x3*x3*x3*y3*y3 + d*x1*x1*x1*x2*x2*y2*x3*x3*y3 + d*x1*x1*x1*x2*y2*y2*x3*y3*y3 + d*x1*x1*x1*x2*x3*x3*x3*y3*y3 + d*x1*x1*x1*y2*x3*x3*y3*y3*y3 - d*x1*x1*y1*x2*x2*y2*x3*y3*y3 - d*x1*x1*y1*x2*y2*y2*x3*x3*y3 + d*x1*x1*y1*x2*x3*x3*y3*y3*y3 + d*x1*x1*y1*y2*x3*x3*x3*y3*y3 - d*x1*y1*y1*x2*x2*y2*x3*x3*y3 - d*x1*y1*y1*x2*y2*y2*x3*y3*y3 - d*x1*y1*y1*x2*x3*x3*x3*y3*y3 - d*x1*y1*y1*y2*x3*x3*y3*y3*y3 + d*x1*x2*x2*y2*x3*x3*y3 + d*x1*x2*y2*y2*x3*y3*y3 + d*x1*x2*x3*x3*x3*y3*y3 + d*x1*y2*x3*x3*y3*y3*y3 + d*y1*y1*y1*x2*x2*y2*x3*y3*y3 + d*y1*y1*y1*x2*y2*y2*x3*x3*y3 - d*y1*y1*y1*x2*x3*x3*y3*y3*y3 - d*y1*y1*y1*y2*x3*x3*x3*y3*y3 - d*y1*x2*x2*y2*x3*y3*y3 - d*y1*x2*y2*y2*x3*x3*y3 + d*y1*x2*x3*x3*y3*y3*y3 + d*y1*y2*x3*x3*x3*y3*y3 + x1*x1*x1*x2*x3*x3*x3 - x1*x1*x1*x2*x3*y3*y3 + x1*x1*x1*x2*x3 + x1*x1*x1*y2*x3*x3*y3 - x1*x1*x1*y2*y3*y3*y3 + x1*x1*x1*y2*y3 + x1*x1*y1*x2*x3*x3*y3 - x1*x1*y1*x2*y3*y3*y3 + x1*x1*y1*x2*y3 + x1*x1*y1*y2*x3*x3*x3 - x1*x1*y1*y2*x3*y3*y3 + x1*x1*y1*y2*x3 - x1*y1*y1*x2*x3*x3*x3 + x1*y1*y1*x2*x3*y3*y3 - x1*y1*y1*x2*x3 - x1*y1*y1*y2*x3*x3*y3 + x1*y1*y1*y2*y3*y3*y3 - x1*y1*y1*y2*y3 + x1*x2*x3*x3*x3 - x1*x2*x3*y3*y3 + x1*x2*x3 + x1*y2*x3*x3*y3 - x1*y2*y3*y3*y3 + x1*y2*y3 - y1*y1*y1*x2*x3*x3*y3 + y1*y1*y1*x2*y3*y3*y3 - y1*y1*y1*x2*y3 - y1*y1*y1*y2*x3*x3*x3 + y1*y1*y1*y2*x3*y3*y3 - y1*y1*y1*y2*x3 + y1*x2*x3*x3*y3 - y1*x2*y3*y3*y3 + y1*x2*y3 + y1*y2*x3*x3*x3 - y1*y2*x3*y3*y3 + y1*y2*x3)*(er d x2 y2) + (-d*x1*x1*y1*x2*x2*y2*x3 + d*x1*x1*y1*x2*y2*y2*y3 + d*x1*y1*y1*x2*x2*y2*y3 - d*x1*y1*y1*x2*y2*y2*x3 - x1*x1*x1*x2*x2*x2*x3 - x1*x1*x1*x2*x2*y2*y3 + x1*x1*x1*x2*y2*y2*x3 - x1*x1*x1*x2*x3 + x1*x1*x1*y2*y2*y2*y3 - x1*x1*x1*y2*y3 - x1*x1*y1*x2*x2*x2*y3 - x1*x1*y1*x2*x2*y2*x3 + x1*x1*y1*x2*y2*y2*y3 - x1*x1*y1*x2*y3 + x1*x1*y1*y2*y2*y2*x3 - x1*x1*y1*y2*x3 + x1*y1*y1*x2*x2*x2*x3 + x1*y1*y1*x2*x2*y2*y3 - x1*y1*y1*x2*y2*y2*x3 + x1*y1*y1*x2*x3 - x1*y1*y1*y2*y2*y2*y3 + x1*y1*y1*y2*y3 - x1*x2*x2*x2*x3 - x1*x2*x2*y2*y3 + x1*x2*y2*y2*x3 - x1*x2*x3 + x1*y2*y2*y2*y3 - x1*y2*y3 + y1*y1*y1*x2*x2*x2*y3 + y1*y1*y1*x2*x2*y2*x3 - y1*y1*y1*x2*y2*y2*y3 + y1*y1*y1*x2*y3 - y1*y1*y1*y2*y2*y2*x3 + y1*y1*y1*y2*x3 - y1*x2*x2*x2*y3 - y1*x2*x2*y2*x3 + y1*x2*y2*y2*y3 - y1*x2*y3 + y1*y2*y2*y2*x3 - y1*y2*x3)*(er d x3 y3) := by
  unfold er; grind
theorem assoc_y (d x1 y1 x2 y2 x3 y3 : Int) : ((y1*y2+x1*x2)*(1+d*x1*x2*y1*y2)*y3+(x1*y2+x2*y1)*(1-d*x1*x2*y1*y2)*x3)*((1+d*x2*x3*y2*y3)*(1-d*x2*x3*y2*y3)-d*(x2*y3+x3*y2)*x1*(y2*y3+x2*x3)*y1) - ((y2*y3+x2*x3)*(1+d*x2*x3*y2*y3)*y1+(x2*y3+x3*y2)*(1-d*x2*x3*y2*y3)*x1)*((1+d*x1*x2*y1*y2)*(1-d*x1*x2*y1*y2)-d*(x1*y2+x2*y1)*x3*(y1*y2+x1*x2)*y3) = (d*d*x1*x2*x2*x2*x2*y2*y2*y2*x3*y3*y3 + d*d*x1*x2*x2*x2*y2*y2*y2*y2*x3*x3*y3 - d*d*y1*x2*x2*x2*x2*y2*y2*y2*x3*x3*y3 - d*d*y1*x2*x2*x2*y2*y2*y2*y2*x3*y3*y3 + d*x1*x2*x2*x2*x2*y2*x3*y3*y3 + d*x1*x2*x2*x2*y2*y2*y3*y3*y3 - d*x1*x2*x2*x2*y2*y2*y3 - d*x1*x2*x2*y2*y2*y2*x3*x3*x3 - d*x1*x2*x2*y2*y2*y2*x3 - d*x1*x2*y2*y2*y2*y2*x3*x3*y3 - d*y1*x2*x2*x2*x2*y2*x3*x3*y3 - d*y1*x2*x2*x2*y2*y2*x3*x3*x3 - d*y1*x2*x2*x2*y2*y2*x3 + d*y1*x2*x2*y2*y2*y2*y3*y3*y3 - d*y1*x2*x2*y2*y2*y2*y3 + d*y1*x2*y2*y2*y2*y2*x3*y3*y3)*(er d x1 y1) + (d*d*x1*x1*y1*x2*x2*y2*x3*x3*y3*y3*y3 - d*d*x1*x1*y1*x2*y2*y2*x3*x3*x3*y3*y3 - d*d*x1*y1*y1*x2*x2*y2*x3*x3*x3*y3*y3 + d*d*x1*y1*y1*x2*y2*y2*x3*x3*y3*y3*y3 - d*x1*x1*x1*x2*x2*y2*x3*y3*y3 - d*x1*x1*x1*x2*y2*y2*x3*x3*y3 + d*x1*x1*x1*x2*x3*x3*y3*y3*y3 + d*x1*x1*x1*y2*x3*x3*x3*y3*y3 + d*x1*x1*y1*x2*x2*y2*x3*x3*y3 + d*x1*x1*y1*x2*y2*y2*x3*y3*y3 + d*x1*x1*y1*x2*x3*x3*x3*y3*y3 + d*x1*x1*y1*y2*x3*x3*y3*y3*y3 + d*x1*y1*y1*x2*x2*y2*x3*y3*y3 + d*x1*y1*y1*x2*y2*y2*x3*x3*y3 - d*x1*y1*y1*x2*x3*x3*y3*y3*y3 - d*x1*y1*y1*y2*x3*x3*x3*y3*y3 - d*x1*x2*x2*y2*x3*y3*y3 - d*x1*x2*y2*y2*x3*x3*y3 + d*x1*x2*x3*x3*y3*y3*y3 + d*x1*y2*x3*x3*x3*y3*y3 - d*y1*y1*y1*x2*x2*y2*x3*x3*y3 - d*y1*y1*y1*x2*y2*y2*x3*y3*y3 - d*y1*y1*y1*x2*x3*x3*x3*y3*y3 - d*y1*y1*y1*y2*x3*x3*y3*y3*y3 + d*y1*x2*x2*y2*x3*x3*y3 + d*y1*x2*y2*y2*x3*y3*y3 + d*y1*x2*x3*x3*x3*y3*y3 + d*y1*y2*x3*x3*y3*y3*y3 + x1*x1*x1*x2*x3*x3*y3 - x1*x1*x1*x2*y3*y3*y3 + x1*x1*x1*x2*y3 + x1*x1*x1*y2*x3*x3*x3 - x1*x1*x1*y2*x3*y3*y3 + x1*x1*x1*y2*x3 + x1*x1*y1*x2*x3*x3*x3 - x1*x1*y1*x2*x3*y3*y3 + x1*x1*y1*x2*x3 + x1*x1*y1*y2*x3*x3*y3 - x1*x1*y1*y2*y3*y3*y3 + x1*x1*y1*y2*y3 - x1*y1*y1*x2*x3*x3*y3 + x1*y1*y1*x2*y3*y3*y3 - x1*y1*y1*x2*y3 - x1*y1*y1*y2*x3*x3*x3 + x1*y1*y1*y2*x3*y3*y3 - x1*y1*y1*y2*x3 + x1*x2*x3*x3*y3 - x1*x2*y3*y3*y3 + x1*x2*y3 + x1*y2*x3*x3*x3 - x1*y2*x3*y3*y3 + x1*y2*x3 - y1*y1*y1*x2*x3*x3*x3 + y1*y1*y1*x2*x3*y3*y3 - y1*y1*y1*x2*x3 - y1*y1*y1*y2*x3*x3*y3 + y1*y1*y1*y2*y3*y3*y3 - y1*y1*y1*y2*y3 + y1*x2*x3*x3*x3 - y1*x2*x3*y3*y3 + y1*x2*x3 + y1*y2*x3*x3*y3 - y1*y2*y3*y3*y3 + y1*y2*y3)*(er d x2 y2) + (-d*x1*x1*y1*x2*x2*y2*y3 + d*x1*x1*y1*x2*y2*y2*x3 + d*x1*y1*y1*x2*x2*y2*x3 - d*x1*y1*y1*x2*y2*y2*y3 - x1*x1*x1*x2*x2*x2*y3 - x1*x1*x1*x2*x2*y2*x3 + x1*x1*x1*x2*y2*y2*y3 - x1*x1*x1*x2*y3 + x1*x1*x1*y2*y2*y2*x3 - x1*x1*x1*y2*x3 - x1*x1*y1*x2*x2*x2*x3 - x1*x1*y1*x2*x2*y2*y3 + x1*x1*y1*x2*y2*y2*x3 - x1*x1*y1*x2*x3 + x1*x1*y1*y2*y2*y2*y3 - x1*x1*y1*y2*y3 + x1*y1*y1*x2*x2*x2*y3 + x1*y1*y1*x2*x2*y2*x3 - x1*y1*y1*x2*y2*y2*y3 + x1*y1*y1*x2*y3 - x1*y1*y1*y2*y2*y2*x3 + x1*y1*y1*y2*x3 - x1*x2*x2*x2*y3 - x1*x2*x2*y2*x3 + x1*x2*y2*y2*y3 - x1*x2*y3 + x1*y2*y2*y2*x3 - x1*y2*x3 + y1*y1*y1*x2*x2*x2*x3 + y1*y1*y1*x2*x2*y2*y3 - y1*y1*y1*x2*y2*y2*x3 + y1*y1*y1*x2*x3 - y1*y1*y1*y2*y2*y2*y3 + y1*y1*y1*y2*y3 - y1*x2*x2*x2*x3 - y1*x2*x2*y2*y3 + y1*x2*y2*y2*x3 - y1*x2*x3 + y1*y2*y2*y2*y3 - y1*y2*y3)*(er d x3 y3) := by
  unfold er; grind
theorem closed (d x1 y1 x2 y2 : Int) : (y1*y2+x1*x2)*(y1*y2+x1*x2)*((1+d*x1*x2*y1*y2)*(1+d*x1*x2*y1*y2)) - (x1*y2+x2*y1)*(x1*y2+x2*y1)*((1-d*x1*x2*y1*y2)*(1-d*x1*x2*y1*y2)) - (1+d*x1*x2*y1*y2)*(1+d*x1*x2*y1*y2)*((1-d*x1*x2*y1*y2)*(1-d*x1*x2*y1*y2)) - d*((x1*y2+x2*y1)*(x1*y2+x2*y1))*((y1*y2+x1*x2)*(y1*y2+x1*x2)) = (d*d*d*x1*x1*y1*y1*x2*x2*x2*x2*y2*y2*y2*y2 - d*d*x1*x1*x2*x2*x2*x2*y2*y2*y2*y2 + d*d*y1*y1*x2*x2*x2*x2*y2*y2*y2*y2 - d*d*x2*x2*x2*x2*y2*y2*y2*y2 - d*x1*x1*x2*x2*x2*x2*y2*y2 + d*x1*x1*x2*x2*y2*y2*y2*y2 + d*y1*y1*x2*x2*x2*x2*y2*y2 - d*y1*y1*x2*x2*y2*y2*y2*y2 - 2*d*x2*x2*x2*x2*y2*y2*y2*y2 - 2*d*x2*x2*y2*y2 - 2*x2*x2*x2*x2*y2*y2 + x2*x2*x2*x2 + 2*x2*x2*y2*y2*y2*y2 - 4*x2*x2*y2*y2 + y2*y2*y2*y2)*(er d x1 y1) + (d*x1*x1*x1*x1*x2*x2*y2*y2 + 2*d*x1*x1*x2*x2*y2*y2 + d*y1*y1*y1*y1*x2*x2*y2*y2 - 2*d*y1*y1*x2*x2*y2*y2 + d*x2*x2*y2*y2 + 2*x1*x1*x2*x2*y2*y2 - x1*x1*x2*x2 + x1*x1*y2*y2 - 2*y1*y1*x2*x2*y2*y2 + y1*y1*x2*x2 - y1*y1*y2*y2 + 2*x2*x2*y2*y2 - x2*x2 + y2*y2 + 1)*(er d x2 y2) := by
  unfold er; grind
/-- The prime. -/
def q : Int := (Nm.PN : Int)
/-- The same number modulo the prime. -/
def Cg (a b : Int) : Prop := q ∣ a - b
theorem Cg.refl (a : Int) : Cg a a := ⟨0, by grind⟩
theorem Cg.of_eq {a b : Int} (h : a = b) : Cg a b := h ▸ Cg.refl a
theorem Cg.symm {a b : Int} (h : Cg a b) : Cg b a := by
  obtain ⟨c, h⟩ := h; exact ⟨-c, by grind⟩
theorem Cg.trans {a b c : Int} (h : Cg a b) (k : Cg b c) : Cg a c := by
  obtain ⟨u, h⟩ := h; obtain ⟨v, k⟩ := k; exact ⟨u + v, by grind⟩
theorem Cg.add {a b c d : Int} (h : Cg a b) (k : Cg c d) : Cg (a + c) (b + d) := by
  obtain ⟨u, h⟩ := h; obtain ⟨v, k⟩ := k; exact ⟨u + v, by grind⟩
theorem Cg.sub {a b c d : Int} (h : Cg a b) (k : Cg c d) : Cg (a - c) (b - d) := by
  obtain ⟨u, h⟩ := h; obtain ⟨v, k⟩ := k; exact ⟨u - v, by grind⟩
theorem Cg.mul {a b c d : Int} (h : Cg a b) (k : Cg c d) : Cg (a * c) (b * d) := by
  obtain ⟨u, h⟩ := h; obtain ⟨v, k⟩ := k; exact ⟨u * c + b * v, by grind⟩
theorem Cg.neg {a b : Int} (h : Cg a b) : Cg (-a) (-b) := by
  obtain ⟨u, h⟩ := h; exact ⟨-u, by grind⟩
theorem Cg.of_mod {a b : Int} (h : a % q = b % q) : Cg a b := Nm.dvd_of_mod h
theorem Cg.mod {a b : Int} (h : Cg a b) : a % q = b % q := Nm.mod_of_dvd h
theorem Cg.red (a : Int) : Cg (a % q) a := Cg.of_mod (Int.emod_emod_of_dvd a (Int.dvd_refl q))
theorem q_pos : 0 < q := by decide
theorem Cg.eq {a b : Int} (h : Cg a b) (ha : 0 ≤ a ∧ a < q) (hb : 0 ≤ b ∧ b < q) : a = b := by
  have := h.mod
  rwa [Int.emod_eq_of_lt ha.1 ha.2, Int.emod_eq_of_lt hb.1 hb.2] at this
theorem red_lt (a : Int) : 0 ≤ a % q ∧ a % q < q := ⟨Int.emod_nonneg _ (by have := q_pos; omega), Int.emod_lt_of_pos _ q_pos⟩
/-- No multiple of the prime. -/
def Nz (a : Int) : Prop := ¬ Cg a 0
theorem Nz.mul {a b : Int} (h : Nz a) (k : Nz b) : Nz (a * b) := by
  intro hc
  unfold Cg at hc
  rw [Int.sub_zero] at hc
  rcases Nm.prime_int hc with h1 | h1
  · exact h (by unfold Cg; rw [Int.sub_zero]; exact h1)
  · exact k (by unfold Cg; rw [Int.sub_zero]; exact h1)
theorem Nz.of_mul {a b : Int} (h : Nz (a * b)) : Nz a ∧ Nz b := by
  constructor
  · intro hc; exact h ((hc.mul (Cg.refl b)).trans (Cg.of_eq (by grind)))
  · intro hc; exact h (((Cg.refl a).mul hc).trans (Cg.of_eq (by grind)))
theorem Nz.cg {a b : Int} (h : Nz a) (k : Cg a b) : Nz b := fun hc => h (k.trans hc)
/-- A factor that is no multiple of the prime is taken away. -/
theorem Cg.cancel {a b c : Int} (h : Cg (a * c) (b * c)) (hc : Nz c) : Cg a b := by
  have h1 : (Nm.PN : Int) ∣ (a - b) * c := by
    unfold Cg at h
    rw [show (a - b) * c = a * c - b * c by grind]; exact h
  rcases Nm.prime_int h1 with h2 | h2
  · exact h2
  · exact absurd (show Cg c 0 by unfold Cg; rw [Int.sub_zero]; exact h2) hc
theorem one_nz : Nz 1 := by
  intro h
  have := h.mod
  revert this
  decide
/-- What times a number is 1. -/
def inv (a : Int) : Int := (a % q) ^ (Nm.PN - 2) % q
theorem inv_spec {a : Int} (h : Nz a) : Cg (a * inv a) 1 := by
  have h0 := (red_lt a).1
  have hm : a % q % (Nm.PN : Int) ≠ 0 := by
    intro hc
    rw [show a % q % (Nm.PN : Int) = a % q from Int.emod_emod_of_dvd a (Int.dvd_refl q)] at hc
    exact h (Cg.of_mod (by rw [hc]; decide))
  have h1 := Nm.inv_one h0 hm
  have h2 : Cg ((a % q) * (a % q) ^ (Nm.PN - 2)) 1 := Cg.of_mod (by
    show _ % (Nm.PN : Int) = _
    rw [h1]; decide)
  exact ((Cg.red a).symm.mul (Cg.red _)).trans h2
/-- The number of the curve. -/
def ddN : Nat := 37095705934669439343138083508754565189542113879843219016388785533085940283555
def dd : Int := (ddN : Int)
theorem dd_nz : Nz dd := by
  intro h
  have := h.mod
  revert this
  decide
theorem dd_half : Nm.pm Nm.PN 255 ddN ((Nm.PN - 1) / 2) = Nm.PN - 1 := by decide +kernel
theorem dd_pow : dd ^ ((Nm.PN - 1) / 2) % (Nm.PN : Int) = ((Nm.PN - 1 : Nat) : Int) := by
  have h := dd_half
  rw [Nm.pm_eq _ _ _ _ (by decide +kernel)] at h
  unfold dd
  rw [← Int.natCast_pow, Nm.int_mod, h]
theorem no_square {u v : Int} (h : Cg (u * u) (dd * (v * v))) : Cg v 0 := by
  apply Classical.byContradiction
  intro hv
  have hv' : Nz v := hv
  have hu : Nz u := by
    intro hc
    have : Nz (dd * (v * v)) := dd_nz.mul (hv'.mul hv')
    exact this (h.symm.trans ((hc.mul (Cg.refl u)).trans (Cg.of_eq (by grind))))
  have hn : ∀ a, Nz a → a % q % (Nm.PN : Int) ≠ 0 := by
    intro a ha hc
    rw [show a % q % (Nm.PN : Int) = a % q from Int.emod_emod_of_dvd a (Int.dvd_refl q)] at hc
    exact ha (Cg.of_mod (by rw [hc]; decide))
  have e1 := Nm.fermat_half (red_lt u).1 (hn u hu)
  have e2 := Nm.fermat_half (red_lt v).1 (hn v hv')
  have e3 : (u % q) * (u % q) % (Nm.PN : Int) = dd * ((v % q) * (v % q)) % (Nm.PN : Int) :=
    (((Cg.red u).mul (Cg.red u)).trans (h.trans ((Cg.refl dd).mul ((Cg.red v).mul (Cg.red v))).symm)).mod
  have e4 := Nm.pow_mod_congr e3 ((Nm.PN - 1) / 2)
  rw [e1, Int.mul_pow, Int.mul_emod, e2, dd_pow] at e4
  revert e4
  decide
/-- A root of -1. -/
def ii : Int := 19681161376707505956807079304988542015446066515923890162744021073123829784752
theorem ii_sq : Cg (ii * ii) (-1) := Cg.of_mod (by decide)
theorem two_nz : Nz 2 := by
  intro h
  have := h.mod
  revert this
  decide
/-- On the curve. -/
def On (x y : Int) : Prop := Cg (er dd x y) 0
/-- The divisors of a sum are none of them 0. -/
theorem whole {x1 y1 x2 y2 : Int} (h1 : On x1 y1) (h2 : On x2 y2) {k : Int} (hk : k = dd*x1*x2*y1*y2) (hs : Cg (k * k) 1) : False := by
  have hkn : Nz k := by
    intro hc
    exact one_nz (hs.symm.trans ((hc.mul (Cg.refl k)).trans (Cg.of_eq (by grind))))
  rw [hk] at hkn
  obtain ⟨hk1, ny2⟩ := hkn.of_mul
  obtain ⟨hk1, ny1⟩ := hk1.of_mul
  obtain ⟨hk1, nx2⟩ := hk1.of_mul
  obtain ⟨_, nx1⟩ := hk1.of_mul
  have key : ∀ s : Int, s = 1 ∨ s = -1 → Cg ((ii*x1 + s*k*y1)*(ii*x1 + s*k*y1)) (dd*((x1*y1*(ii*x2 + s*y2))*(x1*y1*(ii*x2 + s*y2)))) := by
    intro s hs1
    have hss : s * s = 1 := by rcases hs1 with rfl | rfl <;> rfl
    obtain ⟨a, ha⟩ := ii_sq
    obtain ⟨b, hb⟩ := hs
    obtain ⟨e, he⟩ := h1
    obtain ⟨f, hf⟩ := h2
    unfold er at he hf
    have h3 : dd*x1*x1*y1*y1*(y2*y2-x2*x2) = dd*x1*x1*y1*y1 + k*k + dd*x1*x1*y1*y1*(q*f) := by subst hk; grind
    have h4 : y1*y1 - x1*x1 = 1 + dd*x1*x1*y1*y1 + q*e := by grind
    have h5 : (ii*x1 + s*k*y1)*(ii*x1 + s*k*y1) = (ii*ii)*x1*x1 + (s*s)*(k*k)*y1*y1 + 2*s*ii*x1*y1*k := by grind
    have h6 : dd*((x1*y1*(ii*x2 + s*y2))*(x1*y1*(ii*x2 + s*y2))) = dd*x1*x1*y1*y1*((ii*ii)*x2*x2 + (s*s)*y2*y2) + 2*s*ii*x1*y1*k := by subst hk; grind
    refine ⟨a*x1*x1 + b*y1*y1 + e - b - dd*x1*x1*y1*y1*f - dd*x1*x1*y1*y1*a*x2*x2, ?_⟩
    rw [h5, h6, hss]
    have ha' : ii*ii = q*a - 1 := by grind
    have hb' : k*k = q*b + 1 := by grind
    rw [hb'] at h3 ⊢
    rw [ha']
    grind
  have n1 := no_square (key 1 (Or.inl rfl))
  have n2 := no_square (key (-1) (Or.inr rfl))
  have z1 : Cg (ii*x2 + 1*y2) 0 := Classical.byContradiction fun hc => (nx1.mul ny1 |>.mul hc) n1
  have z2 : Cg (ii*x2 + (-1)*y2) 0 := Classical.byContradiction fun hc => (nx1.mul ny1 |>.mul hc) n2
  exact (two_nz.mul ny2) ((Cg.of_eq (show (2*y2 : Int) = (ii*x2 + 1*y2) - (ii*x2 + (-1)*y2) by grind)).trans ((z1.sub z2).trans (Cg.of_eq (by grind))))
theorem plus_nz {x1 y1 x2 y2 : Int} (h1 : On x1 y1) (h2 : On x2 y2) : Nz (1 + dd*x1*x2*y1*y2) := by
  intro hc
  obtain ⟨c, hc⟩ := hc
  exact whole h1 h2 rfl ⟨q*c*c - 2*c, by
    generalize dd*x1*x2*y1*y2 = k at hc ⊢
    rw [show k = q * c - 1 by grind]
    grind⟩
theorem minus_nz {x1 y1 x2 y2 : Int} (h1 : On x1 y1) (h2 : On x2 y2) : Nz (1 - dd*x1*x2*y1*y2) := by
  intro hc
  obtain ⟨c, hc⟩ := hc
  exact whole h1 h2 rfl ⟨q*c*c - 2*c, by
    generalize dd*x1*x2*y1*y2 = k at hc ⊢
    rw [show k = 1 - q * c by grind]
    grind⟩
end Ed
end Go.Proofs.YtiinmdleechcgaaDoor
set_option maxRecDepth 8000
namespace Go.Proofs.YtiinmdleechcgaaDoor
namespace Ed
/-- From a sum's divisor through another's. -/
theorem lift_x {L u v x y A B X Y d : Int} (h : Cg (L*(1 + d*u*x*v*y)) (u*y + x*v)) (hx : Cg (u*A) X) (hy : Cg (v*B) Y) :
    Cg (L*(A*B + d*X*x*Y*y)) (X*B*y + x*(Y*A)) := by
  obtain ⟨c, hc⟩ := h
  obtain ⟨a, ha⟩ := hx
  obtain ⟨b, hb⟩ := hy
  obtain rfl : X = u*A - q*a := by grind
  obtain rfl : Y = v*B - q*b := by grind
  exact ⟨A*B*c + L*d*x*y*(q*a*b - a*v*B - b*u*A) + a*B*y + x*b*A, by grind⟩
theorem lift_y {L u v x y A B X Y d : Int} (h : Cg (L*(1 - d*u*x*v*y)) (v*y + u*x)) (hx : Cg (u*A) X) (hy : Cg (v*B) Y) :
    Cg (L*(A*B - d*X*x*Y*y)) (Y*A*y + X*B*x) := by
  obtain ⟨c, hc⟩ := h
  obtain ⟨a, ha⟩ := hx
  obtain ⟨b, hb⟩ := hy
  obtain rfl : X = u*A - q*a := by grind
  obtain rfl : Y = v*B - q*b := by grind
  exact ⟨A*B*c - L*d*x*y*(q*a*b - a*v*B - b*u*A) + b*A*y + x*a*B, by grind⟩
theorem lift_n {u v x y A B X Y d s : Int} (hx : Cg (u*A) X) (hy : Cg (v*B) Y) : Cg ((A*B)*(1 + s*(d*u*x*v*y))) (A*B + s*(d*X*x*Y*y)) := by
  obtain ⟨a, ha⟩ := hx
  obtain ⟨b, hb⟩ := hy
  obtain rfl : X = u*A - q*a := by grind
  obtain rfl : Y = v*B - q*b := by grind
  exact ⟨s*d*x*y*(u*A*b + a*v*B - q*a*b), by grind⟩
theorem cross {L R a b c e : Int} (hl : Cg (L*a) b) (hr : Cg (R*c) e) (ha : Nz a) (hc : Nz c) (h : Cg (b*c - e*a) 0) : Cg L R := by
  have h1 : Cg (b*c) (e*a) := (Cg.of_eq (show b*c = (b*c - e*a) + e*a by grind)).trans ((h.add (Cg.refl _)).trans (Cg.of_eq (by grind)))
  refine Cg.cancel (c := a*c) ?_ (ha.mul hc)
  refine (Cg.of_eq (show L*(a*c) = (L*a)*c by grind)).trans ((hl.mul (Cg.refl c)).trans (h1.trans ?_))
  exact (hr.symm.mul (Cg.refl a)).trans (Cg.of_eq (by grind))
theorem three {a b c u v w : Int} (h1 : Cg u 0) (h2 : Cg v 0) (h3 : Cg w 0) : Cg (a*u + b*v + c*w) 0 :=
  ((((Cg.refl a).mul h1).add ((Cg.refl b).mul h2)).add ((Cg.refl c).mul h3)).trans (Cg.of_eq (by grind))
theorem less_one (a t : Int) : a + (-1)*t = a - t := by grind
/-- A point, its numbers the least. -/
structure Pt where
  x : Int
  y : Int
structure Pt.Good (P : Pt) : Prop where
  x : 0 ≤ P.x ∧ P.x < q
  y : 0 ≤ P.y ∧ P.y < q
  on : On P.x P.y
theorem Pt.ext' {P Q : Pt} (hx : P.x = Q.x) (hy : P.y = Q.y) : P = Q := by
  cases P; cases Q; cases hx; cases hy; rfl
theorem Pt.Good.eq {P Q : Pt} (hP : P.Good) (hQ : Q.Good) (hx : Cg P.x Q.x) (hy : Cg P.y Q.y) : P = Q := Pt.ext' (hx.eq hP.x hQ.x) (hy.eq hP.y hQ.y)
/-- What the divisors of a sum are moved by. -/
def kk (P Q : Pt) : Int := dd*P.x*Q.x*P.y*Q.y
def add (P Q : Pt) : Pt := ⟨(P.x*Q.y + Q.x*P.y) * inv (1 + kk P Q) % q, (P.y*Q.y + P.x*Q.x) * inv (1 - kk P Q) % q⟩
/-- The point that changes nothing. -/
def O : Pt := ⟨0, 1⟩
def neg (P : Pt) : Pt := ⟨-P.x % q, P.y⟩
theorem add_x {P Q : Pt} (hP : P.Good) (hQ : Q.Good) : Cg ((add P Q).x * (1 + kk P Q)) (P.x*Q.y + Q.x*P.y) := by
  have hn : Nz (1 + kk P Q) := plus_nz hP.on hQ.on
  refine ((Cg.red _).mul (Cg.refl _)).trans ?_
  exact (Cg.of_eq (show _ = (P.x*Q.y + Q.x*P.y) * ((1 + kk P Q) * inv (1 + kk P Q)) by grind)).trans (((Cg.refl _).mul (inv_spec hn)).trans (Cg.of_eq (by grind)))
theorem add_y {P Q : Pt} (hP : P.Good) (hQ : Q.Good) : Cg ((add P Q).y * (1 - kk P Q)) (P.y*Q.y + P.x*Q.x) := by
  have hn : Nz (1 - kk P Q) := minus_nz hP.on hQ.on
  refine ((Cg.red _).mul (Cg.refl _)).trans ?_
  exact (Cg.of_eq (show _ = (P.y*Q.y + P.x*Q.x) * ((1 - kk P Q) * inv (1 - kk P Q)) by grind)).trans (((Cg.refl _).mul (inv_spec hn)).trans (Cg.of_eq (by grind)))
theorem add_on {P Q : Pt} (hP : P.Good) (hQ : Q.Good) : On (add P Q).x (add P Q).y := by
  have hx := add_x hP hQ
  have hy := add_y hP hQ
  have n1 : Nz (1 + kk P Q) := plus_nz hP.on hQ.on
  have n2 : Nz (1 - kk P Q) := minus_nz hP.on hQ.on
  have e1 := hP.on
  have e2 := hQ.on
  unfold On at e1 e2 ⊢
  generalize (add P Q).x = u at *
  generalize (add P Q).y = v at *
  have hc := closed dd P.x P.y Q.x Q.y
  refine Cg.cancel (c := ((1 + kk P Q)*(1 - kk P Q))*((1 + kk P Q)*(1 - kk P Q))) ?_ ((n1.mul n2).mul (n1.mul n2))
  have h1 : Cg (er dd u v * (((1 + kk P Q)*(1 - kk P Q))*((1 + kk P Q)*(1 - kk P Q))))
      ((P.y*Q.y + P.x*Q.x)*(P.y*Q.y + P.x*Q.x)*((1 + kk P Q)*(1 + kk P Q)) - (P.x*Q.y + Q.x*P.y)*(P.x*Q.y + Q.x*P.y)*((1 - kk P Q)*(1 - kk P Q)) - (1 + kk P Q)*(1 + kk P Q)*((1 - kk P Q)*(1 - kk P Q)) - dd*((P.x*Q.y + Q.x*P.y)*(P.x*Q.y + Q.x*P.y))*((P.y*Q.y + P.x*Q.x)*(P.y*Q.y + P.x*Q.x))) := by
    refine (Cg.of_eq (show _ = (v*(1 - kk P Q))*(v*(1 - kk P Q))*((1 + kk P Q)*(1 + kk P Q)) - (u*(1 + kk P Q))*(u*(1 + kk P Q))*((1 - kk P Q)*(1 - kk P Q)) - (1 + kk P Q)*(1 + kk P Q)*((1 - kk P Q)*(1 - kk P Q)) - dd*((u*(1 + kk P Q))*(u*(1 + kk P Q)))*((v*(1 - kk P Q))*(v*(1 - kk P Q))) by unfold er; generalize kk P Q = k; grind)).trans ?_
    exact ((((hy.mul hy).mul (Cg.refl _)).sub ((hx.mul hx).mul (Cg.refl _))).sub (Cg.refl _)).sub (((Cg.refl _).mul (hx.mul hx)).mul (hy.mul hy))
  refine h1.trans ?_
  refine (Cg.of_eq hc).trans ?_
  exact (((Cg.refl _).mul e1).add ((Cg.refl _).mul e2)).trans (Cg.of_eq (by grind))
theorem add_good {P Q : Pt} (hP : P.Good) (hQ : Q.Good) : (add P Q).Good := ⟨red_lt _, red_lt _, add_on hP hQ⟩
theorem O_good : O.Good := ⟨⟨by decide, by decide⟩, ⟨by decide, by decide⟩, Cg.of_eq (by show er dd 0 1 = 0; unfold er; grind)⟩
theorem neg_good {P : Pt} (hP : P.Good) : (neg P).Good := by
  refine ⟨red_lt _, hP.y, ?_⟩
  have h := Cg.red (-P.x)
  have e := hP.on
  unfold On er at e ⊢
  show Cg (P.y*P.y - (-P.x % q)*(-P.x % q) - 1 - dd*(-P.x % q)*(-P.x % q)*P.y*P.y) 0
  refine ((((Cg.refl _).sub (h.mul h)).sub (Cg.refl 1)).sub (((((Cg.refl dd).mul h).mul h).mul (Cg.refl _)).mul (Cg.refl _))).trans ?_
  exact (Cg.of_eq (by grind)).trans e
theorem add_comm (P Q : Pt) : add P Q = add Q P := by
  unfold add kk
  rw [show P.x*Q.y + Q.x*P.y = Q.x*P.y + P.x*Q.y by grind, show dd*P.x*Q.x*P.y*Q.y = dd*Q.x*P.x*Q.y*P.y by grind, show P.y*Q.y + P.x*Q.x = Q.y*P.y + Q.x*P.x by grind]
/-- What a sum is, told by its two equations. -/
theorem add_by {P Q R : Pt} (hP : P.Good) (hQ : Q.Good) (hR : (0 ≤ R.x ∧ R.x < q) ∧ 0 ≤ R.y ∧ R.y < q) (hx : Cg (R.x * (1 + kk P Q)) (P.x*Q.y + Q.x*P.y)) (hy : Cg (R.y * (1 - kk P Q)) (P.y*Q.y + P.x*Q.x)) : add P Q = R :=
  Pt.ext' (Cg.eq (((add_x hP hQ).trans hx.symm).cancel (plus_nz hP.on hQ.on)) (red_lt _) hR.1) (Cg.eq (((add_y hP hQ).trans hy.symm).cancel (minus_nz hP.on hQ.on)) (red_lt _) hR.2)
theorem add_O {P : Pt} (hP : P.Good) : add P O = P := by
  refine add_by hP O_good ⟨hP.x, hP.y⟩ (Cg.of_eq ?_) (Cg.of_eq ?_)
  · show P.x * (1 + dd*P.x*0*P.y*1) = P.x*1 + 0*P.y; grind
  · show P.y * (1 - dd*P.x*0*P.y*1) = P.y*1 + P.x*0; grind
theorem O_add {P : Pt} (hP : P.Good) : add O P = P := by rw [add_comm, add_O hP]
theorem add_neg {P : Pt} (hP : P.Good) : add P (neg P) = O := by
  have h := Cg.red (-P.x)
  have e := hP.on
  unfold On er at e
  refine add_by hP (neg_good hP) ⟨O_good.x, O_good.y⟩ ?_ ?_
  · show Cg (0 * (1 + dd*P.x*(-P.x % q)*P.y*P.y)) (P.x*P.y + (-P.x % q)*P.y)
    exact (Cg.of_eq (show _ = P.x*P.y + (-P.x)*P.y by grind)).trans ((Cg.refl _).add (h.symm.mul (Cg.refl _)))
  · show Cg (1 * (1 - dd*P.x*(-P.x % q)*P.y*P.y)) (P.y*P.y + P.x*(-P.x % q))
    refine ((Cg.refl 1).mul ((Cg.refl 1).sub (((((Cg.refl dd).mul (Cg.refl _)).mul h).mul (Cg.refl _)).mul (Cg.refl _)))).trans (Cg.symm ?_)
    refine ((Cg.refl _).add ((Cg.refl _).mul h)).trans ?_
    refine (Cg.of_eq (show _ = (P.y*P.y - P.x*P.x - 1 - dd*P.x*P.x*P.y*P.y) + (1 * (1 - dd*P.x*(-P.x)*P.y*P.y)) by grind)).trans ?_
    exact (e.add (Cg.refl _)).trans (Cg.of_eq (by grind))
theorem add_assoc {P Q R : Pt} (hP : P.Good) (hQ : Q.Good) (hR : R.Good) : add (add P Q) R = add P (add Q R) := by
  have hU := add_good hP hQ
  have hV := add_good hQ hR
  have ux := add_x hP hQ
  have uy := add_y hP hQ
  have vx := add_x hQ hR
  have vy := add_y hQ hR
  have lx := add_x hU hR
  have ly := add_y hU hR
  have rx := add_x hP hV
  have ry := add_y hP hV
  have nA : Nz (1 + kk P Q) := plus_nz hP.on hQ.on
  have nB : Nz (1 - kk P Q) := minus_nz hP.on hQ.on
  have nC : Nz (1 + kk Q R) := plus_nz hQ.on hR.on
  have nD : Nz (1 - kk Q R) := minus_nz hQ.on hR.on
  have nL : Nz (1 + 1 * kk (add P Q) R) := by rw [Int.one_mul]; exact plus_nz hU.on hR.on
  have nl : Nz (1 + (-1) * kk (add P Q) R) := by rw [show 1 + (-1) * kk (add P Q) R = 1 - kk (add P Q) R by grind]; exact minus_nz hU.on hR.on
  have nR : Nz (1 + 1 * kk P (add Q R)) := by rw [Int.one_mul]; exact plus_nz hP.on hV.on
  have nr : Nz (1 + (-1) * kk P (add Q R)) := by rw [show 1 + (-1) * kk P (add Q R) = 1 - kk P (add Q R) by grind]; exact minus_nz hP.on hV.on
  have gl := add_good hU hR
  have gr := add_good hP hV
  rw [show kk P (add Q R) = dd*(add Q R).x*P.x*(add Q R).y*P.y by unfold kk; grind] at rx ry nR nr
  rw [show P.x*(add Q R).y + (add Q R).x*P.y = (add Q R).x*P.y + P.x*(add Q R).y by grind] at rx
  rw [show P.y*(add Q R).y + P.x*(add Q R).x = (add Q R).y*P.y + (add Q R).x*P.x by grind] at ry
  have l1 := lift_x lx ux uy
  have l2 := lift_y ly ux uy
  have r1 := lift_x rx vx vy
  have r2 := lift_y ry vx vy
  have m1 := (nA.mul nB).mul nL |>.cg (lift_n ux uy)
  have m2 := (nA.mul nB).mul nl |>.cg (lift_n ux uy)
  have m3 := (nC.mul nD).mul nR |>.cg (lift_n vx vy)
  have m4 := (nC.mul nD).mul nr |>.cg (lift_n vx vy)
  have ax := assoc_x dd P.x P.y Q.x Q.y R.x R.y
  have ay := assoc_y dd P.x P.y Q.x Q.y R.x R.y
  have e1 := hP.on
  have e2 := hQ.on
  have e3 := hR.on
  unfold On at e1 e2 e3
  rw [Int.one_mul] at m1 m3
  rw [less_one] at m2 m4
  refine gl.eq gr (cross l1 r1 m1 m3 ?_) (cross l2 r2 m2 m4 ?_)
  · exact (Cg.of_eq ax).trans (three e1 e2 e3)
  · exact (Cg.of_eq ay).trans (three e1 e2 e3)
/-- A point so many times. -/
def mul : Nat → Pt → Pt
  | 0, _ => O
  | n + 1, P => add (mul n P) P
theorem mul_good {P : Pt} (hP : P.Good) : ∀ n, (mul n P).Good
  | 0 => O_good
  | n + 1 => add_good (mul_good hP n) hP
theorem mul_add {P : Pt} (hP : P.Good) (m : Nat) : ∀ n, mul (m + n) P = add (mul m P) (mul n P)
  | 0 => (add_O (mul_good hP m)).symm
  | n + 1 => by
    show add (mul (m + n) P) P = add (mul m P) (add (mul n P) P)
    rw [mul_add hP m n, add_assoc (mul_good hP m) (mul_good hP n) hP]
theorem mul_mul {P : Pt} (hP : P.Good) (m : Nat) : ∀ n, mul (m * n) P = mul n (mul m P)
  | 0 => rfl
  | n + 1 => by
    rw [Nat.mul_succ, mul_add hP, mul_mul hP m n]; rfl
theorem mul_O : ∀ n, mul n O = O
  | 0 => rfl
  | n + 1 => by
    show add (mul n O) O = O
    rw [mul_O n, add_O O_good]
/-- By a point's order, multiples go by what is left. -/
theorem mul_mod {P : Pt} (hP : P.Good) {n : Nat} (hn : mul n P = O) (k : Nat) : mul (k % n) P = mul k P := by
  have h : mul k P = add (mul (n * (k / n)) P) (mul (k % n) P) := by rw [← mul_add hP, Nat.div_add_mod]
  rw [h, mul_mul hP, hn, mul_O, O_add (mul_good hP _)]
/-- Doubling and adding, as the walk goes: the lowest bit first. -/
def run : Nat → Nat → Pt → Pt → Pt
  | 0, _, out, _ => out
  | f + 1, n, out, P => run f (n / 2) (if n % 2 = 1 then add out P else out) (add P P)
theorem run_eq : ∀ (f n : Nat) {out P : Pt}, out.Good → P.Good → n < 2 ^ f → run f n out P = add out (mul n P)
  | 0, n, out, P, ho, _, hn => by
    obtain rfl : n = 0 := by simpa using hn
    exact (add_O ho).symm
  | f + 1, n, out, P, ho, hP, hn => by
    have h2 : n / 2 < 2 ^ f := by rw [Nat.pow_succ] at hn; omega
    have hd : mul (n / 2) (add P P) = mul (2 * (n / 2)) P := by
      rw [mul_mul hP 2]; show _ = mul (n / 2) (add (add O P) P); rw [O_add hP]
    unfold run
    by_cases h : n % 2 = 1
    · rw [if_pos h, run_eq f (n / 2) (add_good ho hP) (add_good hP hP) h2, hd, add_assoc ho hP (mul_good hP _)]
      congr 1
      rw [add_comm]
      show mul (2 * (n / 2) + 1) P = _
      rw [show 2 * (n / 2) + 1 = n by omega]
    · rw [if_neg h, run_eq f (n / 2) ho (add_good hP hP) h2, hd, show 2 * (n / 2) = n by omega]
end Ed
end Go.Proofs.YtiinmdleechcgaaDoor
set_option maxRecDepth 8000
namespace Go.Proofs.YtiinmdleechcgaaDoor
namespace Ed
/-- Four numbers that stand for a point. -/
structure Rep (X Y Z T : Int) (P : Pt) : Prop where
  z : Nz Z
  x : Cg X (P.x*Z)
  y : Cg Y (P.y*Z)
  t : Cg T (P.x*P.y*Z)
def upper : Int := 121665
def lower : Int := 121666
theorem lower_nz : Nz lower := by
  intro h
  have := h.mod
  revert this
  decide
theorem dd_lower : Cg (lower * dd) (-upper) := Cg.of_mod (by decide)
theorem Rep.of_eqs {X1 Y1 Z1 T1 X2 Y2 Z2 T2 xo yo xu yu X Y Z T : Int} {P Q : Pt} (hP : P.Good) (hQ : Q.Good) (h1 : Rep X1 Y1 Z1 T1 P) (h2 : Rep X2 Y2 Z2 T2 Q)
    (hxo : Cg xo (lower*(X1*Y2 + Y1*X2))) (hyo : Cg yo (lower*(Y1*Y2 + X1*X2))) (hxu : Cg xu (lower*(Z1*Z2) - upper*(T1*T2))) (hyu : Cg yu (lower*(Z1*Z2) + upper*(T1*T2)))
    (hX : Cg X (xo*yu)) (hY : Cg Y (yo*xu)) (hZ : Cg Z (xu*yu)) (hT : Cg T (xo*yo)) : Rep X Y Z T (add P Q) := by
  have ax := add_x hP hQ
  have ay := add_y hP hQ
  have n1 : Nz (1 + kk P Q) := plus_nz hP.on hQ.on
  have n2 : Nz (1 - kk P Q) := minus_nz hP.on hQ.on
  have tt : Cg (upper*(T1*T2)) (-(lower*(kk P Q)*(Z1*Z2))) := by
    refine ((Cg.refl _).mul (h1.t.mul h2.t)).trans ?_
    refine (Cg.of_eq (show _ = -((-upper)*(P.x*P.y*Z1*(Q.x*Q.y*Z2))) by grind)).trans ?_
    refine (Cg.neg (dd_lower.symm.mul (Cg.refl _))).trans (Cg.of_eq ?_)
    unfold kk; grind
  have xu' : Cg xu (lower*(Z1*Z2)*(1 + kk P Q)) := hxu.trans (((Cg.refl _).sub tt).trans (Cg.of_eq (by grind)))
  have yu' : Cg yu (lower*(Z1*Z2)*(1 - kk P Q)) := hyu.trans (((Cg.refl _).add tt).trans (Cg.of_eq (by grind)))
  have xo' : Cg xo ((add P Q).x * xu) := by
    refine hxo.trans (((Cg.refl _).mul ((h1.x.mul h2.y).add (h1.y.mul h2.x))).trans ?_)
    refine (Cg.of_eq (show _ = lower*(Z1*Z2)*(P.x*Q.y + Q.x*P.y) by grind)).trans ?_
    refine ((Cg.refl _).mul ax.symm).trans ((Cg.of_eq ?_).trans ((Cg.refl _).mul xu'.symm))
    grind
  have yo' : Cg yo ((add P Q).y * yu) := by
    refine hyo.trans (((Cg.refl _).mul ((h1.y.mul h2.y).add (h1.x.mul h2.x))).trans ?_)
    refine (Cg.of_eq (show _ = lower*(Z1*Z2)*(P.y*Q.y + P.x*Q.x) by grind)).trans ?_
    refine ((Cg.refl _).mul ay.symm).trans ((Cg.of_eq ?_).trans ((Cg.refl _).mul yu'.symm))
    grind
  have nz : Nz Z := by
    have m1 : Nz (lower*(Z1*Z2)) := lower_nz.mul (h1.z.mul h2.z)
    exact (((m1.mul n1).cg xu'.symm).mul ((m1.mul n2).cg yu'.symm)).cg hZ.symm
  refine ⟨nz, ?_, ?_, ?_⟩
  · exact hX.trans ((xo'.mul (Cg.refl yu)).trans ((Cg.of_eq (by grind)).trans ((Cg.refl _).mul hZ.symm)))
  · exact hY.trans ((yo'.mul (Cg.refl xu)).trans ((Cg.of_eq (by grind)).trans ((Cg.refl _).mul hZ.symm)))
  · exact hT.trans ((xo'.mul yo').trans ((Cg.of_eq (by grind)).trans ((Cg.refl _).mul hZ.symm)))
theorem Rep.origin : Rep 0 1 1 0 O := ⟨one_nz, Cg.of_eq (by show (0:Int) = 0*1; rfl), Cg.of_eq (by show (1:Int) = 1*1; rfl), Cg.of_eq (by show (0:Int) = 0*1*1; rfl)⟩
theorem Rep.flat (P : Pt) : Rep P.x P.y 1 (P.x*P.y) P := ⟨one_nz, Cg.of_eq (by grind), Cg.of_eq (by grind), Cg.of_eq (by grind)⟩
theorem Rep.cg {X Y Z T X' Y' Z' T' : Int} {P : Pt} (h : Rep X Y Z T P) (hx : Cg X' X) (hy : Cg Y' Y) (hz : Cg Z' Z) (ht : Cg T' T) : Rep X' Y' Z' T' P :=
  ⟨h.z.cg hz.symm, hx.trans (h.x.trans ((Cg.refl _).mul hz.symm)), hy.trans (h.y.trans ((Cg.refl _).mul hz.symm)), ht.trans (h.t.trans ((Cg.refl _).mul hz.symm))⟩
/-- Reckoned: doubling and adding with fractions. -/
def rk (m : Nat) : Nat → Nat → Nat → Nat → Nat → Nat → Nat → Nat → Nat → Nat → (Nat → Nat → Nat → Bool) → Bool
  | 0, _, X, Y, Z, _, _, _, _, _, k => k X Y Z
  | f + 1, n, X, Y, Z, T, U, V, W, S, k =>
    let a := 121666*(U*V + V*U)%m
    let b := 121666*(V*V + U*U)%m
    let c := (121666*(W*W) + (m - 121665)*(S*S))%m
    let e := (121666*(W*W) + 121665*(S*S))%m
    bif n % 2 == 1 then
      let a' := 121666*(X*V + Y*U)%m
      let b' := 121666*(Y*V + X*U)%m
      let c' := (121666*(Z*W) + (m - 121665)*(T*S))%m
      let e' := (121666*(Z*W) + 121665*(T*S))%m
      rk m f (n / 2) (a'*e'%m) (b'*c'%m) (c'*e'%m) (a'*b'%m) (a*e%m) (b*c%m) (c*e%m) (a*b%m) k
    else rk m f (n / 2) X Y Z T (a*e%m) (b*c%m) (c*e%m) (a*b%m) k
def Bx : Nat := 15112221349535400772501151409588531511454012693041857206046113283949847762202
def By : Nat := 46316835694926478169428394003475163141307993866256225615783033603165251855960
def B : Pt := ⟨(Bx : Int), (By : Int)⟩
def nn : Nat := 7237005577332262213973186563042994240857116359379907606001950938285454250989
set_option maxRecDepth 20000 in
theorem nB_rk : rk Nm.PN 253 nn 0 1 1 0 Bx By 1 (Bx*By%Nm.PN) (fun X Y Z => X == 0 && (Y == Z && !(Z == 0))) = true := by decide +kernel
end Ed
end Go.Proofs.YtiinmdleechcgaaDoor
set_option maxRecDepth 8000
namespace Go.Proofs.YtiinmdleechcgaaDoor
namespace Ed
theorem cg_nat (a : Nat) : Cg ((a % Nm.PN : Nat) : Int) (a : Int) := by
  rw [← Nm.int_mod]; exact Cg.red _
theorem up_nat : ((Nm.PN - 121665 : Nat) : Int) = q - upper := by decide
theorem rk_step {X1 Y1 Z1 T1 X2 Y2 Z2 T2 : Nat} {P Q : Pt} (hP : P.Good) (hQ : Q.Good) (h1 : Rep X1 Y1 Z1 T1 P) (h2 : Rep X2 Y2 Z2 T2 Q) (a b c e : Nat)
    (ha : a = 121666*(X1*Y2 + Y1*X2) % Nm.PN) (hb : b = 121666*(Y1*Y2 + X1*X2) % Nm.PN) (hc : c = (121666*(Z1*Z2) + (Nm.PN - 121665)*(T1*T2)) % Nm.PN) (he : e = (121666*(Z1*Z2) + 121665*(T1*T2)) % Nm.PN) :
    Rep ((a*e % Nm.PN : Nat) : Int) ((b*c % Nm.PN : Nat) : Int) ((c*e % Nm.PN : Nat) : Int) ((a*b % Nm.PN : Nat) : Int) (add P Q) := by
  refine Rep.of_eqs (xo := a) (yo := b) (xu := c) (yu := e) hP hQ h1 h2 ?_ ?_ ?_ ?_ ((cg_nat _).trans (Cg.of_eq (by simp))) ((cg_nat _).trans (Cg.of_eq (by simp))) ((cg_nat _).trans (Cg.of_eq (by simp))) ((cg_nat _).trans (Cg.of_eq (by simp)))
  · rw [ha]; exact (cg_nat _).trans (Cg.of_eq (by simp [lower]))
  · rw [hb]; exact (cg_nat _).trans (Cg.of_eq (by simp [lower]))
  · rw [hc]; refine (cg_nat _).trans ⟨T1*T2, ?_⟩
    rw [Int.natCast_add, Int.natCast_mul (Nm.PN - 121665), up_nat]
    simp [lower]
    grind
  · rw [he]; exact (cg_nat _).trans (Cg.of_eq (by simp [lower, upper]))
theorem rk_run : ∀ (f n : Nat) {X Y Z T U V W S : Nat} {P Q : Pt} {k : Nat → Nat → Nat → Bool}, P.Good → Q.Good → Rep X Y Z T P → Rep U V W S Q → rk Nm.PN f n X Y Z T U V W S k = true →
    ∃ X' Y' Z' T' : Nat, Rep X' Y' Z' T' (run f n P Q) ∧ k X' Y' Z' = true
  | 0, _, X, Y, Z, T, _, _, _, _, _, _, _, _, _, h1, _, h => ⟨X, Y, Z, T, h1, h⟩
  | f + 1, n, X, Y, Z, T, U, V, W, S, P, Q, k, hP, hQ, h1, h2, h => by
    have hd := rk_step hQ hQ h2 h2 _ _ _ _ rfl rfl rfl rfl
    have hs := rk_step hP hQ h1 h2 _ _ _ _ rfl rfl rfl rfl
    rw [rk] at h
    unfold run
    by_cases hn : n % 2 = 1
    · rw [if_pos hn]
      rw [show (n % 2 == 1) = true by rw [hn]; rfl] at h
      exact rk_run f (n / 2) (add_good hP hQ) (add_good hQ hQ) hs hd h
    · rw [if_neg hn]
      rw [show (n % 2 == 1) = false by simpa using hn] at h
      exact rk_run f (n / 2) hP (add_good hQ hQ) h1 hd h
theorem B_good : B.Good := ⟨by decide, by decide, Cg.of_mod (by decide)⟩
theorem B_rep : Rep (Bx : Nat) (By : Nat) (1 : Nat) (Bx*By % Nm.PN : Nat) B :=
  (Rep.flat B).cg (Cg.refl _) (Cg.refl _) (Cg.refl _) ((cg_nat _).trans (Cg.of_eq (by rw [Int.natCast_mul]; rfl)))
theorem O_rep : Rep (0 : Nat) (1 : Nat) (1 : Nat) (0 : Nat) O := Rep.origin
/-- So many times, the start is the origin. -/
theorem nB : mul nn B = O := by
  obtain ⟨X, Y, Z, T, h, hk⟩ := rk_run 253 nn O_good B_good O_rep B_rep nB_rk
  rw [run_eq 253 nn O_good B_good (by decide +kernel), O_add (mul_good B_good nn)] at h
  have hg := mul_good B_good nn
  generalize mul nn B = R at *
  simp only [Bool.and_eq_true, beq_iff_eq, Bool.not_eq_true', beq_eq_false_iff_ne] at hk
  obtain ⟨rfl, rfl, hz⟩ := hk
  refine hg.eq O_good (Cg.cancel (c := (Y : Int)) ?_ h.z) (Cg.cancel (c := (Y : Int)) ?_ h.z)
  · exact h.x.symm.trans (Cg.of_eq (by show ((0 : Nat) : Int) = 0 * (Y : Int); simp))
  · exact h.y.symm.trans (Cg.of_eq (by show (Y : Int) = 1 * (Y : Int); simp))
theorem mul_nn (k : Nat) : mul (k % nn) B = mul k B := mul_mod B_good nB k
/-- What Check holds for: the signature's equation. -/
theorem signed (k h a : Nat) : mul ((k + h * a) % nn) B = add (mul k B) (mul h (mul a B)) := by
  rw [mul_nn, mul_add B_good, Nat.mul_comm h a, mul_mul B_good]
end Ed
end Go.Proofs.YtiinmdleechcgaaDoor
set_option maxRecDepth 100000
namespace Go.Proofs.YtiinmdleechcgaaDoor
namespace Ed
theorem under_nz (y : Int) : Nz (1 + dd*y*y) := by
  intro hc
  have h : Cg ((ii*dd*y)*(ii*dd*y)) (dd*(1*1)) := by
    refine (Cg.of_eq (show _ = (ii*ii)*(dd*((1 + dd*y*y) - 1)) by grind)).trans ?_
    exact (ii_sq.mul ((Cg.refl dd).mul (hc.sub (Cg.refl 1)))).trans (Cg.of_eq (by grind))
  exact one_nz (no_square h)
theorem under_eq (y : Int) : Cg (lower*(1 + dd*y*y)) (lower - upper*(y*y)) :=
  (Cg.of_eq (show _ = lower + (lower*dd)*(y*y) by grind)).trans (((Cg.refl lower).add (dd_lower.mul (Cg.refl (y*y)))).trans (Cg.of_eq (by grind)))
theorem under_nz2 (y : Int) : Nz (lower - upper*(y*y)) := (lower_nz.mul (under_nz y)).cg (under_eq y)
/-- The square of x, by y alone. -/
theorem square_of {P : Pt} (hP : P.Good) {a : Int} (h : Cg (a * (lower - upper*(P.y*P.y))) (lower*(P.y*P.y - 1))) : Cg a (P.x*P.x) := by
  refine Cg.cancel ?_ (under_nz2 P.y)
  refine h.trans (Cg.symm ?_)
  refine ((Cg.refl _).mul (under_eq P.y).symm).trans ?_
  have e := hP.on
  unfold On er at e
  refine (Cg.of_eq (show _ = lower*(P.y*P.y - 1) - lower*(P.y*P.y - P.x*P.x - 1 - dd*P.x*P.x*P.y*P.y) by grind)).trans ?_
  exact ((Cg.refl _).sub ((Cg.refl lower).mul e)).trans (Cg.of_eq (by grind))
/-- A pair whose x is so is on the curve. -/
theorem on_of {x y a : Int} (hx : Cg (x*x) a) (h : Cg (a * (lower - upper*(y*y))) (lower*(y*y - 1))) : On x y := by
  unfold On er
  refine Cg.cancel (c := lower) ?_ lower_nz
  have h2 : Cg (x*x*(lower*(1 + dd*y*y))) (lower*(y*y - 1)) := (hx.mul (under_eq y)).trans h
  refine (Cg.of_eq (show _ = lower*(y*y - 1) - x*x*(lower*(1 + dd*y*y)) by grind)).trans ?_
  exact ((Cg.refl _).sub h2).trans (Cg.of_eq (by grind))
/-- Two roots of one square. -/
theorem two_roots {x r : Int} (hx : 0 ≤ x ∧ x < q) (hr : 0 ≤ r ∧ r < q) (h : Cg (r*r) (x*x)) : r = x ∨ r = -x % q := by
  have h1 : (Nm.PN : Int) ∣ (r - x) * (r + x) := by
    obtain ⟨c, hc⟩ := h
    exact ⟨c, by show (r - x) * (r + x) = q * c; grind⟩
  rcases Nm.prime_int h1 with h2 | h2
  · exact Or.inl (Cg.eq h2 hr hx)
  · refine Or.inr (Cg.eq (Cg.trans ?_ (Cg.red (-x)).symm) hr (red_lt _))
    obtain ⟨c, hc⟩ := h2
    exact ⟨c, by show r - -x = q * c; rw [show r - -x = r + x by omega]; exact hc⟩
theorem neg_red {x : Int} (hx : 0 ≤ x ∧ x < q) (h0 : x ≠ 0) : -x % q = q - x := by
  rw [← Int.add_emod_right (-x) q, show -x + q = q - x by omega]
  exact Int.emod_eq_of_lt (by omega) (by omega)
theorem q_odd : q % 2 = 1 := by decide
theorem neg_odd {x : Int} (hx : 0 ≤ x ∧ x < q) (h0 : x ≠ 0) : (-x % q) % 2 = 1 - x % 2 := by
  have := q_odd
  rw [neg_red hx h0]
  omega
/-- The root that is as odd as asked. -/
theorem root_as {x r : Int} (hx : 0 ≤ x ∧ x < q) (hr : 0 ≤ r ∧ r < q) (h : Cg (r*r) (x*x)) :
    (r % 2 = x % 2 → r = x) ∧ (r % 2 ≠ x % 2 → -r % q = x) := by
  by_cases h0 : x = 0
  · subst h0
    have : r = 0 := by
      rcases two_roots hx hr h with h1 | h1
      · exact h1
      · rw [h1]; decide
    subst this
    exact ⟨fun _ => rfl, fun h => absurd rfl h⟩
  · rcases two_roots hx hr h with h1 | h1
    · exact ⟨fun _ => h1, fun h2 => absurd (by rw [h1]) h2⟩
    · have hn := neg_odd hx h0
      refine ⟨fun h2 => ?_, fun _ => ?_⟩
      · rw [h1, hn] at h2; omega
      · rw [h1, neg_red hx h0, neg_red (by omega) (by omega)]; omega
/-- The nonce that is looked at, and its point. -/
def kN : Nat := 4928719331454755403606303759647346995543222500395151019611105437466400029446
def y0 : Nat := 19264126885889878164340342261877557272436613468903059355658566828976056794782
def y1 : Nat := 19264126885889878164340342261877557272436613468903059355658566828976123903646
def a0 : Nat := 51661160687211282027501102125295330654199829256274146270492701338444428054064
theorem k_rk : rk Nm.PN 253 kN 0 1 1 0 Bx By 1 (Bx*By%Nm.PN) (fun _ Y Z => Y == y0*Z%Nm.PN) = true := by decide +kernel
theorem k_y : (mul kN B).y = (y0 : Int) := by
  obtain ⟨X, Y, Z, T, h, hk⟩ := rk_run 253 kN O_good B_good O_rep B_rep k_rk
  rw [run_eq 253 kN O_good B_good (by decide +kernel), O_add (mul_good B_good kN)] at h
  have hg := mul_good B_good kN
  generalize mul kN B = R at *
  simp only [beq_iff_eq] at hk
  refine Cg.eq (Cg.cancel (c := (Z : Int)) ?_ h.z) hg.y (by decide)
  refine h.y.symm.trans ?_
  rw [hk]
  exact (cg_nat _).trans (Cg.of_eq (by rw [Int.natCast_mul]))
theorem a0_eq : Cg ((a0 : Int) * (lower - upper*((y1 : Int)*(y1 : Int)))) (lower*((y1 : Int)*(y1 : Int) - 1)) := Cg.of_mod (by decide +kernel)
theorem a0_half : Nm.pm Nm.PN 255 a0 ((Nm.PN - 1) / 2) = Nm.PN - 1 := by decide +kernel
theorem a0_pow : (a0 : Int) ^ ((Nm.PN - 1) / 2) % (Nm.PN : Int) = ((Nm.PN - 1 : Nat) : Int) := by
  have h := a0_half
  rw [Nm.pm_eq _ _ _ _ (by decide +kernel)] at h
  rw [← Int.natCast_pow, Nm.int_mod, h]
/-- Of the turned signature, no point has the y. -/
theorem turned {a : Int} (h : Cg (a * (lower - upper*((y1 : Int)*(y1 : Int)))) (lower*((y1 : Int)*(y1 : Int) - 1))) : ¬ (a % q = 0 ∨ a ^ ((Nm.PN - 1) / 2) % q = 1) := by
  have h1 : Cg a (a0 : Int) := Cg.cancel (h.trans a0_eq.symm) (under_nz2 _)
  rintro (h2 | h2)
  · have := h1.mod
    rw [h2] at this
    revert this
    decide
  · have h3 := Nm.pow_mod_congr h1.mod ((Nm.PN - 1) / 2)
    rw [h2] at h3
    have h4 := a0_pow
    rw [show (Nm.PN : Int) = q from rfl] at h4
    rw [h4] at h3
    revert h3
    decide
end Ed
end Go.Proofs.YtiinmdleechcgaaDoor
