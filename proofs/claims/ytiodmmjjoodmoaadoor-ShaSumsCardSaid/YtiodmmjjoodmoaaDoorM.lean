/- The digest as plain functions on lists of numbers: words and rounds as the code has them. -/
import Derived.WalkKit
import Derived.Laws.BitsAllLaws
namespace Go.Proofs.YtiodmmjjoodmoaaDoor.Sh

/-- A word turned right by k. -/
def rot (x : Int) (k : Nat) : Int := bits .or .u32 (x / 2 ^ k) (x * 2 ^ (32 - k) % 4294967296)
def ad (x y : Int) : Int := IntKind.u32.wrap (x + y)
def xr (x y : Int) : Int := bits .xor .u32 x y
def an (x y : Int) : Int := bits .and .u32 x y
def nt (x : Int) : Int := bits .xor .u32 IntKind.u32.max x
def ld4 (a b c d : Int) : Int := bits .or .u32 (bits .or .u32 (bits .or .u32 (a * 16777216) (b * 65536)) (c * 256)) d
def W32 (x : Int) : Prop := 0 ≤ x ∧ x ≤ 4294967295
def W8 (x : Int) : Prop := 0 ≤ x ∧ x ≤ 255

theorem wrap_W (x : Int) : W32 (IntKind.u32.wrap x) := by
  rw [IntKind.wrap_u32]; unfold W32; omega
theorem bits_W (op : BinOp) (x y : Int) : W32 (bits op .u32 x y) := by
  unfold bits
  exact wrap_W _
theorem or_comm (x y : Int) : bits .or .u32 x y = bits .or .u32 y x := by
  unfold bits; simp only [BitVec.or_comm]

theorem ad_eq (x y : Int) : ad x y = (x + y) % 4294967296 := IntKind.wrap_u32 _

def sg0 (x : Int) : Int := xr (xr (rot x 7) (rot x 18)) (x / 8)
def sg1 (x : Int) : Int := xr (xr (rot x 17) (rot x 19)) (x / 1024)
def w16 (p : List Int) : List Int := (List.range 16).map fun i => ld4 (p.getD (4 * i) 0) (p.getD (4 * i + 1) 0) (p.getD (4 * i + 2) 0) (p.getD (4 * i + 3) 0)
/-- The word behind these. -/
def ext (l : List Int) : Int := ad (ad (ad (l.getD (l.length - 16) 0) (sg0 (l.getD (l.length - 15) 0))) (l.getD (l.length - 7) 0)) (sg1 (l.getD (l.length - 2) 0))
def grow : Nat → List Int → List Int
  | 0, l => l
  | n + 1, l => grow n l ++ [ext (grow n l)]
def sched (p : List Int) : List Int := grow 48 (w16 p)

theorem length_w16 (p : List Int) : (w16 p).length = 16 := by simp [w16]
theorem length_grow (n : Nat) (l : List Int) : (grow n l).length = n + l.length := by
  induction n with
  | zero => simp [grow]
  | succ n ih => simp [grow, ih]; omega
theorem length_sched (p : List Int) : (sched p).length = 64 := by unfold sched; rw [length_grow, length_w16]

structure S where
  a : Int
  b : Int
  c : Int
  d : Int
  e : Int
  f : Int
  g : Int
  h : Int

def S.cells (s : S) : List Int := [s.a, s.b, s.c, s.d, s.e, s.f, s.g, s.h]
def S.ok (s : S) : Prop := W32 s.a ∧ W32 s.b ∧ W32 s.c ∧ W32 s.d ∧ W32 s.e ∧ W32 s.f ∧ W32 s.g ∧ W32 s.h

def t1 (s : S) (k w : Int) : Int := ad (ad (ad (ad s.h (xr (xr (rot s.e 6) (rot s.e 11)) (rot s.e 25))) (xr (an s.e s.f) (an (nt s.e) s.g))) k) w
def t2 (s : S) : Int := ad (xr (xr (rot s.a 2) (rot s.a 13)) (rot s.a 22)) (xr (xr (an s.a s.b) (an s.a s.c)) (an s.b s.c))
def step (s : S) (k w : Int) : S := { a := ad (t1 s k w) (t2 s), b := s.a, c := s.b, d := s.c, e := ad s.d (t1 s k w), f := s.e, g := s.f, h := s.g }
def rounds (ks ws : List Int) (s : S) : Nat → S
  | 0 => s
  | n + 1 => step (rounds ks ws s n) (ks.getD n 0) (ws.getD n 0)
def plus (s r : S) : S := { a := ad s.a r.a, b := ad s.b r.b, c := ad s.c r.c, d := ad s.d r.d, e := ad s.e r.e, f := ad s.f r.f, g := ad s.g r.g, h := ad s.h r.h }
/-- The state behind a block of 64 bytes. -/
def after (ks : List Int) (s : S) (p : List Int) : S := plus s (rounds ks (sched p) s 64)

theorem plus_ok (s r : S) : (plus s r).ok := ⟨wrap_W _, wrap_W _, wrap_W _, wrap_W _, wrap_W _, wrap_W _, wrap_W _, wrap_W _⟩
theorem step_ok (s : S) (k w : Int) (h : s.ok) : (step s k w).ok := by
  obtain ⟨ha, hb, hc, _, he, hf, hg, _⟩ := h
  exact ⟨wrap_W _, ha, hb, hc, wrap_W _, he, hf, hg⟩
theorem rounds_ok (ks ws : List Int) (s : S) (h : s.ok) (n : Nat) : (rounds ks ws s n).ok := by
  induction n with
  | zero => exact h
  | succ n ih => exact step_ok _ _ _ ih

end Go.Proofs.YtiodmmjjoodmoaaDoor.Sh
