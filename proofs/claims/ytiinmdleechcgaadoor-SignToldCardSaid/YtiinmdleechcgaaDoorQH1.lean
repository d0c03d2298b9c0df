/- Layer 6, a part of the proof: HM HA HC HD HE HF HG HH HI HJ HK HL HN HAd HAe HAf HAg HV HW. -/
import Derived.WalkKit
import Derived.Laws.BitsAllLaws
import Derived.Test.YtiinmdleechcgaaDoorRows
import Derived.WalkSpells
import Derived.WalkLawsBesides
import Derived.Lib.Hide
import Derived.Deep.RegionWith
import Derived.Deep.QuietTactic
import Derived.BigQuiet
import Derived.BigRegion
import Derived.WalkSmall
import Derived.Laws.CopyOwn
import Derived.Deep.MidRow
import Derived.Deep.RegionLaw
import Derived.OwnWalk
import Derived.Maps.AppendAt
import Derived.Laws.AppendOwnNone
import Derived.Laws.OwnMore
namespace Go.Proofs.YtiinmdleechcgaaDoor.Sha.Sh

/-- A word turned right by k. -/
def rot (x : Int) (k : Nat) : Int := bits .or .u32 (x / 2 ^ k) (x * 2 ^ (32 - k) % 4294967296)
def ad (x y : Int) : Int := IntKind.u32.wrap (x + y)
def xr (x y : Int) : Int := bits .xor .u32 x y
def an (x y : Int) : Int := bits .and .u32 x y
def nt (x : Int) : Int := bits .xor .u32 IntKind.u32.max x
def ld4 (a b c d : Int) : Int := bits .or .u32 (bits .or .u32 (bits .or .u32 (a * 16777216) (b * 65536)) (c * 256)) d
def W32 (x : Int) : Prop := 0 ≤ x ∧ x ≤ 4294967295
def W8 (x : Int) : Prop := 0 ≤ x ∧ x ≤ 255

theorem wrap_W (x : Int) : W32 (IntKind.u32.wrap x) := by
  rw [IntKind.wrap_u32]; unfold W32; omega
theorem bits_W (op : BinOp) (x y : Int) : W32 (bits op .u32 x y) := by
  unfold bits
  exact wrap_W _
theorem or_comm (x y : Int) : bits .or .u32 x y = bits .or .u32 y x := by
  unfold bits; simp only [BitVec.or_comm]

theorem ad_eq (x y : Int) : ad x y = (x + y) % 4294967296 := IntKind.wrap_u32 _

def sg0 (x : Int) : Int := xr (xr (rot x 7) (rot x 18)) (x / 8)
def sg1 (x : Int) : Int := xr (xr (rot x 17) (rot x 19)) (x / 1024)
def w16 (p : List Int) : List Int := (List.range 16).map fun i => ld4 (p.getD (4 * i) 0) (p.getD (4 * i + 1) 0) (p.getD (4 * i + 2) 0) (p.getD (4 * i + 3) 0)
/-- The word behind these. -/
def ext (l : List Int) : Int := ad (ad (ad (l.getD (l.length - 16) 0) (sg0 (l.getD (l.length - 15) 0))) (l.getD (l.length - 7) 0)) (sg1 (l.getD (l.length - 2) 0))
def grow : Nat → List Int → List Int
  | 0, l => l
  | n + 1, l => grow n l ++ [ext (grow n l)]
def sched (p : List Int) : List Int := grow 48 (w16 p)

theorem length_w16 (p : List Int) : (w16 p).length = 16 := by simp [w16]
theorem length_grow (n : Nat) (l : List Int) : (grow n l).length = n + l.length := by
  induction n with
  | zero => simp [grow]
  | succ n ih => simp [grow, ih]; omega
theorem length_sched (p : List Int) : (sched p).length = 64 := by unfold sched; rw [length_grow, length_w16]

structure S where
  a : Int
  b : Int
  c : Int
  d : Int
  e : Int
  f : Int
  g : Int
  h : Int

def S.cells (s : S) : List Int := [s.a, s.b, s.c, s.d, s.e, s.f, s.g, s.h]
def S.ok (s : S) : Prop := W32 s.a ∧ W32 s.b ∧ W32 s.c ∧ W32 s.d ∧ W32 s.e ∧ W32 s.f ∧ W32 s.g ∧ W32 s.h

def t1 (s : S) (k w : Int) : Int := ad (ad (ad (ad s.h (xr (xr (rot s.e 6) (rot s.e 11)) (rot s.e 25))) (xr (an s.e s.f) (an (nt s.e) s.g))) k) w
def t2 (s : S) : Int := ad (xr (xr (rot s.a 2) (rot s.a 13)) (rot s.a 22)) (xr (xr (an s.a s.b) (an s.a s.c)) (an s.b s.c))
def step (s : S) (k w : Int) : S := { a := ad (t1 s k w) (t2 s), b := s.a, c := s.b, d := s.c, e := ad s.d (t1 s k w), f := s.e, g := s.f, h := s.g }
def rounds (ks ws : List Int) (s : S) : Nat → S
  | 0 => s
  | n + 1 => step (rounds ks ws s n) (ks.getD n 0) (ws.getD n 0)
def plus (s r : S) : S := { a := ad s.a r.a, b := ad s.b r.b, c := ad s.c r.c, d := ad s.d r.d, e := ad s.e r.e, f := ad s.f r.f, g := ad s.g r.g, h := ad s.h r.h }
/-- The state behind a block of 64 bytes. -/
def after (ks : List Int) (s : S) (p : List Int) : S := plus s (rounds ks (sched p) s 64)

theorem plus_ok (s r : S) : (plus s r).ok := ⟨wrap_W _, wrap_W _, wrap_W _, wrap_W _, wrap_W _, wrap_W _, wrap_W _, wrap_W _⟩
theorem step_ok (s : S) (k w : Int) (h : s.ok) : (step s k w).ok := by
  obtain ⟨ha, hb, hc, _, he, hf, hg, _⟩ := h
  exact ⟨wrap_W _, ha, hb, hc, wrap_W _, he, hf, hg⟩
theorem rounds_ok (ks ws : List Int) (s : S) (h : s.ok) (n : Nat) : (rounds ks ws s n).ok := by
  induction n with
  | zero => exact h
  | succ n ih => exact step_ok _ _ _ ih

end Go.Proofs.YtiinmdleechcgaaDoor.Sha.Sh
namespace Go.Proofs.YtiinmdleechcgaaDoor.Sha
open Go.RowKit

theorem ret_int {k : IntKind} {a b : Int} (h : a = b) : Ending.returned (.int k a) = .returned (.int k b) := by rw [h]

theorem and31 (k : Nat) (h2 : 1 ≤ k) (h3 : k ≤ 31) : bits BinOp.and IntKind.u64 (IntKind.u64.wrap (-(k : Int))) 31 = ((32 - k : Nat) : Int) := by
  have : ∀ k : Fin 32, 1 ≤ k.val → bits BinOp.and IntKind.u64 (IntKind.u64.wrap (-(k.val : Int))) 31 = ((32 - k.val : Nat) : Int) := by decide +kernel
  exact this ⟨k, by omega⟩ h2

set_option maxHeartbeats 400000 in
theorem turnk (x : Int) (k : Nat) (w : World) (h : Sh.W32 x) (h2 : 1 ≤ k) (h3 : k ≤ 31) :
    Calls Tryd.prog 90 #[.int .u32 x, .int .i64 k] w fun e w' => e = .returned (.int .u32 (Sh.rot x k)) ∧ w = w' := by
  obtain ⟨h0, h1⟩ := h
  have hb := and31 k h2 h3
  obtain ⟨j, hj⟩ : ∃ j : Nat, j = 32 - k := ⟨_, rfl⟩
  rw [← hj] at hb
  have g1 : 1 ≤ j := by omega
  have g2 : j ≤ 31 := by omega
  have HJ := Lib.hid hj
  clear hj
  go_enter Tryd.func90, Tryd.ntmps90
  go_wp2
  go_ret
  refine ⟨ret_int ?_, rfl⟩
  have e := HJ.out
  unfold Sh.rot
  rw [Sh.or_comm, show 32 - j = k by omega, e]

theorem turn_lit (x : Int) (k : Nat) (w : World) (h : Sh.W32 x) (n : Int) (hn : n = k) (h2 : 1 ≤ k) (h3 : k ≤ 31) :
    Calls Tryd.prog 90 #[.int .u32 x, .int .i64 n] w fun e w' => e = .returned (.int .u32 (Sh.rot x k)) ∧ w = w' := by
  subst hn; exact turnk x k w h h2 h3

def Drew (w w' : World) : Prop := ∃ n, w' = w.drewN n
theorem Drew.refl (w : World) : Drew w w := ⟨0, rfl⟩

set_option maxHeartbeats 400000 in
theorem rturnk (x : Int) (k : Nat) (w : World) (h : Sh.W32 x) (h2 : 1 ≤ k) (h3 : k ≤ 31) :
    Calls Tryd.prog 59 #[.int .u32 x, .int .i64 k] w fun e w' => e = .returned (.int .u32 (Sh.rot x k)) ∧ Drew w w' := by
  obtain ⟨h0, h1⟩ := h
  go_enter Tryd.func59, Tryd.ntmps59
  go_wp2_with fail
  go_quiet (fail)
  go_wp2
  go_ret
  exact ⟨rfl, ⟨_, rfl⟩⟩

/-- So many numbers of a kind lie in a block from a place on. -/
def At (w : World) (k : IntKind) (b off : Nat) (l : List Int) : Prop := ∀ j, j < l.length → w.cell? ⟨b, off + j, none⟩ = some (.int k (l.getD j 0))
theorem At.below {w w' : World} {B : Nat} {k : IntKind} {b off : Nat} {l : List Int} (h : At w k b off l) (hb : Below B w w') (hB : b < B) : At w' k b off l :=
  fun j hj => (hb.cell (p := ⟨b, off + j, none⟩) hB).trans (h j hj)

def z64 : List Int := List.replicate 64 0
def blk (l : List Int) : Obj := .cells (l.map (Value.int .u32)).toArray 112 (0, 0)

theorem blk_cell {w : World} {g : Nat} {l : List Int} (h : w.heap[g]? = some (blk l)) (j : Nat) (hj : j < l.length) : w.cell? ⟨g, j, none⟩ = some (.int .u32 (l.getD j 0)) := by
  rw [cell_of_row w g j _ 112 (0, 0) h]
  simp [hj]
theorem blk_free {w : World} {g : Nat} {l : List Int} (h : w.heap[g]? = some (blk l)) (j : Nat) : w.frozen? ⟨g, j, none⟩ = false := frozen_of_row w g j _ 112 h
theorem blk_set {w : World} {g : Nat} {l : List Int} (h : w.heap[g]? = some (blk l)) (j : Nat) (x : Int) : (w.setCell ⟨g, j, none⟩ (.int .u32 x)).heap[g]? = some (blk (l.set j x)) := by
  rw [heap_setCell_same w g j _ 112 _ h]
  unfold blk
  simp [List.map_set]

theorem set_fill (T Z : List Int) (x z : Int) : (T ++ (z :: Z)).set T.length x = T ++ [x] ++ Z := by
  simp

theorem getD_append_lt (T Z : List Int) (j : Nat) (h : j < T.length) : (T ++ Z).getD j 0 = T.getD j 0 := by
  simp [List.getElem?_append_left h]
theorem W32_getD {l : List Int} (h : ∀ x ∈ l, Sh.W32 x) (j : Nat) : Sh.W32 (l.getD j 0) := by
  by_cases hj : j < l.length
  · have : l.getD j 0 = l[j] := by simp [hj]
    rw [this]; exact h _ (List.getElem_mem hj)
  · have : l.getD j 0 = 0 := by simp; rw [List.getElem?_eq_none (by omega)]; rfl
    rw [this]; unfold Sh.W32; omega
theorem W8_getD {l : List Int} (h : ∀ x ∈ l, Sh.W8 x) (j : Nat) : Sh.W8 (l.getD j 0) := by
  by_cases hj : j < l.length
  · have : l.getD j 0 = l[j] := by simp [hj]
    rw [this]; exact h _ (List.getElem_mem hj)
  · have : l.getD j 0 = 0 := by simp; rw [List.getElem?_eq_none (by omega)]; rfl
    rw [this]; unfold Sh.W8; omega

theorem w16_take_succ (p : List Int) (k : Nat) (h : k < 16) : (Sh.w16 p).take (k + 1) = (Sh.w16 p).take k ++ [Sh.ld4 (p.getD (4 * k) 0) (p.getD (4 * k + 1) 0) (p.getD (4 * k + 2) 0) (p.getD (4 * k + 3) 0)] := by
  rw [List.take_succ_eq_append_getElem (by rw [Sh.length_w16]; exact h)]
  congr 2
  simp [Sh.w16]
theorem w16_W (p : List Int) : ∀ x ∈ Sh.w16 p, Sh.W32 x := by
  intro x hx
  simp only [Sh.w16, List.mem_map] at hx
  obtain ⟨i, _, rfl⟩ := hx
  exact Sh.bits_W _ _ _
theorem grow_W (n : Nat) (l : List Int) (h : ∀ x ∈ l, Sh.W32 x) : ∀ x ∈ Sh.grow n l, Sh.W32 x := by
  induction n with
  | zero => exact h
  | succ n ih =>
    intro x hx
    simp only [Sh.grow, List.mem_append, List.mem_singleton] at hx
    rcases hx with hx | rfl
    · exact ih x hx
    · exact Sh.wrap_W _

theorem zeros_succ (k : Nat) : List.replicate (k + 1) (0 : Int) = 0 :: List.replicate k 0 := rfl

set_option maxHeartbeats 2000000 in
theorem sched_any (b off cap : Nat) (w : World) (p : List Int) (hp : p.length = 64) (hw8 : ∀ x ∈ p, Sh.W8 x) (ha : At w .u8 b off p) (hb : b < w.heap.size) :
    Calls Tryd.prog 89 #[.slice (some ⟨b, off, none⟩) 64 cap] w fun e w' => e = .returned (.agg ((Sh.sched p).map (Value.int .u32)).toArray) ∧ Below w.heap.size w w' := by
  go_enter Tryd.func89, Tryd.ntmps89
  go_wp2
  go_loopw [10] (fun i wr => ∃ k : Nat, k ≤ 16 ∧ i = .int .i64 k ∧ wr.heap[w.heap.size + 1]? = some (blk ((Sh.w16 p).take k ++ List.replicate (64 - k) 0)) ∧ wr.heap[w.heap.size]? = some (blk z64) ∧ Below w.heap.size w wr) (fun i _ => 16 - (intOf i).toNat)
  case atStart => exact ⟨0, by omega, rfl, heap_alloc2_new w _ _, heap_alloc2_old w _ _, ((Below.refl _ _).alloc (Nat.le_refl _) _).alloc (by simp) _⟩
  case round =>
    obtain ⟨k, hk, rfl, h1, h2, h3⟩ := hrel
    by_cases hlt : k < 16
    · have hA := ha.below h3 hb
      have c0 := hA (4 * k) (by omega)
      have c1 := hA (4 * k + 1) (by omega)
      have c2 := hA (4 * k + 2) (by omega)
      have c3 := hA (4 * k + 3) (by omega)
      have hlen : ((Sh.w16 p).take k ++ List.replicate (64 - k) 0).length = 64 := by simp [Sh.length_w16]; omega
      have cs := blk_cell h1 k (by omega)
      have cf := blk_free h1 k
      have ht := w16_take_succ p k hlt
      have b0 := W8_getD hw8 (4 * k)
      have b1 := W8_getD hw8 (4 * k + 1)
      have b2 := W8_getD hw8 (4 * k + 2)
      have b3 := W8_getD hw8 (4 * k + 3)
      have hset := blk_set h1 k (Sh.ld4 (p.getD (4 * k) 0) (p.getD (4 * k + 1) 0) (p.getD (4 * k + 2) 0) (p.getD (4 * k + 3) 0))
      have hl : ((Sh.w16 p).take k ++ List.replicate (64 - k) 0).set k (Sh.ld4 (p.getD (4 * k) 0) (p.getD (4 * k + 1) 0) (p.getD (4 * k + 2) 0) (p.getD (4 * k + 3) 0)) = (Sh.w16 p).take (k + 1) ++ List.replicate (64 - (k + 1)) 0 := by
        have e : ((Sh.w16 p).take k).length = k := by simp [Sh.length_w16]; omega
        rw [ht, show 64 - k = (64 - (k + 1)) + 1 by omega, zeros_succ]
        have := set_fill ((Sh.w16 p).take k) (List.replicate (64 - (k + 1)) 0) (Sh.ld4 (p.getD (4 * k) 0) (p.getD (4 * k + 1) 0) (p.getD (4 * k + 2) 0) (p.getD (4 * k + 3) 0)) 0
        rw [e] at this
        exact this
      rw [hl] at hset
      have hother := fun x => heap_setCell_other wr ⟨w.heap.size + 1, k, none⟩ w.heap.size (.int .u32 x) (by simp)
      have HS := Lib.hid hset
      have HO := Lib.hid hother
      have H2 := Lib.hid h2
      obtain ⟨lo0, hi0⟩ := b0
      obtain ⟨lo1, hi1⟩ := b1
      obtain ⟨lo2, hi2⟩ := b2
      obtain ⟨lo3, hi3⟩ := b3
      generalize p.getD (4 * k) 0 = x0 at *
      generalize p.getD (4 * k + 1) 0 = x1 at *
      generalize p.getD (4 * k + 2) 0 = x2 at *
      generalize p.getD (4 * k + 3) 0 = x3 at *
      generalize ((Sh.w16 p).take k ++ List.replicate (64 - k) 0).getD k 0 = v at *
      clear hset hother h1 h2 ht hl hlen hA
      go_wp2
      go_region
      all_goals go_wp2
      all_goals go_roundw
      case rel => exact ⟨k + 1, by omega, by go_num, HS.out, (HO.out _).trans H2.out, (h3.setCell (by simp) _).drew⟩
      case measure => simp [intOf]; omega
    · have hk16 : ((k : Nat) : Int) = 16 := by omega
      rw [hk16]
      clear hk16
      obtain rfl : k = 16 := by omega
      have h1' : wr.heap[w.heap.size + 1]? = some (blk (Sh.grow 0 (Sh.w16 p) ++ List.replicate 48 0)) := by
        rw [h1, List.take_of_length_le (by rw [Sh.length_w16]; omega)]; rfl
      have H1 := Lib.hid h1'
      have H2 := Lib.hid h2
      clear h1 h1' h2
      go_wp2
      obtain ⟨wo, hwo⟩ : ∃ wo : World, wo = wr := ⟨_, rfl⟩
      have H1o : Hid (wo.heap[w.heap.size + 1]? = some (blk (Sh.grow 0 (Sh.w16 p) ++ List.replicate 48 0))) := by rw [hwo]; exact H1
      have H2o : Hid (wo.heap[w.heap.size]? = some (blk z64)) := by rw [hwo]; exact H2
      have h3o : Below w.heap.size w wo := by rw [hwo]; exact h3
      rw [← hwo]
      clear hwo H1 H2 h3
      go_loopw [5] (fun i wr => ∃ j : Nat, 16 ≤ j ∧ j ≤ 64 ∧ i = .int .i64 j ∧ Hid (wr.heap[w.heap.size + 1]? = some (blk (Sh.grow (j - 16) (Sh.w16 p) ++ List.replicate (64 - j) 0))) ∧ Hid (wr.heap[w.heap.size]? = some (blk z64)) ∧ Below w.heap.size w wr) (fun i _ => 64 - (intOf i).toNat)
      case atStart => exact ⟨16, by omega, by omega, rfl, H1o, H2o, h3o⟩
      case round =>
        obtain ⟨j, hj0, hj, rfl, H1, H2, h3⟩ := hrel
        clear H1o H2o h3o
        by_cases hlt : j < 64
        · have h1 := H1.out
          have hlen : (Sh.grow (j - 16) (Sh.w16 p)).length = j := by rw [Sh.length_grow, Sh.length_w16]; omega
          have hlen2 : (Sh.grow (j - 16) (Sh.w16 p) ++ List.replicate (64 - j) 0).length = 64 := by simp only [List.length_append, hlen, List.length_replicate]; omega
          have hgW := grow_W (j - 16) (Sh.w16 p) (w16_W p)
          have c16 := blk_cell h1 (j - 16) (by omega)
          have c15 := blk_cell h1 (j - 15) (by omega)
          have c7 := blk_cell h1 (j - 7) (by omega)
          have c2 := blk_cell h1 (j - 2) (by omega)
          have cs := blk_cell h1 j (by omega)
          have cf := blk_free h1 j
          rw [getD_append_lt _ _ _ (by omega)] at c16 c15 c7 c2
          have w16 := W32_getD hgW (j - 16)
          have w15 := W32_getD hgW (j - 15)
          have w7 := W32_getD hgW (j - 7)
          have w2 := W32_getD hgW (j - 2)
          have hext : Sh.ext (Sh.grow (j - 16) (Sh.w16 p)) = Sh.ad (Sh.ad (Sh.ad ((Sh.grow (j - 16) (Sh.w16 p)).getD (j - 16) 0) (Sh.sg0 ((Sh.grow (j - 16) (Sh.w16 p)).getD (j - 15) 0))) ((Sh.grow (j - 16) (Sh.w16 p)).getD (j - 7) 0)) (Sh.sg1 ((Sh.grow (j - 16) (Sh.w16 p)).getD (j - 2) 0)) := by
            unfold Sh.ext; rw [hlen]
          have hset := blk_set h1 j (Sh.ext (Sh.grow (j - 16) (Sh.w16 p)))
          have hl : (Sh.grow (j - 16) (Sh.w16 p) ++ List.replicate (64 - j) 0).set j (Sh.ext (Sh.grow (j - 16) (Sh.w16 p))) = Sh.grow (j + 1 - 16) (Sh.w16 p) ++ List.replicate (64 - (j + 1)) 0 := by
            rw [show 64 - j = (64 - (j + 1)) + 1 by omega, zeros_succ, show j + 1 - 16 = (j - 16) + 1 by omega]
            have := set_fill (Sh.grow (j - 16) (Sh.w16 p)) (List.replicate (64 - (j + 1)) 0) (Sh.ext (Sh.grow (j - 16) (Sh.w16 p))) 0
            rw [hlen] at this
            exact this
          rw [hl, hext] at hset
          have hother := fun x => heap_setCell_other wr ⟨w.heap.size + 1, j, none⟩ w.heap.size (.int .u32 x) (by simp)
          have HS := Lib.hid hset
          have HO := Lib.hid hother
          generalize (Sh.grow (j - 16) (Sh.w16 p)).getD (j - 16) 0 = x16 at *
          generalize (Sh.grow (j - 16) (Sh.w16 p)).getD (j - 15) 0 = x15 at *
          generalize (Sh.grow (j - 16) (Sh.w16 p)).getD (j - 7) 0 = x7 at *
          generalize (Sh.grow (j - 16) (Sh.w16 p)).getD (j - 2) 0 = x2 at *
          generalize (Sh.grow (j - 16) (Sh.w16 p) ++ List.replicate (64 - j) 0).getD j 0 = v at *
          clear hset hother h1 hlen hlen2 hl hext hgW H1
          go_wp2
          go_quiet (fail)
          go_wp2_with (first | (go_at_call_of 90 (Value.int IntKind.i64 7); refine (turn_lit _ 7 _ w15 7 rfl (by decide) (by decide)).mono ?_; rintro e w' ⟨rfl, rfl⟩) | (go_at_call_of 90 (Value.int IntKind.i64 18); refine (turn_lit _ 18 _ w15 18 rfl (by decide) (by decide)).mono ?_; rintro e w' ⟨rfl, rfl⟩) | (go_at_call_of 90 (Value.int IntKind.i64 17); refine (turn_lit _ 17 _ w2 17 rfl (by decide) (by decide)).mono ?_; rintro e w' ⟨rfl, rfl⟩) | (go_at_call_of 90 (Value.int IntKind.i64 19); refine (turn_lit _ 19 _ w2 19 rfl (by decide) (by decide)).mono ?_; rintro e w' ⟨rfl, rfl⟩))
          go_region
          all_goals go_wp2
          all_goals go_roundw
          case rel =>
            have hv : ∀ s0 s1 : Int, (x16 + s0 + x7 + s1) % 4294967296 = Sh.ad (Sh.ad (Sh.ad x16 s0) x7) s1 := by
              intro s0 s1; rw [Sh.ad_eq, Sh.ad_eq, Sh.ad_eq]; omega
            refine ⟨j + 1, by omega, by omega, by go_num, ?_, (HO.out _).trans H2.out, (below_drewN h3 _).setCell (by simp) _⟩
            rw [hv]
            exact HS.out
          case measure => simp [intOf]; omega
        · have hj64 : ((j : Nat) : Int) = 64 := by omega
          rw [hj64]
          clear hj64
          obtain rfl : j = 64 := by omega
          have h1 := H1.out
          have h2 := H2.out
          rw [show Sh.grow (64 - 16) (Sh.w16 p) ++ List.replicate (64 - 64) 0 = Sh.sched p by simp [Sh.sched]] at h1
          have hz : z64.length = 64 := by simp [z64]
          have hs := Sh.length_sched p
          have hB : w.heap.size + 1 ≠ w.heap.size := by omega
          unfold blk at h1 h2
          have hso : ∀ c : Array Value, c = ((Sh.sched p).map (Value.int .u32)).toArray → (wr.setRow w.heap.size c).heap[w.heap.size]? = some (.cells c 112 (0, 0)) := fun c _ => setRow_heap wr w.heap.size _ _ 112 _ h2
          have h64 : (Tryd.prog.info? 112).map (·.size) = some 64 := by kernel_rfl
          go_wp2_with (first | (refine wpList_load_row rfl 112 _ rfl (w.heap.size + 1) rfl 112 _ (0, 0) _ h1 Tryd.underlying112 rfl ?_ ?_) | (refine wpList_store_row rfl 112 _ _ rfl w.heap.size _ rfl rfl 112 _ h2 ?_ ?_ ?_ ?_))
          · simp only [List.size_toArray, List.length_map, hs]; exact h64
          · simp only [List.size_toArray, List.length_map, hs]; exact h64
          · simp only [List.size_toArray, List.length_map, hs, hz]
          · exact Array.all_eq_true_iff_forall_mem.2 fun x hx => by
              simp only [List.mem_toArray, List.mem_map] at hx
              obtain ⟨y, _, rfl⟩ := hx; rfl
          · exact bodyPost_ret (results_cell_row Tryd.results89 _ _ w.heap.size 112 _ (0, 0) _ rfl (hso _ rfl) Tryd.underlying112 rfl (by simp only [List.size_toArray, List.length_map, hs]; exact h64)) rfl ⟨rfl, below_setRow h3 (Nat.le_refl _) _⟩
end Go.Proofs.YtiinmdleechcgaaDoor.Sha
namespace Go.Proofs.YtiinmdleechcgaaDoor.Sha
open Go.RowKit

/-- The numbers of the rounds. -/
def KK : List Int := [1116352408, 1899447441, 3049323471, 3921009573, 961987163, 1508970993, 2453635748, 2870763221, 3624381080, 310598401, 607225278, 1426881987, 1925078388, 2162078206, 2614888103, 3248222580, 3835390401, 4022224774, 264347078, 604807628, 770255983, 1249150122, 1555081692, 1996064986, 2554220882, 2821834349, 2952996808, 3210313671, 3336571891, 3584528711, 113926993, 338241895, 666307205, 773529912, 1294757372, 1396182291, 1695183700, 1986661051, 2177026350, 2456956037, 2730485921, 2820302411, 3259730800, 3345764771, 3516065817, 3600352804, 4094571909, 275423344, 430227734, 506948616, 659060556, 883997877, 958139571, 1322822218, 1537002063, 1747873779, 1955562222, 2024104815, 2227730452, 2361852424, 2428436474, 2756734187, 3204031479, 3329325298]
/-- The table lies where start-up laid it. -/
def Tab (w : World) : Prop := 2 < w.heap.size ∧ At w .u32 2 0 KK
theorem Tab.below {w w' : World} {B : Nat} (h : Tab w) (hb : Below B w w') (hB : 2 < B) : Tab w' := ⟨Nat.lt_of_lt_of_le h.1 hb.size, h.2.below hb hB⟩
theorem length_KK : KK.length = 64 := by decide

def stCells (s : Sh.S) : Array Value := #[.int .u32 s.a, .int .u32 s.b, .int .u32 s.c, .int .u32 s.d, .int .u32 s.e, .int .u32 s.f, .int .u32 s.g, .int .u32 s.h]

def z8 : Sh.S := ⟨0, 0, 0, 0, 0, 0, 0, 0⟩
theorem run_index_arr (l : List Int) (j : Nat) (hl : l.length = 64) (hj : j < 64) (w : World) : (Instr.index 112 (.agg (l.map (Value.int .u32)).toArray) (.int .i64 (j : Int))).run Tryd.prog w = .ok (.int .u32 (l.getD j 0)) w := by
  have h1 := run_underlying (P := Tryd.prog) Tryd.underlying112
  have h2 := Tryd.sizeOf61
  have h3 := Tryd.isAgg61
  have e : (l.map (Value.int .u32)).toArray[j]? = some (.int .u32 (l.getD j 0)) := by simp [hl, hj]
  simp [Instr.index, asIntOf, h1, h2, h3, part, hj, hl]

theorem oneCells (l : List Int) (k : IntKind) : ((l.map (Value.int k)).toArray).all (·.oneCell') = true :=
  Array.all_eq_true_iff_forall_mem.2 fun x hx => by
    simp only [List.mem_toArray, List.mem_map] at hx
    obtain ⟨y, _, rfl⟩ := hx; rfl

theorem cells_of_st {w : World} {g : Nat} {s : Sh.S} {t : TypeId} (h : w.heap[g]? = some (.cells (stCells s) t (0, 0))) :
    w.cell? ⟨g, 0, none⟩ = some (.int .u32 s.a) ∧ w.cell? ⟨g, 1, none⟩ = some (.int .u32 s.b) ∧ w.cell? ⟨g, 2, none⟩ = some (.int .u32 s.c) ∧ w.cell? ⟨g, 3, none⟩ = some (.int .u32 s.d) ∧
    w.cell? ⟨g, 4, none⟩ = some (.int .u32 s.e) ∧ w.cell? ⟨g, 5, none⟩ = some (.int .u32 s.f) ∧ w.cell? ⟨g, 6, none⟩ = some (.int .u32 s.g) ∧ w.cell? ⟨g, 7, none⟩ = some (.int .u32 s.h) := by
  refine ⟨?_, ?_, ?_, ?_, ?_, ?_, ?_, ?_⟩ <;> rw [cell_of_row w g _ _ t (0, 0) h] <;> rfl

theorem after_facts {w w1 w2 : World} {A B : Array Value} {O : Obj} {cs zs : Array Value} (hA : Below ((w.alloc (.cells A 101)).alloc (.cells B 101)).heap.size ((w.alloc (.cells A 101)).alloc (.cells B 101)) w1)
    (hO : O = .cells zs 112) (h : (w1.alloc O).setRow w1.heap.size cs = w2) :
    w2.heap[w.heap.size]? = some (.cells A 101 (0, 0)) ∧ w2.heap[w.heap.size + 1]? = some (.cells B 101 (0, 0)) ∧ w2.heap[w1.heap.size]? = some (.cells cs 112 (0, 0)) ∧ Below w.heap.size w w2 ∧ w.heap.size + 2 ≤ w1.heap.size := by
  subst hO
  have hz := hA.size
  simp at hz
  subst h
  have hlt : ∀ g, g < w.heap.size + 2 → ((w1.alloc (.cells zs 112)).setRow w1.heap.size cs).heap[g]? = ((w.alloc (.cells A 101)).alloc (.cells B 101)).heap[g]? := by
    intro g hg
    rw [setRow_other _ _ _ _ (by omega), Below.heap_alloc _ _ _ (by omega)]
    exact hA.block g (by simp; omega)
  refine ⟨?_, ?_, ?_, ?_, hz⟩
  · rw [hlt _ (by omega)]; exact heap_alloc2_old w _ _
  · rw [hlt _ (by omega)]; exact heap_alloc2_new w _ _
  · exact setRow_heap _ _ _ _ 112 _ (heap_alloc_new w1 _)
  · exact below_setRow (((((Below.refl _ _).alloc (Nat.le_refl _) _).alloc (by simp) _).trans (hA.mono (by simp; omega))).alloc (by omega) _) (by omega) _

set_option maxRecDepth 100000 in
set_option maxHeartbeats 1600000 in
theorem after_any (b off cap : Nat) (w : World) (s : Sh.S) (p : List Int) (hs : s.ok) (hp : p.length = 64) (hw8 : ∀ x ∈ p, Sh.W8 x) (ha : At w .u8 b off p) (hb : b < w.heap.size) (ht : Tab w) :
    Calls Tryd.prog 88 #[.agg (stCells s), .slice (some ⟨b, off, none⟩) 64 cap] w fun e w' => e = .returned (.agg (stCells (Sh.after KK s p))) ∧ Below w.heap.size w w' := by
  have hlen := Sh.length_sched p
  have hB0 := ht.1
  have hst := @after_facts
  unfold stCells
  go_enter Tryd.func88, Tryd.ntmps88
  go_wp2_with fail
  refine (sched_any b off cap _ p hp hw8 ?_ (by simp; omega)).mono ?_
  · exact ha.below (B := w.heap.size) (((Below.refl _ _).alloc (Nat.le_refl _) _).alloc (by simp) _) hb
  rintro e w1 ⟨rfl, hb1⟩
  have h64 : (Tryd.prog.info? 112).map (·.size) = some 64 := by kernel_rfl
  have hsz : ((Sh.sched p).map (Value.int .u32)).toArray.size = 64 := by simp only [List.size_toArray, List.length_map, hlen]
  have HL := Lib.hid hsz
  have HB := Lib.hid hb1
  clear hlen hsz hb1 hst
  dsimp only
  go_step
  go_wp2_with ((with_reducible refine wpList_store_row (o := ⟨none, _, _, _, _, _⟩) rfl 112 (.tmp 5) (.tmp 21) rfl w1.heap.size _ rfl rfl 112 _ (heap_alloc_new w1 _) ?_ ?_ ?_ ?_); exact h64.trans (congrArg some HL.out.symm); exact Eq.trans rfl HL.out.symm; exact oneCells _ _; generalize hw2 : (World.setRow _ _ _) = w2; have HW := Lib.hid hw2; clear hw2)
  have hf := after_facts HB.out rfl HW.out
  clear HW
  obtain ⟨f1, f2, f3, f4, f5⟩ := hf
  obtain ⟨c0, c1, c2, c3, c4, c5, c6, c7⟩ := cells_of_st (s := s) f1
  have hTab : Tab w2 := ht.below f4 hB0
  clear HB ha
  go_quiet (fail)
  obtain ⟨w3, hw3⟩ : ∃ w3, w3 = w2.drewN nq := ⟨_, rfl⟩
  have g1 : w3.heap[w.heap.size]? = some (.cells (stCells s) 101 (0, 0)) := by rw [hw3]; exact f1
  have g2 : w3.heap[w.heap.size + 1]? = some (.cells (stCells z8) 101 (0, 0)) := by rw [hw3]; exact f2
  have g3 : w3.heap[w1.heap.size]? = some (.cells ((Sh.sched p).map (Value.int .u32)).toArray 112 (0, 0)) := by rw [hw3]; exact f3
  have g4 : Below w.heap.size w w3 := by rw [hw3]; exact below_drewN f4 _
  have hTab3 : Tab w3 := by rw [hw3]; exact hTab
  rw [← hw3]
  clear hw3 f1 f2 f3 f4 hTab c0 c1 c2 c3 c4 c5 c6 c7
  have G1 := Lib.hid g1
  have G2 := Lib.hid g2
  clear g1 g2
  go_wp2_with ((with_reducible refine wpList_load_row (o := ⟨some 38, _, _, _, _, _⟩) rfl 112 (.tmp 5) rfl w1.heap.size rfl 112 _ (0, 0) _ g3 Tryd.underlying112 rfl ?_ ?_); exact h64.trans (congrArg some HL.out.symm))
  go_loop [6, 7, 8, 9, 10, 11, 12, 13, 39] (fun a b c d e f g h i => ∃ k : Nat, k ≤ 64 ∧ i = .int .i64 k ∧ a = .int .u32 (Sh.rounds KK (Sh.sched p) s k).a ∧ b = .int .u32 (Sh.rounds KK (Sh.sched p) s k).b ∧ c = .int .u32 (Sh.rounds KK (Sh.sched p) s k).c ∧ d = .int .u32 (Sh.rounds KK (Sh.sched p) s k).d ∧ e = .int .u32 (Sh.rounds KK (Sh.sched p) s k).e ∧ f = .int .u32 (Sh.rounds KK (Sh.sched p) s k).f ∧ g = .int .u32 (Sh.rounds KK (Sh.sched p) s k).g ∧ h = .int .u32 (Sh.rounds KK (Sh.sched p) s k).h) (fun _ _ _ _ _ _ _ _ i => 64 - (intOf i).toNat)
  case atStart => exact ⟨0, by omega, rfl, rfl, rfl, rfl, rfl, rfl, rfl, rfl, rfl⟩
  case round =>
    obtain ⟨k, hk, rfl, rfl, rfl, rfl, rfl, rfl, rfl, rfl, rfl⟩ := hrel
    have hok := Sh.rounds_ok KK (Sh.sched p) s hs k
    by_cases hlt : k < 64
    · have hix := fun w => run_index_arr (Sh.sched p) k (Sh.length_sched p) hlt w
      have htab : w3.cell? ⟨2, 0 + k, none⟩ = some (.int .u32 (KK.getD k 0)) := hTab3.2 k (by rw [length_KK]; exact hlt)
      rw [Nat.zero_add] at htab
      have hstep : Sh.rounds KK (Sh.sched p) s (k + 1) = Sh.step (Sh.rounds KK (Sh.sched p) s k) (KK.getD k 0) ((Sh.sched p).getD k 0) := rfl
      have HS := Lib.hid hstep
      clear hstep
      generalize Sh.rounds KK (Sh.sched p) s k = r at *
      generalize KK.getD k 0 = kk at *
      generalize (Sh.sched p).getD k 0 = ww at *
      obtain ⟨ha, -, -, -, he, -, -, -⟩ := hok
      clear g3 hTab3 ht h64 HL hw8 hs G1 G2 g4
      go_wp2_with (first | (go_at_call_of 90 (Value.int IntKind.i64 6); refine (turn_lit _ 6 _ he 6 rfl (by decide) (by decide)).mono ?_; rintro e w' ⟨rfl, rfl⟩) | (go_at_call_of 90 (Value.int IntKind.i64 11); refine (turn_lit _ 11 _ he 11 rfl (by decide) (by decide)).mono ?_; rintro e w' ⟨rfl, rfl⟩) | (go_at_call_of 90 (Value.int IntKind.i64 25); refine (turn_lit _ 25 _ he 25 rfl (by decide) (by decide)).mono ?_; rintro e w' ⟨rfl, rfl⟩) | (go_at_call_of 90 (Value.int IntKind.i64 2); refine (turn_lit _ 2 _ ha 2 rfl (by decide) (by decide)).mono ?_; rintro e w' ⟨rfl, rfl⟩) | (go_at_call_of 90 (Value.int IntKind.i64 13); refine (turn_lit _ 13 _ ha 13 rfl (by decide) (by decide)).mono ?_; rintro e w' ⟨rfl, rfl⟩) | (go_at_call_of 90 (Value.int IntKind.i64 22); refine (turn_lit _ 22 _ ha 22 rfl (by decide) (by decide)).mono ?_; rintro e w' ⟨rfl, rfl⟩))
      go_round
      case rel =>
        refine ⟨k + 1, by omega, by go_num, ?_, ?_, ?_, ?_, ?_, ?_, ?_, ?_⟩ <;> rw [HS.out]
        · refine congrArg _ ?_
          simp only [Sh.step, Sh.t1, Sh.t2, Sh.ad_eq, Sh.xr, Sh.an, Sh.nt, show (if IntKind.u32.signed = true then (-1 : Int) else IntKind.u32.max) = IntKind.u32.max from rfl]
          omega
        all_goals first | rfl | skip
        · refine congrArg _ ?_
          simp only [Sh.step, Sh.t1, Sh.ad_eq, Sh.xr, Sh.an, Sh.nt, show (if IntKind.u32.signed = true then (-1 : Int) else IntKind.u32.max) = IntKind.u32.max from rfl]
          omega
      case measure => simp [intOf]; omega
    · have hk64 : ((k : Nat) : Int) = 64 := by omega
      obtain rfl : k = 64 := by omega
      obtain ⟨c0, c1, c2, c3, c4, c5, c6, c7⟩ := cells_of_st (s := s) G1.out
      have ha : Sh.after KK s p = Sh.plus s (Sh.rounds KK (Sh.sched p) s 64) := rfl
      have HA := Lib.hid ha
      have h8 : (Tryd.prog.info? 101).map (·.size) = some 8 := by kernel_rfl
      clear ha g3 hTab3 ht h64 HL hw8 hs hok
      generalize Sh.rounds KK (Sh.sched p) s 64 = r at *
      go_wp2_with (with_reducible refine wpList_store_row (o := ⟨none, _, _, _, _, _⟩) rfl 101 (.tmp 4) (.tmp 135) rfl (w.heap.size + 1) _ rfl rfl 101 _ G2.out ?_ ?_ ?_ ?_)
      · rfl
      · exact ⟨rfl, rfl, rfl, rfl, rfl, rfl, rfl, rfl⟩
      · have hcells := setRow_heap w3 (w.heap.size + 1) _ (stCells (Sh.after KK s p)) 101 _ G2.out
        have hv : stCells (Sh.after KK s p) = #[.int .u32 ((s.a + r.a) % 4294967296), .int .u32 ((s.b + r.b) % 4294967296), .int .u32 ((s.c + r.c) % 4294967296), .int .u32 ((s.d + r.d) % 4294967296), .int .u32 ((s.e + r.e) % 4294967296), .int .u32 ((s.f + r.f) % 4294967296), .int .u32 ((s.g + r.g) % 4294967296), .int .u32 ((s.h + r.h) % 4294967296)] := by
          rw [HA.out]
          simp only [stCells, Sh.plus, Sh.ad_eq]
        rw [hv] at hcells
        change bodyPost Tryd.prog Tryd.f88 (fun e w' => e = Ending.returned (Value.agg (stCells (Sh.after KK s p))) ∧ Below w.heap.size w w') Exit.ret _ _
        rw [hv]
        exact bodyPost_ret (results_cell_row Tryd.results88 _ _ (w.heap.size + 1) 101 _ (0, 0) _ rfl hcells Tryd.underlying101 rfl h8) rfl ⟨rfl, below_setRow g4 (by omega) _⟩
end Go.Proofs.YtiinmdleechcgaaDoor.Sha
namespace Go.Proofs.YtiinmdleechcgaaDoor.Sha
open Go.RowKit

/-- A digest's 74 cells: the state, the bytes that are held, how many these are, how many bytes in all. -/
def dg (s : Sh.S) (r : List Int) (h c : Int) : List Value := (stCells s).toList ++ (r.map (Value.int .u8) ++ [.int .i64 h, .int .u64 c])
def Dig (w : World) (g : Nat) (s : Sh.S) (r : List Int) (h c : Int) : Prop := r.length = 64 ∧ w.heap[g]? = some (.cells (dg s r h c).toArray 105 (0, 0))

theorem dg_length (s : Sh.S) (r : List Int) (h c : Int) (hr : r.length = 64) : (dg s r h c).length = 74 := by simp [dg, stCells, hr]
theorem Dig.get {w : World} {g : Nat} {s : Sh.S} {r : List Int} {h c : Int} (hd : Dig w g s r h c) (j : Nat) : w.cell? ⟨g, j, none⟩ = (dg s r h c)[j]? := by
  rw [cell_of_row w g j _ 105 (0, 0) hd.2]; simp
theorem Dig.free {w : World} {g : Nat} {s : Sh.S} {r : List Int} {h c : Int} (hd : Dig w g s r h c) (j : Nat) : w.frozen? ⟨g, j, none⟩ = false := frozen_of_row w g j _ 105 hd.2
theorem Dig.st {w : World} {g : Nat} {s : Sh.S} {r : List Int} {h c : Int} (hd : Dig w g s r h c) :
    w.cell? ⟨g, 0, none⟩ = some (.int .u32 s.a) ∧ w.cell? ⟨g, 1, none⟩ = some (.int .u32 s.b) ∧ w.cell? ⟨g, 2, none⟩ = some (.int .u32 s.c) ∧ w.cell? ⟨g, 3, none⟩ = some (.int .u32 s.d) ∧
    w.cell? ⟨g, 4, none⟩ = some (.int .u32 s.e) ∧ w.cell? ⟨g, 5, none⟩ = some (.int .u32 s.f) ∧ w.cell? ⟨g, 6, none⟩ = some (.int .u32 s.g) ∧ w.cell? ⟨g, 7, none⟩ = some (.int .u32 s.h) := by
  refine ⟨?_, ?_, ?_, ?_, ?_, ?_, ?_, ?_⟩ <;> rw [hd.get] <;> simp [dg, stCells]
theorem Dig.held {w : World} {g : Nat} {s : Sh.S} {r : List Int} {h c : Int} (hd : Dig w g s r h c) : w.cell? ⟨g, 72, none⟩ = some (.int .i64 h) := by
  rw [hd.get]; simp [dg, stCells, hd.1]
theorem Dig.count {w : World} {g : Nat} {s : Sh.S} {r : List Int} {h c : Int} (hd : Dig w g s r h c) : w.cell? ⟨g, 73, none⟩ = some (.int .u64 c) := by
  rw [hd.get]; simp [dg, stCells, hd.1]
theorem Dig.rest {w : World} {g : Nat} {s : Sh.S} {r : List Int} {h c : Int} (hd : Dig w g s r h c) : At w .u8 g 8 r := by
  intro j hj
  rw [hd.get]
  have e : (dg s r h c)[8 + j]? = (r.map (Value.int .u8) ++ [.int .i64 h, .int .u64 c])[j]? := by
    unfold dg
    rw [List.getElem?_append_right (by simp [stCells])]
    simp [stCells]
  rw [e, List.getElem?_append_left (by simpa using hj)]
  simp [hj]
theorem Dig.setHeld {w : World} {g : Nat} {s : Sh.S} {r : List Int} {h c : Int} (hd : Dig w g s r h c) (x : Int) : Dig (w.setCell ⟨g, 72, none⟩ (.int .i64 x)) g s r x c := by
  refine ⟨hd.1, ?_⟩
  rw [heap_setCell_same w g 72 _ 105 _ hd.2]
  have : (dg s r h c).set 72 (.int .i64 x) = dg s r x c := by
    unfold dg
    rw [List.set_append_right _ _ (by simp [stCells]), List.set_append_right _ _ (by simp [stCells, hd.1])]
    simp [stCells, hd.1]
  rw [← this]; simp
theorem Dig.setCount {w : World} {g : Nat} {s : Sh.S} {r : List Int} {h c : Int} (hd : Dig w g s r h c) (x : Int) : Dig (w.setCell ⟨g, 73, none⟩ (.int .u64 x)) g s r h x := by
  refine ⟨hd.1, ?_⟩
  rw [heap_setCell_same w g 73 _ 105 _ hd.2]
  have : (dg s r h c).set 73 (.int .u64 x) = dg s r h x := by
    unfold dg
    rw [List.set_append_right _ _ (by simp [stCells]), List.set_append_right _ _ (by simp [stCells, hd.1])]
    simp [stCells, hd.1]
  rw [← this]; simp
theorem Dig.spliced {w : World} {g : Nat} {s : Sh.S} {r : List Int} {h c : Int} (hd : Dig w g s r h c) (o : Nat) (x : List Int) (hx : o + x.length ≤ 64) (w' : World)
    (hw : w'.heap[g]? = some (.cells (Go.splice (dg s r h c) (8 + o) (x.map (Value.int .u8))).toArray 105 (0, 0))) : Dig w' g s (Go.splice r o x) h c := by
  refine ⟨by rw [length_splice _ _ _ (by rw [hd.1]; exact hx)]; exact hd.1, ?_⟩
  rw [hw]
  have : Go.splice (dg s r h c) (8 + o) (x.map (Value.int .u8)) = dg s (Go.splice r o x) h c := by
    have hr := hd.1
    unfold dg Go.splice
    have e8 : (stCells s).toList.length = 8 := by simp [stCells]
    rw [List.take_append, List.drop_append, e8]
    simp only [List.length_map]
    rw [List.take_of_length_le (by rw [e8]; omega), show 8 + o - 8 = o by omega, List.take_append_of_le_length (by simp [hr]; omega), List.drop_eq_nil_of_le (by rw [e8]; omega), show 8 + o + x.length - 8 = o + x.length by omega, List.drop_append_of_le_length (by simp [hr]; omega)]
    simp
  rw [this]
theorem splice_cons (L : List Value) (o : Nat) (v : Value) (r : List Value) (h : o < L.length) : Go.splice (L.set o v) (o + 1) r = Go.splice L o (v :: r) := by
  unfold Go.splice
  rw [List.take_succ_eq_append_getElem (by simpa using h), List.take_set_of_le (Nat.le_refl _)]
  simp only [List.getElem_set_self, List.append_assoc, List.length_cons, List.cons_append, List.nil_append]
  rw [List.drop_set_of_lt (by omega), show o + 1 + r.length = o + (r.length + 1) by omega]
theorem heap_setCells (g : Nat) (t : TypeId) : ∀ (vs : List Value) (o : Nat) (w : World) (L : List Value), w.heap[g]? = some (.cells L.toArray t (0, 0)) → o + vs.length ≤ L.length →
    (w.setCells g o vs).heap[g]? = some (.cells (Go.splice L o vs).toArray t (0, 0))
  | [], o, w, L, h, _ => by
    rw [World.setCells, h]; simp [Go.splice]
  | v :: r, o, w, L, h, hl => by
    simp only [List.length_cons] at hl
    rw [World.setCells]
    have h1 : (w.setCell ⟨g, o, none⟩ v).heap[g]? = some (.cells (L.set o v).toArray t (0, 0)) := by
      rw [heap_setCell_same w g o _ t _ h]; simp
    rw [heap_setCells g t r (o + 1) _ (L.set o v) h1 (by simp; omega), splice_cons L o v r (by omega)]
theorem Dig.setState {w : World} {g : Nat} {s : Sh.S} {r : List Int} {h c : Int} (hd : Dig w g s r h c) (s' : Sh.S) : Dig (w.setCells g 0 (stCells s').toList) g s' r h c := by
  refine ⟨hd.1, ?_⟩
  rw [heap_setCells g 105 _ 0 w _ hd.2 (by rw [dg_length s r h c hd.1]; simp [stCells])]
  have : Go.splice (dg s r h c) 0 (stCells s').toList = dg s' r h c := by simp [Go.splice, dg, stCells]
  rw [this]
theorem setCells_other (g : Nat) : ∀ (vs : List Value) (o : Nat) (w : World) (k : Nat), k ≠ g → (w.setCells g o vs).heap[k]? = w.heap[k]?
  | [], _, _, _, _ => rfl
  | v :: r, o, w, k, h => by
    rw [World.setCells, setCells_other g r (o + 1) _ k h, heap_setCell_other w ⟨g, o, none⟩ k v h]
theorem setCells_rest (g : Nat) : ∀ (vs : List Value) (o : Nat) (w : World), (w.setCells g o vs).os = w.os ∧ (w.setCells g o vs).tape = w.tape ∧ (w.setCells g o vs).output = w.output ∧ (w.setCells g o vs).heap.size = w.heap.size
  | [], _, _ => ⟨rfl, rfl, rfl, rfl⟩
  | v :: r, o, w => by
    rw [World.setCells]
    obtain ⟨a, b, c, d⟩ := setCells_rest g r (o + 1) (w.setCell ⟨g, o, none⟩ v)
    exact ⟨a, b, c, d.trans (by simp [World.setCell])⟩

/-- Behind a call nothing has turned but block g, and new ones. -/
def Only (g : Nat) (w w' : World) : Prop := w.grownBy w' (some g)
theorem Only.refl (g : Nat) (w : World) : Only g w w := ⟨rfl, rfl, rfl, Nat.le_refl _, fun _ _ _ => rfl⟩
theorem Only.trans {g : Nat} {a b c : World} (h : Only g a b) (k : Only g b c) : Only g a c :=
  ⟨k.os.trans h.os, k.tape.trans h.tape, k.output.trans h.output, Nat.le_trans h.size k.size, fun i hi hn => (k.block i (Nat.lt_of_lt_of_le hi h.size) hn).trans (h.block i hi hn)⟩
theorem Only.below {g : Nat} {a b : World} (h : Below a.heap.size a b) : Only g a b := ⟨h.os, h.tape, h.output, h.size, fun k hk _ => h.block k hk⟩
theorem Only.setCell {g : Nat} (w : World) (j : Nat) (v : Value) : Only g w (w.setCell ⟨g, j, none⟩ v) :=
  ⟨rfl, rfl, rfl, by simp [World.setCell], fun k _ hn => heap_setCell_other w ⟨g, j, none⟩ k v (fun e => hn (by rw [e]))⟩
theorem Only.setCells {g : Nat} (w : World) (o : Nat) (vs : List Value) : Only g w (w.setCells g o vs) := by
  obtain ⟨a, b, c, d⟩ := setCells_rest g vs o w
  exact ⟨a, b, c, by omega, fun k _ hn => setCells_other g vs o w k (fun e => hn (by rw [e]))⟩
theorem Only.drewN {g : Nat} {a b : World} (h : Only g a b) (n : Nat) : Only g a (b.drewN n) := ⟨h.os, h.tape, h.output, h.size, h.block⟩
theorem Only.undrew {g : Nat} {a b : World} (h : Only g a.drew b) : Only g a b := ⟨h.os, h.tape, h.output, h.size, h.block⟩
theorem Only.undrewN {g n : Nat} {a b : World} (h : Only g (a.drewN n) b) : Only g a b := ⟨h.os, h.tape, h.output, h.size, h.block⟩
theorem Only.at {g : Nat} {w w' : World} (h : Only g w w') {k : IntKind} {b off : Nat} {l : List Int} (ha : At w k b off l) (hb : b < w.heap.size) (hg : b ≠ g) : At w' k b off l :=
  fun j hj => (World.cell?_of_block (a := ⟨b, off + j, none⟩) (h.block b hb (fun e => hg (by cases e; rfl)))).trans (ha j hj)
theorem Only.tab {g : Nat} {w w' : World} (h : Only g w w') (ht : Tab w) (hg : g ≠ 2) : Tab w' := ⟨Nat.lt_of_lt_of_le ht.1 h.size, h.at ht.2 ht.1 (Ne.symm hg)⟩

theorem Dig.there {w : World} {g : Nat} {s : Sh.S} {r : List Int} {h c : Int} (hd : Dig w g s r h c) : w.there g 0 8 := by
  intro j hj
  rw [hd.get]
  refine ⟨?_, hd.free _⟩
  have := dg_length s r h c hd.1
  rw [Nat.zero_add, List.getElem?_eq_getElem (by omega)]; rfl
theorem Dig.other {w w' : World} {g : Nat} {s : Sh.S} {r : List Int} {h c : Int} (hd : Dig w g s r h c) (hb : w'.heap[g]? = w.heap[g]?) : Dig w' g s r h c := ⟨hd.1, hb.trans hd.2⟩


/-! ### What has been taken in -/
namespace Sh
def H0 : S := ⟨1779033703, 3144134277, 1013904242, 2773480762, 1359893119, 2600822924, 528734635, 1541459225⟩
/-- The state behind n blocks. -/
def blocks : Nat → S → List Int → S
  | 0, s, _ => s
  | n + 1, s, l => after KK (blocks n s l) ((l.drop (64 * n)).take 64)
def stOf (l : List Int) : S := blocks (l.length / 64) H0 l
theorem blocks_ok (n : Nat) (s : S) (l : List Int) (h : s.ok) : (blocks n s l).ok := by
  cases n with
  | zero => exact h
  | succ n => exact plus_ok _ _
theorem blocks_append (n : Nat) (s : S) (l m : List Int) (h : 64 * n ≤ l.length) : blocks n s (l ++ m) = blocks n s l := by
  induction n with
  | zero => rfl
  | succ n ih =>
    simp only [blocks]
    rw [ih (by omega), List.drop_append_of_le_length (by omega), List.take_append_of_le_length (by simp; omega)]
theorem H0_ok : H0.ok := by unfold S.ok W32 H0; decide
end Sh

/-- A digest stands for the bytes that it has taken in. -/
structure Rep (w : World) (g : Nat) (l : List Int) : Prop where
  bytes : ∀ x ∈ l, Sh.W8 x
  dig : ∃ r, Dig w g (Sh.stOf l) r ((l.length % 64 : Nat) : Int) ((l.length : Nat) : Int) ∧ (∀ x ∈ r, Sh.W8 x) ∧ r.take (l.length % 64) = l.drop (64 * (l.length / 64))
end Go.Proofs.YtiinmdleechcgaaDoor.Sha
namespace Go.Proofs.YtiinmdleechcgaaDoor.Sha
open Go.RowKit

theorem sub_bytes {P : List Int} (h : ∀ x ∈ P, Sh.W8 x) (n m : Nat) : ∀ x ∈ (P.drop n).take m, Sh.W8 x := fun x hx => h x (List.mem_of_mem_drop (List.mem_of_mem_take hx))
theorem At.sub {w : World} {k : IntKind} {b off : Nat} {P : List Int} (h : At w k b off P) (n m : Nat) (hm : n + m ≤ P.length) : At w k b (off + n) ((P.drop n).take m) := by
  intro j hj
  simp only [List.length_take, List.length_drop] at hj
  have := h (n + j) (by omega)
  rw [Nat.add_assoc, this]
  simp [show j < m by omega]
theorem st_one (s : Sh.S) : (stCells s).all (·.oneCell') = true := by simp [stCells, Value.oneCell']
theorem st_size (s : Sh.S) : (stCells s).size = 8 := rfl
/-- A state is laid into a digest. -/
theorem run_store_st {w : World} {g : Nat} {s s' : Sh.S} {r : List Int} {h c : Int} (hd : Dig w g s r h c) :
    (storeCells ⟨g, 0, none⟩ (stCells s').toList).run Tryd.prog w = .ok () (w.setCells g 0 (stCells s').toList) := by
  have ht := hd.there
  have := run_storeCells_cells (P := Tryd.prog) g 0 (stCells s').toList 0 w (fun j hj => by simpa using (ht j (by simpa [stCells] using hj)).1) (fun j hj => by simpa using (ht j (by simpa [stCells] using hj)).2) (fun v hv => (Array.all_eq_true_iff_forall_mem.1 (st_one s')) v (by simpa using hv))
  simpa using this
theorem i5 : (Tryd.prog.info? 5).map (·.size) = some 1 := by kernel_rfl
theorem h8 : (Tryd.prog.info? 101).map (·.size) = some 8 := by kernel_rfl

/-- What is left behind whole blocks of P, taken in by a digest in state s with nothing held. -/
def Tail (g : Nat) (s : Sh.S) (r P : List Int) (c : Int) (w w' : World) : Prop :=
  Dig w' g (Sh.blocks (P.length / 64) s P) (Go.splice r 0 (P.drop (64 * (P.length / 64)))) ((P.length % 64 : Nat) : Int) c ∧ Only g w w'

theorem Only.setRow {g : Nat} (w : World) (cs : Array Value) : Only g w (w.setRow g cs) :=
  ⟨rfl, rfl, rfl, by simp, fun k _ hn => setRow_other w g k cs (fun e => hn (by rw [e]))⟩

/-- Bytes are copied to the head of the room. -/
theorem Dig.copied {w : World} {g : Nat} {s : Sh.S} {r : List Int} {h c : Int} (hd : Dig w g s r h c) (o : Nat) (x : List Int) (hx : o + x.length ≤ 64) :
    Dig (w.setRow g ((dg s r h c).toArray.toList.take (8 + o) ++ (x.map (Value.int .u8) ++ (dg s r h c).toArray.toList.drop (8 + o + (x.map (Value.int .u8)).length))).toArray) g s (Go.splice r o x) h c :=
  hd.spliced o x hx _ (setRow_heap w g _ _ 105 _ hd.2)

set_option maxRecDepth 100000 in
set_option maxHeartbeats 2000000 in
theorem take_loop_probe (g b off cap : Nat) (w : World) (s : Sh.S) (r P : List Int) (c : Int) (hs : s.ok) (hd : Dig w g s r 0 c) (hP : P.length ≤ 72057594037927936) (hw8 : ∀ x ∈ P, Sh.W8 x) (a : Option Addr) (hcap : P.length ≤ cap) (ha : P = [] ∨ a = some ⟨b, off, none⟩ ∧ b < w.heap.size ∧ b ≠ g ∧ At w .u8 b off P) (ht : Tab w) (hg : g ≠ 2) (hgs : g < w.heap.size)
    (hc0 : 0 ≤ c) (hc1 : c ≤ 72057594037927936) (c' : Int) (hcc : c + (P.length : Int) = c') :
    Calls Tryd.prog 85 #[.pointer (some ⟨g, 0, none⟩), .slice a P.length cap] w fun e w' => e = .returned (.tuple #[]) ∧ Tail g s r P c' w w' := by
  have h72 := hd.held
  have h73 := hd.count
  have f73 := hd.free 73
  have hdw := hd.setCount c'
  have hon := Only.setCell (g := g) w 73 (.int .u64 c')
  have HD := Lib.hid hdw
  have HO := Lib.hid hon
  have HC := Lib.hid hcap
  have HA := Lib.hid ha
  clear hdw hon hd ha
  go_enter Tryd.func85, Tryd.ntmps85
  go_wp2_with fail
  clear h72 h73 f73
  clear hcc
  generalize hwo : w.setCell ⟨g, 73, none⟩ (.int .u64 c') = wo
  have HD' : Hid (Dig wo g s r 0 c') := by rw [← hwo]; exact HD
  have HO' : Hid (Only g w wo) := by rw [← hwo]; exact HO
  clear hwo HD HO
  go_loopw [1] (fun v wr => ∃ (k : Nat) (a : Option Addr) (cap : Nat), 64 * k ≤ P.length ∧ v = .slice a (P.length - 64 * k) cap ∧ P.length - 64 * k ≤ cap ∧ (P.length ≤ 64 * k ∨ a = some ⟨b, off + 64 * k, none⟩) ∧ Hid (Dig wr g (Sh.blocks k s P) r 0 c') ∧ Hid (Only g w wr)) (fun v _ => match v with | .slice _ n _ => n | _ => 0)
  case atStart =>
    have h0 : P.length ≤ 64 * 0 ∨ a = some ⟨b, off + 64 * 0, none⟩ := by
      rcases HA.out with h | h
      · exact Or.inl (by simp [h])
      · exact Or.inr h.1
    exact ⟨0, a, cap, by omega, rfl, HC.out, h0, HD', HO'⟩
  case round =>
    obtain ⟨k, a1, cap1, hk, rfl, hk2, hk3, D, O⟩ := hrel
    by_cases hlt : 64 ≤ P.length - 64 * k
    · obtain ⟨-, hbw, hbg, hAt⟩ : a = some ⟨b, off, none⟩ ∧ b < w.heap.size ∧ b ≠ g ∧ At w .u8 b off P := by
        rcases HA.out with h | h
        · rw [h] at hlt; simp at hlt
        · exact h
      obtain rfl : a1 = some ⟨b, off + 64 * k, none⟩ := by
        rcases hk3 with h | h
        · omega
        · exact h
      have hA1 : At wr .u8 b (off + 64 * k) ((P.drop (64 * k)).take 64) := (O.out.at hAt hbw hbg).sub (64 * k) 64 (by omega)
      have hT1 : Tab wr := O.out.tab ht hg
      have hok := Sh.blocks_ok k s P hs
      have hsz := O.out.size
      obtain ⟨c0, c1, c2, c3, c4, c5, c6, c7⟩ := D.out.st
      have hb8 := sub_bytes hw8 (64 * k) 64
      have hl64 : ((P.drop (64 * k)).take 64).length = 64 := by simp; omega
      have hafter := fun (cp : Nat) => after_any b (off + 64 * k) cp wr.drew (Sh.blocks k s P) ((P.drop (64 * k)).take 64) hok hl64 hb8 hA1 (show b < wr.heap.size by omega) hT1
      have HF := Lib.hid hafter
      have hgr : g < wr.heap.size := by omega
      clear hafter hA1 hb8 hl64 hAt hk3 hok hT1 ht HA HC
      have hst1 : Sh.blocks (k + 1) s P = Sh.after KK (Sh.blocks k s P) ((P.drop (64 * k)).take 64) := rfl
      have HST := Lib.hid hst1
      clear hst1
      generalize Sh.blocks k s P = st at *
      clear hw8 hs
      have hs8 := st_size
      go_wp2_with fail
      go_region_with ((go_at_call 88; refine (HF.out _).mono ?_; rintro e w1 ⟨rfl, hb1⟩; have hst := fun s' => run_store_st (s' := s') (D.out.other (hb1.block g hgr)); have HB1 := Lib.hid hb1; clear hb1))
      all_goals
        clear c0 c1 c2 c3 c4 c5 c6 c7 HF hs8
        have hfin : Hid (Dig (w1.setCells g 0 (stCells (Sh.after KK st ((P.drop (64 * k)).take 64))).toList) g (Sh.after KK st ((P.drop (64 * k)).take 64)) r 0 c' ∧ Only g w (w1.setCells g 0 (stCells (Sh.after KK st ((P.drop (64 * k)).take 64))).toList)) :=
          ⟨(D.out.other (HB1.out.block g hgr)).setState _, (O.out.trans (Only.below HB1.out).undrew).trans (Only.setCells _ _ _)⟩
        clear D O HB1
        generalize w1.setCells g 0 (stCells (Sh.after KK st ((P.drop (64 * k)).take 64))).toList = w2 at *
        by_cases hc64 : cap1 = 64
        · subst hc64
          go_wp2
          go_roundw
          case rel => exact ⟨k + 1, _, _, by omega, by rw [show P.length - 64 * (k + 1) = 0 by omega], by omega, Or.inl (by omega), by rw [← HST.out] at hfin; exact hfin.out.1, hfin.out.2⟩
          case measure => simp; omega
        · go_wp2
          go_roundw
          case rel => exact ⟨k + 1, _, _, by omega, by rw [show P.length - 64 * (k + 1) = P.length - 64 * k - 64 by omega], by omega, Or.inr (by rw [show off + 64 * (k + 1) = off + 64 * k + 64 by omega]), by rw [← HST.out] at hfin; exact hfin.out.1, hfin.out.2⟩
          case measure => simp; omega
    · obtain ⟨m, hm⟩ : ∃ m, m = P.length - 64 * k := ⟨_, rfl⟩
      have hk1 : k = P.length / 64 := by omega
      have hm1 : m = P.length % 64 := by omega
      have hql : (P.drop (64 * k)).length = m := by simp; omega
      by_cases hm0 : m = 0
      · have hfin : Hid (Tail g s r P c' w (wr.setCell ⟨g, 72, none⟩ (.int .i64 0))) := by
          refine ⟨?_, O.out.trans (Only.setCell _ _ _)⟩
          have := D.out.setHeld 0
          rw [← hk1, ← hm1, hm0, List.eq_nil_of_length_eq_zero (hql.trans hm0)]
          simpa [Go.splice] using this
        have h72 := D.out.held
        have f72 := D.out.free 72
        have hz : P.length - 64 * k = 0 := by omega
        clear HA HC HD' HO' D O ht hm hk1 hm1 hql hm0
        have hlt' : P.length - 64 * k < 64 := by omega
        clear hlt
        go_wp2_with ((with_reducible refine wpList_copy_nothing (o := ⟨some 79, _, _, _, _, _⟩) rfl (.tmp 77) (.tmp 78) 22 22 rfl 5 Tryd.underlying22 ?_ _ _ _ _ _ _ rfl rfl ?_ ?_); exact i5; exact (by rw [hz]; rfl))
        go_end0
        exact ⟨rfl, hfin.out⟩
      · obtain ⟨-, hbw, hbg, hAt⟩ : a = some ⟨b, off, none⟩ ∧ b < w.heap.size ∧ b ≠ g ∧ At w .u8 b off P := by
          rcases HA.out with h | h
          · rw [h] at hm; simp at hm; omega
          · exact h
        obtain rfl : a1 = some ⟨b, off + 64 * k, none⟩ := by
          rcases hk3 with h | h
          · omega
          · exact h
        have hA1 : At wr .u8 b (off + 64 * k) (P.drop (64 * k)) := by
          have := (O.out.at hAt hbw hbg).sub (64 * k) m (by omega)
          rwa [List.take_of_length_le (by omega)] at this
        have hcop := D.out.copied 0 (P.drop (64 * k)) (by omega)
        obtain ⟨w2, hw2⟩ : ∃ w2, w2 = wr.setRow g ((dg (Sh.blocks k s P) r 0 c').toArray.toList.take (8 + 0) ++ ((P.drop (64 * k)).map (Value.int .u8) ++ (dg (Sh.blocks k s P) r 0 c').toArray.toList.drop (8 + 0 + ((P.drop (64 * k)).map (Value.int .u8)).length))).toArray := ⟨_, rfl⟩
        have hD2 : Dig w2 g (Sh.blocks k s P) (Go.splice r 0 (P.drop (64 * k))) 0 c' := by rw [hw2]; exact hcop
        have hO2 : Only g w w2 := by rw [hw2]; exact O.out.trans (Only.setRow _ _)
        have hfin : Hid (Tail g s r P c' w (w2.setCell ⟨g, 72, none⟩ (.int .i64 (m : Int)))) := by
          refine ⟨?_, hO2.trans (Only.setCell _ _ _)⟩
          have := hD2.setHeld (m : Int)
          rw [← hk1, ← hm1]
          exact this
        have h72 := hD2.held
        have f72 := hD2.free 72
        have hsrc : ∀ (j : Nat) (v : Value), ((P.drop (64 * k)).map (Value.int .u8))[j]? = some v → wr.cell? ((⟨b, off + 64 * k, none⟩ : Addr).add j) = some v := by
          intro j v hj
          rw [Addr.add_mid]
          rw [List.getElem?_map] at hj
          cases hq : (P.drop (64 * k))[j]? with
          | none => rw [hq] at hj; cases hj
          | some x =>
            rw [hq] at hj
            cases hj
            have hjl := (List.getElem?_eq_some_iff.1 hq).1
            rw [hA1 j hjl]
            simp only [List.getD_eq_getElem?_getD, hq, Option.getD_some]
        have hlen : ((P.drop (64 * k)).map (Value.int .u8)).length = m := by rw [List.length_map, hql]
        have hDp := D.out.2
        have HW := Lib.hid hw2
        have HL := Lib.hid hlen
        have hd74 := dg_length (Sh.blocks k s P) r 0 c' D.out.1
        have H74 := Lib.hid hd74
        have hmm : P.length - 64 * k = m := hm.symm
        rw [hmm]
        have hm64 : m < 64 := by omega
        have hmc : m ≤ cap1 := by omega
        have HS := Lib.hid hsrc
        have HP := Lib.hid hDp
        clear HA HC HD' HO' D O ht hm hk1 hm1 hql hA1 hcop hw2 hD2 hO2 hlen hsrc hk2 hk3 hlt hmm hk hm0 hd74 hDp
        go_wp2_with ((with_reducible refine wpList_copy_own (o := ⟨some 79, _, _, _, _, _⟩) rfl (.tmp 77) (.tmp 78) 22 22 rfl 5 Tryd.underlying22 ?_ g 8 _ _ ⟨b, off + 64 * k, none⟩ _ _ rfl rfl (dg (Sh.blocks k s P) r 0 c').toArray 105 HP.out ((P.drop (64 * k)).map (Value.int .u8)) ?_ ?_ ?_ ?_ ?_); exact i5; exact HL.out.trans (Nat.min_eq_left (Nat.le_of_lt hm64)).symm; exact HS.out; exact (by rw [HL.out, List.size_toArray, H74.out]; omega); exact (fun v hv => by simp only [List.mem_map] at hv; obtain ⟨y, _, rfl⟩ := hv; rfl); rw [HL.out]; generalize hwx : World.setRow wr g _ = wx; obtain rfl : w2 = wx := (HW.out.trans (by rw [HL.out])).trans hwx; clear hwx HW)
        go_end0
        exact ⟨rfl, hfin.out⟩
end Go.Proofs.YtiinmdleechcgaaDoor.Sha
namespace Go.Proofs.YtiinmdleechcgaaDoor.Sha
open Go.RowKit

/-- 'copy' into a row that is known whole, as one step of a region that draws its order. -/
theorem step_copy_own {P : Program} {ops : Array Oper} {o : Oper} {a : Act} {w : World} {K : Act → World → Prop} {Q : Exit → Act → World → Prop} {E : Prop} (hgd : o.guard = none) (d s : Operand) (dT sT : TypeId)
    (ho : o.op = .call { callee := .builtin .copy, args := #[d, s], argTypes := #[dT, sT] }) (elem : TypeId) (hu : P.underlying dT = some (.slice elem)) (hsz : (P.info? elem).map (·.size) = some 1)
    (g off dLen dCap : Nat) (ad : Addr) (sLen sCap : Nat) (hd : a.eval d = .slice (some ⟨g, off, none⟩) dLen dCap) (hs : a.eval s = .slice (some ad) sLen sCap)
    (cur : Array Value) (t : TypeId) (hg : w.heap[g]? = some (.cells cur t (0, 0))) (cs : List Value) (hn : cs.length = Nat.min sLen dLen)
    (hsrc : ∀ j v, cs[j]? = some v → w.cell? (ad.add j) = some v) (hfit : off + cs.length ≤ cur.size) (h1 : ∀ v ∈ cs, v.oneCell' = true)
    (h : K (a.put o.dst (goInt cs.length)) (w.setRow g (cur.toList.take off ++ (cs ++ cur.toList.drop (off + cs.length))).toArray)) :
    if Region.wanted o (yielded ops a.tmps) = true then Oper.wp P o a w K Q else E := by
  have hw : Region.wanted o (yielded ops a.tmps) = true := by simp [Region.wanted, hgd]
  rw [if_pos hw]
  have hrun := run_copy_row (P := P) w dT sT o.type elem g off dLen dCap ad sLen sCap cur t cs hu hsz hg hn hsrc hfit h1
  unfold Oper.wp
  simp [execOp, ho, resolve, invoke, builtin, hd, hs, hrun, Result.andThen]
  exact h

theorem src_of_at {w : World} {b off : Nat} {P : List Int} (h : At w .u8 b off P) : ∀ (j : Nat) (v : Value), (P.map (Value.int .u8))[j]? = some v → w.cell? ((⟨b, off, none⟩ : Addr).add j) = some v := by
  intro j v hj
  rw [Addr.add_mid]
  rw [List.getElem?_map] at hj
  cases hq : P[j]? with
  | none => rw [hq] at hj; cases hj
  | some x =>
    rw [hq] at hj
    cases hj
    have hjl := (List.getElem?_eq_some_iff.1 hq).1
    rw [h j hjl]
    simp only [List.getD_eq_getElem?_getD, hq, Option.getD_some]

/-- The room behind what is held. -/
theorem run_room (g h : Nat) (hh : h < 64) (w : World) : (Instr.sliceAt 103 (.pointer (some ⟨g, 8, none⟩)) (some (.int .i64 (h : Int))) none none).run Tryd.prog w = .ok (.slice (some ⟨g, 8 + h, none⟩) (64 - h) (64 - h)) w := by
  have hl : Tryd.prog.arrayLen 103 = 64 := by kernel_rfl
  have he : Tryd.prog.elem 103 = 5 := by kernel_rfl
  have hu : Tryd.prog.underlying 103 = some (.array (Tryd.prog.arrayLen 103) (Tryd.prog.elem 103)) := by rw [hl, he]; exact Tryd.underlying103
  rw [run_sliceAt_array_l w 103 ⟨g, 8, none⟩ hu .i64 (h : Int) (by omega) (by rw [hl]; omega), he, Tryd.sizeOf5, hl]
  simp only [Result.andThen_ok, Int.toNat_natCast, slicedAt, Nat.mul_one, Addr.add_mid]
  rw [if_neg (by omega)]

set_option maxRecDepth 100000 in
set_option maxHeartbeats 2000000 in
theorem take_some (g b off cap h : Nat) (w : World) (s : Sh.S) (r P : List Int) (c : Int) (hd : Dig w g s r h c) (h0 : 1 ≤ h) (h1 : h ≤ 63) (hP : P.length ≤ 72057594037927936) (hP0 : P ≠ []) (hsh : h + P.length < 64) (hcap : P.length ≤ cap) (hAt : At w .u8 b off P) (hbw : b < w.heap.size) (hbg : b ≠ g)
    (hc0 : 0 ≤ c) (hc1 : c ≤ 72057594037927936) (c' : Int) (hcc : c + (P.length : Int) = c') :
    Calls Tryd.prog 85 #[.pointer (some ⟨g, 0, none⟩), .slice (some ⟨b, off, none⟩) P.length cap] w fun e w' => e = .returned (.tuple #[]) ∧ Dig w' g s (Go.splice r h P) ((h + P.length : Nat) : Int) c' ∧ Only g w w' := by
  have h72 := hd.held
  have h73 := hd.count
  have f73 := hd.free 73
  have hdw := hd.setCount c'
  have hon := Only.setCell (g := g) w 73 (.int .u64 c')
  have hl0 : 0 < P.length := List.length_pos_iff.2 hP0
  have HD := Lib.hid hdw
  have HO := Lib.hid hon
  have HS := Lib.hid (src_of_at (hon.at hAt hbw hbg))
  have h72' := hdw.held
  have hroom := run_room g h (by omega)
  have hcop := hdw.copied h P (by omega)
  have hlen : (P.map (Value.int .u8)).length = P.length := List.length_map _
  have h74 := dg_length s r h c' hdw.1
  have HC := Lib.hid hcop
  have HL := Lib.hid hlen
  have H74 := Lib.hid h74
  clear hdw hon hAt hcop hlen h74
  go_enter Tryd.func85, Tryd.ntmps85
  go_wp2_with fail
  go_region_law (refine step_copy_own rfl (.tmp 27) (.tmp 28) 22 22 rfl 5 Tryd.underlying22 i5 g (8 + h) _ _ ⟨b, off, none⟩ _ _ rfl rfl (dg s r h c').toArray 105 ?_ (P.map (Value.int .u8)) ?_ ?_ ?_ ?_ ?_; exact HD.out.2; exact HL.out.trans (Nat.min_eq_left (by omega)).symm; exact HS.out; exact (by rw [HL.out, List.size_toArray, H74.out]; omega); exact (fun v hv => by simp only [List.mem_map] at hv; obtain ⟨y, _, rfl⟩ := hv; rfl); rw [HL.out])
  generalize hw2 : World.setRow (w.setCell ⟨g, 73, none⟩ (.int .u64 c')).drew g _ = w2
  have hD2 : Dig w2 g s (Go.splice r h P) (h : Int) c' := by
    rw [← hw2]
    exact ⟨HC.out.1, by have := HC.out.2; rw [HL.out] at this; exact this⟩
  have hO2 : Only g w w2 := by rw [← hw2]; exact HO.out.trans ((Only.setRow _ _).undrew)
  have hD3 := hD2.setHeld ((h : Int) + (P.length : Int))
  have h72b := hD2.held
  have f72 := hD2.free 72
  have h72c := hD3.held
  have HD3 := Lib.hid hD3
  have HO3 := Lib.hid (hO2.trans (Only.setCell w2 72 (.int .i64 ((h : Int) + (P.length : Int)))))
  clear hw2 hD2 hO2 hD3 HC HO HD HS h72' hroom h72 h73 f73 HL H74 hd
  by_cases hcp : P.length = cap
  · subst hcp
    go_wp2
    refine bodyPost_ret (results_none rfl _ _ _) rfl ?_
    exact ⟨rfl, by have := HD3.out; rw [Int.natCast_add]; exact this, HO3.out⟩
  · go_wp2
    refine bodyPost_ret (results_none rfl _ _ _) rfl ?_
    exact ⟨rfl, by have := HD3.out; rw [Int.natCast_add]; exact this, HO3.out⟩
end Go.Proofs.YtiinmdleechcgaaDoor.Sha
namespace Go.Proofs.YtiinmdleechcgaaDoor.Sha
open Go.RowKit

/-- What is left of bytes behind the first n. -/
theorem cut_at (a : Option Addr) (P : List Int) (cap n b off : Nat) (w : World) (g : Nat) (hn : n ≤ P.length) (hcap : P.length ≤ cap) (ha : a = some ⟨b, off, none⟩) (hAt : At w .u8 b off P) (hbw : b < w.heap.size) (hbg : b ≠ g) :
    ∃ (aq : Option Addr) (capq offq : Nat), (∀ w, (Instr.slice 22 (.slice a P.length cap) (some (.int .i64 (n : Int))) none none).run Tryd.prog w = .ok (.slice aq (P.drop n).length capq) w) ∧ (P.drop n).length ≤ capq ∧ (P.drop n = [] ∨ aq = some ⟨b, offq, none⟩ ∧ b < w.heap.size ∧ b ≠ g ∧ At w .u8 b offq (P.drop n)) := by
  have he : Tryd.prog.elem 22 = 5 := by kernel_rfl
  have hu : Tryd.prog.underlying 22 = some (.slice (Tryd.prog.elem 22)) := by rw [he]; exact Tryd.underlying22
  have hrun : ∀ w, (Instr.slice 22 (.slice a P.length cap) (some (.int .i64 (n : Int))) none none).run Tryd.prog w = .ok (sliced a n P.length cap 1) w := by
    intro w
    rw [run_slice_l w 22 a P.length cap hu .i64 (n : Int) (by omega) (by omega), he, Tryd.sizeOf5]
    simp only [Result.andThen_ok, Int.toNat_natCast]
  have hl : (P.drop n).length = P.length - n := List.length_drop
  by_cases hc : cap = n
  · refine ⟨a, cap - n, off, ?_, by omega, Or.inl (List.eq_nil_of_length_eq_zero (by omega))⟩
    intro w
    rw [hrun w, hl]
    simp [sliced, hc]
  · refine ⟨some ⟨b, off + n, none⟩, cap - n, off + n, ?_, by omega, Or.inr ⟨rfl, hbw, hbg, ?_⟩⟩
    · intro w
      rw [hrun w, hl]
      simp [sliced, hc, ha, Addr.add_mid]
    · have := hAt.sub n (P.length - n) (by omega)
      rwa [List.take_of_length_le (by omega)] at this

set_option maxRecDepth 100000 in
set_option maxHeartbeats 4000000 in
theorem take_full (g b off cap h n : Nat) (w : World) (s s1 : Sh.S) (r r1 P Q : List Int) (c : Int) (hs : s.ok) (hd : Dig w g s r h c) (h0 : 1 ≤ h) (h1 : h ≤ 63) (hn1 : h + n ≤ 64) (hn2 : 64 ≤ h + n) (hP : P.length ≤ 72057594037927936) (hnP : n ≤ P.length)
    (HQ : Hid (Q = P.drop n)) (HR1 : Hid (r1 = Go.splice r h (P.take n))) (HS1 : Hid (s1 = Sh.after KK s r1)) (hw8r : ∀ x ∈ r1, Sh.W8 x) (hw8 : ∀ x ∈ P, Sh.W8 x)
    (hcap : P.length ≤ cap) (hAt : At w .u8 b off P) (hbw : b < w.heap.size) (hbg : b ≠ g) (ht : Tab w) (hg : g ≠ 2) (hgs : g < w.heap.size) (hc0 : 0 ≤ c) (hc1 : c ≤ 72057594037927936) (c' : Int) (hcc : c + (P.length : Int) = c') :
    Calls Tryd.prog 85 #[.pointer (some ⟨g, 0, none⟩), .slice (some ⟨b, off, none⟩) P.length cap] w fun e w' => e = .returned (.tuple #[]) ∧ Tail g s1 r1 Q c' w w' := by
  have h72 := hd.held
  have h73 := hd.count
  have f73 := hd.free 73
  have hdw := hd.setCount c'
  have hon := Only.setCell (g := g) w 73 (.int .u64 c')
  have HD := Lib.hid hdw
  have HO := Lib.hid hon
  have hAn : At (w.setCell ⟨g, 73, none⟩ (.int .u64 c')) .u8 b off (P.take n) := by
    have := (hon.at hAt hbw hbg).sub 0 n (by omega)
    simpa using this
  have HS := Lib.hid (src_of_at hAn)
  have h72' := hdw.held
  have hroom := run_room g h (by omega)
  have hln : (P.take n).length = n := by simp; omega
  have hcop := hdw.copied h (P.take n) (by omega)
  have hlen : ((P.take n).map (Value.int .u8)).length = n := by rw [List.length_map, hln]
  have h74 := dg_length s r h c' hdw.1
  have HC := Lib.hid hcop
  have HL := Lib.hid hlen
  have H74 := Lib.hid h74
  have HAt := Lib.hid hAt
  have hsum : (h : Int) + (n : Int) = 64 := by omega
  have HW8 := Lib.hid hw8
  have HT := Lib.hid ht
  have HW8R := Lib.hid hw8r
  have HSO := Lib.hid hs
  clear hdw hon hAt hcop hlen h74 hAn hln hw8 ht hw8r hs
  go_enter Tryd.func85, Tryd.ntmps85
  go_wp2_with fail
  go_region_law (refine step_copy_own rfl (.tmp 27) (.tmp 28) 22 22 rfl 5 Tryd.underlying22 i5 g (8 + h) _ _ ⟨b, off, none⟩ _ _ rfl rfl (dg s r h c').toArray 105 ?_ ((P.take n).map (Value.int .u8)) ?_ ?_ ?_ ?_ ?_; exact HD.out.2; exact HL.out.trans (by show n = min _ _; omega); exact HS.out; exact (by rw [HL.out, List.size_toArray, H74.out]; omega); exact (fun v hv => by simp only [List.mem_map] at hv; obtain ⟨y, _, rfl⟩ := hv; rfl); rw [HL.out])
  generalize hw2 : World.setRow (w.setCell ⟨g, 73, none⟩ (.int .u64 c')).drew g _ = w2
  have hD2 : Dig w2 g s r1 (h : Int) c' := by
    rw [← hw2, HR1.out]
    exact ⟨HC.out.1, by have := HC.out.2; rw [HL.out, List.map_take] at this; exact this⟩
  have hO2 : Only g w w2 := by rw [← hw2]; exact HO.out.trans ((Only.setRow _ _).undrew)
  have hD3 := hD2.setHeld 64
  have h72b := hD2.held
  have f72 := hD2.free 72
  have h72c := hD3.held
  have HD3 := Lib.hid hD3
  have HO3 := Lib.hid (hO2.trans (Only.setCell w2 72 (.int .i64 64)))
  clear hw2 hD2 hO2 hD3 HC HO HD HS h72' hroom h72 h73 f73 HL H74 hd
  obtain ⟨aq, capq, offq, hq, hqc, hqa⟩ : ∃ (aq : Option Addr) (capq offq : Nat), (∀ w, (Instr.slice 22 (.slice (some ⟨b, off, none⟩) P.length cap) (some (.int .i64 (n : Int))) none none).run Tryd.prog w = .ok (.slice aq Q.length capq) w) ∧ Q.length ≤ capq ∧ (Q = [] ∨ aq = some ⟨b, offq, none⟩ ∧ b < w.heap.size ∧ b ≠ g ∧ At w .u8 b offq Q) := by
    have := cut_at (some ⟨b, off, none⟩) P cap n b off w g hnP hcap rfl HAt.out hbw hbg
    rw [← HQ.out] at this
    exact this
  have HA := Lib.hid hqa
  have HC := Lib.hid hqc
  clear hqa hqc HAt
  go_wp2_with fail
  clear h72b f72 h72c
  generalize hw3 : w2.setCell ⟨g, 72, none⟩ (.int .i64 64) = w3 at *
  clear hw3
  have hA1 : At w3 .u8 g 8 r1 := HD3.out.rest
  have hT1 : Tab w3 := HO3.out.tab HT.out hg
  have hsz := HO3.out.size
  have hr64 : r1.length = 64 := HD3.out.1
  obtain ⟨c0, c1, c2, c3, c4, c5, c6, c7⟩ := HD3.out.st
  have hgr : g < w3.heap.size := by omega
  have hafter := fun (cp : Nat) => after_any g 8 cp w3.drew s r1 HSO.out hr64 HW8R.out hA1 hgr hT1
  rw [← HS1.out] at hafter
  have HF := Lib.hid hafter
  clear hafter hA1 hT1 hr64
  have hs8 := st_size
  go_region_with ((go_at_call 88; refine (HF.out _).mono ?_; rintro e w1 ⟨rfl, hb1⟩; have hst := fun s' => run_store_st (s' := s') (HD3.out.other (hb1.block g hgr)); have HB1 := Lib.hid hb1; clear hb1))
  clear c0 c1 c2 c3 c4 c5 c6 c7 HF hs8
  have HD' : Hid (Dig (w1.setCells g 0 (stCells s1).toList) g s1 r1 64 c') := (HD3.out.other (HB1.out.block g hgr)).setState _
  have HO' : Hid (Only g w (w1.setCells g 0 (stCells s1).toList)) := (HO3.out.trans (Only.below HB1.out).undrew).trans (Only.setCells _ _ _)
  generalize w1.setCells g 0 (stCells s1).toList = wo at *
  have hs1 : s1.ok := by rw [HS1.out]; exact Sh.plus_ok _ _
  have hw8q : ∀ x ∈ Q, Sh.W8 x := by rw [HQ.out]; exact fun x hx => HW8.out x (List.mem_of_mem_drop hx)
  have hQ : Q.length ≤ 72057594037927936 := by rw [HQ.out]; simp; omega
  have ht := HT.out
  clear HD3 HO3 hsz hgr HB1 HQ HR1 HS1 HW8 HT HW8R HSO hsum hP hnP hn1 hn2
  go_wp2_with fail
  go_loopw [1] (fun v wr => ∃ (k : Nat) (a : Option Addr) (capq : Nat), 64 * k ≤ Q.length ∧ v = .slice a (Q.length - 64 * k) capq ∧ Q.length - 64 * k ≤ capq ∧ (Q.length ≤ 64 * k ∨ a = some ⟨b, offq + 64 * k, none⟩) ∧ Hid (Dig wr g (Sh.blocks k s1 Q) r1 64 c') ∧ Hid (Only g w wr)) (fun v _ => match v with | .slice _ n _ => n | _ => 0)
  case atStart =>
    have h0 : Q.length ≤ 64 * 0 ∨ aq = some ⟨b, offq + 64 * 0, none⟩ := by
      rcases HA.out with h | h
      · exact Or.inl (by simp [h])
      · exact Or.inr h.1
    exact ⟨0, aq, capq, by omega, rfl, HC.out, h0, HD', HO'⟩
  case round =>
    obtain ⟨k, a1, cap1, hk, rfl, hk2, hk3, D, O⟩ := hrel
    by_cases hlt : 64 ≤ Q.length - 64 * k
    · obtain ⟨-, hbw, hbg, hAt⟩ : aq = some ⟨b, offq, none⟩ ∧ b < w.heap.size ∧ b ≠ g ∧ At w .u8 b offq Q := by
        rcases HA.out with h | h
        · rw [h] at hlt; simp at hlt
        · exact h
      obtain rfl : a1 = some ⟨b, offq + 64 * k, none⟩ := by
        rcases hk3 with h | h
        · omega
        · exact h
      have hA1 : At wr .u8 b (offq + 64 * k) ((Q.drop (64 * k)).take 64) := (O.out.at hAt hbw hbg).sub (64 * k) 64 (by omega)
      have hT1 : Tab wr := O.out.tab ht hg
      have hok := Sh.blocks_ok k s1 Q hs1
      have hsz := O.out.size
      obtain ⟨c0, c1, c2, c3, c4, c5, c6, c7⟩ := D.out.st
      have hb8 := sub_bytes hw8q (64 * k) 64
      have hl64 : ((Q.drop (64 * k)).take 64).length = 64 := by simp; omega
      have hafter := fun (cp : Nat) => after_any b (offq + 64 * k) cp wr.drew (Sh.blocks k s1 Q) ((Q.drop (64 * k)).take 64) hok hl64 hb8 hA1 (show b < wr.heap.size by omega) hT1
      have HF := Lib.hid hafter
      have hgr : g < wr.heap.size := by omega
      clear hafter hA1 hb8 hl64 hAt hk3 hok hT1 ht HA HC
      have hst1 : Sh.blocks (k + 1) s1 Q = Sh.after KK (Sh.blocks k s1 Q) ((Q.drop (64 * k)).take 64) := rfl
      have HST := Lib.hid hst1
      clear hst1
      generalize Sh.blocks k s1 Q = st at *
      clear hw8q hs1
      have hs8 := st_size
      go_wp2_with fail
      go_region_with ((go_at_call 88; refine (HF.out _).mono ?_; rintro e w1 ⟨rfl, hb1⟩; have hst := fun s' => run_store_st (s' := s') (D.out.other (hb1.block g hgr)); have HB1 := Lib.hid hb1; clear hb1))
      all_goals
        clear c0 c1 c2 c3 c4 c5 c6 c7 HF hs8
        have hfin : Hid (Dig (w1.setCells g 0 (stCells (Sh.after KK st ((Q.drop (64 * k)).take 64))).toList) g (Sh.after KK st ((Q.drop (64 * k)).take 64)) r1 64 c' ∧ Only g w (w1.setCells g 0 (stCells (Sh.after KK st ((Q.drop (64 * k)).take 64))).toList)) :=
          ⟨(D.out.other (HB1.out.block g hgr)).setState _, (O.out.trans (Only.below HB1.out).undrew).trans (Only.setCells _ _ _)⟩
        clear D O HB1
        generalize w1.setCells g 0 (stCells (Sh.after KK st ((Q.drop (64 * k)).take 64))).toList = w2 at *
        by_cases hc64 : cap1 = 64
        · subst hc64
          go_wp2
          go_roundw
          case rel => exact ⟨k + 1, _, _, by omega, by rw [show Q.length - 64 * (k + 1) = 0 by omega], by omega, Or.inl (by omega), by rw [← HST.out] at hfin; exact hfin.out.1, hfin.out.2⟩
          case measure => simp; omega
        · go_wp2
          go_roundw
          case rel => exact ⟨k + 1, _, _, by omega, by rw [show Q.length - 64 * (k + 1) = Q.length - 64 * k - 64 by omega], by omega, Or.inr (by rw [show offq + 64 * (k + 1) = offq + 64 * k + 64 by omega]), by rw [← HST.out] at hfin; exact hfin.out.1, hfin.out.2⟩
          case measure => simp; omega
    · obtain ⟨m, hm⟩ : ∃ m, m = Q.length - 64 * k := ⟨_, rfl⟩
      have hk1 : k = Q.length / 64 := by omega
      have hm1 : m = Q.length % 64 := by omega
      have hql : (Q.drop (64 * k)).length = m := by simp; omega
      by_cases hm0 : m = 0
      · have hfin : Hid (Tail g s1 r1 Q c' w (wr.setCell ⟨g, 72, none⟩ (.int .i64 0))) := by
          refine ⟨?_, O.out.trans (Only.setCell _ _ _)⟩
          have := D.out.setHeld 0
          rw [← hk1, ← hm1, hm0, List.eq_nil_of_length_eq_zero (hql.trans hm0)]
          simpa [Go.splice] using this
        have h72 := D.out.held
        have f72 := D.out.free 72
        have hz : Q.length - 64 * k = 0 := by omega
        clear HA HC HD' HO' D O ht hm hk1 hm1 hql hm0
        have hlt' : Q.length - 64 * k < 64 := by omega
        clear hlt
        go_wp2_with ((with_reducible refine wpList_copy_nothing (o := ⟨some 79, _, _, _, _, _⟩) rfl (.tmp 77) (.tmp 78) 22 22 rfl 5 Tryd.underlying22 ?_ _ _ _ _ _ _ rfl rfl ?_ ?_); exact i5; exact (by rw [hz]; rfl))
        go_end0
        exact ⟨rfl, hfin.out⟩
      · obtain ⟨-, hbw, hbg, hAt⟩ : aq = some ⟨b, offq, none⟩ ∧ b < w.heap.size ∧ b ≠ g ∧ At w .u8 b offq Q := by
          rcases HA.out with h | h
          · rw [h] at hm; simp at hm; omega
          · exact h
        obtain rfl : a1 = some ⟨b, offq + 64 * k, none⟩ := by
          rcases hk3 with h | h
          · omega
          · exact h
        have hA1 : At wr .u8 b (offq + 64 * k) (Q.drop (64 * k)) := by
          have := (O.out.at hAt hbw hbg).sub (64 * k) m (by omega)
          rwa [List.take_of_length_le (by omega)] at this
        have hcop := D.out.copied 0 (Q.drop (64 * k)) (by omega)
        obtain ⟨w2, hw2⟩ : ∃ w2, w2 = wr.setRow g ((dg (Sh.blocks k s1 Q) r1 64 c').toArray.toList.take (8 + 0) ++ ((Q.drop (64 * k)).map (Value.int .u8) ++ (dg (Sh.blocks k s1 Q) r1 64 c').toArray.toList.drop (8 + 0 + ((Q.drop (64 * k)).map (Value.int .u8)).length))).toArray := ⟨_, rfl⟩
        have hD2 : Dig w2 g (Sh.blocks k s1 Q) (Go.splice r1 0 (Q.drop (64 * k))) 64 c' := by rw [hw2]; exact hcop
        have hO2 : Only g w w2 := by rw [hw2]; exact O.out.trans (Only.setRow _ _)
        have hfin : Hid (Tail g s1 r1 Q c' w (w2.setCell ⟨g, 72, none⟩ (.int .i64 (m : Int)))) := by
          refine ⟨?_, hO2.trans (Only.setCell _ _ _)⟩
          have := hD2.setHeld (m : Int)
          rw [← hk1, ← hm1]
          exact this
        have h72 := hD2.held
        have f72 := hD2.free 72
        have hsrc : ∀ (j : Nat) (v : Value), ((Q.drop (64 * k)).map (Value.int .u8))[j]? = some v → wr.cell? ((⟨b, offq + 64 * k, none⟩ : Addr).add j) = some v := by
          intro j v hj
          rw [Addr.add_mid]
          rw [List.getElem?_map] at hj
          cases hq : (Q.drop (64 * k))[j]? with
          | none => rw [hq] at hj; cases hj
          | some x =>
            rw [hq] at hj
            cases hj
            have hjl := (List.getElem?_eq_some_iff.1 hq).1
            rw [hA1 j hjl]
            simp only [List.getD_eq_getElem?_getD, hq, Option.getD_some]
        have hlen : ((Q.drop (64 * k)).map (Value.int .u8)).length = m := by rw [List.length_map, hql]
        have hDp := D.out.2
        have HW := Lib.hid hw2
        have HL := Lib.hid hlen
        have hd74 := dg_length (Sh.blocks k s1 Q) r1 64 c' D.out.1
        have H74 := Lib.hid hd74
        have hmm : Q.length - 64 * k = m := hm.symm
        rw [hmm]
        have hm64 : m < 64 := by omega
        have hmc : m ≤ cap1 := by omega
        have HS := Lib.hid hsrc
        have HP := Lib.hid hDp
        clear HA HC HD' HO' D O ht hm hk1 hm1 hql hA1 hcop hw2 hD2 hO2 hlen hsrc hk2 hk3 hlt hmm hk hm0 hd74 hDp
        go_wp2_with ((with_reducible refine wpList_copy_own (o := ⟨some 79, _, _, _, _, _⟩) rfl (.tmp 77) (.tmp 78) 22 22 rfl 5 Tryd.underlying22 ?_ g 8 _ _ ⟨b, offq + 64 * k, none⟩ _ _ rfl rfl (dg (Sh.blocks k s1 Q) r1 64 c').toArray 105 HP.out ((Q.drop (64 * k)).map (Value.int .u8)) ?_ ?_ ?_ ?_ ?_); exact i5; exact HL.out.trans (Nat.min_eq_left (Nat.le_of_lt hm64)).symm; exact HS.out; exact (by rw [HL.out, List.size_toArray, H74.out]; omega); exact (fun v hv => by simp only [List.mem_map] at hv; obtain ⟨y, _, rfl⟩ := hv; rfl); rw [HL.out]; generalize hwx : World.setRow wr g _ = wx; obtain rfl : w2 = wx := (HW.out.trans (by rw [HL.out])).trans hwx; clear hwx HW)
        go_end0
        exact ⟨rfl, hfin.out⟩
end Go.Proofs.YtiinmdleechcgaaDoor.Sha
namespace Go.Proofs.YtiinmdleechcgaaDoor.Sha
open Go.RowKit

theorem step_copy_none {P : Program} {ops : Array Oper} {o : Oper} {a : Act} {w : World} {K : Act → World → Prop} {Q : Exit → Act → World → Prop} {E : Prop} (hgd : o.guard = none) (d s : Operand) (dT sT : TypeId)
    (ho : o.op = .call { callee := .builtin .copy, args := #[d, s], argTypes := #[dT, sT] }) (elem : TypeId) (hu : P.underlying dT = some (.slice elem)) (hsz : (P.info? elem).map (·.size) = some 1)
    (dp sp : Option Addr) (dLen dCap sLen sCap : Nat) (hd : a.eval d = .slice dp dLen dCap) (hs : a.eval s = .slice sp sLen sCap) (hn : Nat.min sLen dLen = 0)
    (h : K (a.put o.dst (goInt 0)) w) : if Region.wanted o (yielded ops a.tmps) = true then Oper.wp P o a w K Q else E := by
  have hw : Region.wanted o (yielded ops a.tmps) = true := by simp [Region.wanted, hgd]
  rw [if_pos hw]
  have hrun := run_copy_none (P := P) w dT sT o.type elem dp sp dLen dCap sLen sCap hu hsz hn
  unfold Oper.wp
  simp [execOp, ho, resolve, invoke, builtin, hd, hs, hrun, Result.andThen]
  exact h

theorem run_cut0 (a : Option Addr) (cap : Nat) (w : World) : (Instr.slice 22 (.slice a 0 cap) (some (.int .i64 0)) none none).run Tryd.prog w = .ok (sliced a 0 0 cap 1) w := by
  have he : Tryd.prog.elem 22 = 5 := by kernel_rfl
  have hu : Tryd.prog.underlying 22 = some (.slice (Tryd.prog.elem 22)) := by rw [he]; exact Tryd.underlying22
  rw [run_slice_l w 22 a 0 cap hu .i64 0 (by omega) (by omega), he, Tryd.sizeOf5]
  rfl

set_option maxRecDepth 100000 in
set_option maxHeartbeats 2000000 in
theorem take_nil (g cap h : Nat) (w : World) (s : Sh.S) (r : List Int) (c : Int) (a : Option Addr) (hd : Dig w g s r h c) (h0 : 1 ≤ h) (h1 : h ≤ 63) (hc0 : 0 ≤ c) (hc1 : c ≤ 72057594037927936) :
    Calls Tryd.prog 85 #[.pointer (some ⟨g, 0, none⟩), .slice a 0 cap] w fun e w' => e = .returned (.tuple #[]) ∧ Dig w' g s r h c ∧ Only g w w' := by
  have h72 := hd.held
  have h73 := hd.count
  have f73 := hd.free 73
  have hdw := hd.setCount c
  have hon := Only.setCell (g := g) w 73 (.int .u64 c)
  have h72' := hdw.held
  have f72' := hdw.free 72
  have HD3 := Lib.hid (hdw.setHeld (h : Int))
  have HO3 := Lib.hid (hon.trans (Only.setCell _ 72 (.int .i64 (h : Int))))
  have h72c := (hdw.setHeld (h : Int)).held
  have hroom := run_room g h (by omega)
  have hcut := run_cut0 a cap
  clear hdw hon hd
  go_enter Tryd.func85, Tryd.ntmps85
  go_wp2_with fail
  go_region_law (refine step_copy_none rfl (.tmp 27) (.tmp 28) 22 22 rfl 5 Tryd.underlying22 i5 _ _ _ _ _ _ rfl rfl ?_ ?_; exact (by show min _ _ = 0; omega))
  generalize hs : sliced a 0 0 cap 1 = v at *
  clear hs
  go_wp2
  refine bodyPost_ret (results_none rfl _ _ _) rfl ?_
  exact ⟨rfl, HD3.out, HO3.out.drewN 1⟩

namespace Sh
theorem blocks_split (m n : Nat) (s : S) (l q : List Int) (h : l.length = 64 * m) : blocks (m + n) s (l ++ q) = blocks n (blocks m s l) q := by
  induction n with
  | zero => exact blocks_append m s l q (by omega)
  | succ n ih =>
    rw [← Nat.add_assoc]
    simp only [blocks]
    rw [ih, show 64 * (m + n) = l.length + 64 * n by omega, List.drop_append, List.drop_eq_nil_of_le (show l.length ≤ l.length + 64 * n by omega), List.nil_append, show l.length + 64 * n - l.length = 64 * n by omega]
end Sh

theorem splice_zero_take (r q : List Int) : (Go.splice r 0 q).take q.length = q := by
  simp [Go.splice]
theorem W8_splice {r x : List Int} (hr : ∀ y ∈ r, Sh.W8 y) (hx : ∀ y ∈ x, Sh.W8 y) (o : Nat) : ∀ y ∈ Go.splice r o x, Sh.W8 y := by
  intro y hy
  simp only [Go.splice, List.mem_append] at hy
  rcases hy with hy | hy | hy
  · exact hr y (List.mem_of_mem_take hy)
  · exact hx y hy
  · exact hr y (List.mem_of_mem_drop hy)

theorem rep_tail {g : Nat} {w w' : World} {L Q r : List Int} (hL : L.length % 64 = 0) (h8 : ∀ x ∈ L, Sh.W8 x) (hq8 : ∀ x ∈ Q, Sh.W8 x) (hr8 : ∀ x ∈ r, Sh.W8 x) (c' : Int) (hc : c' = ((L.length + Q.length : Nat) : Int))
    (ht : Tail g (Sh.stOf L) r Q c' w w') : Rep w' g (L ++ Q) ∧ Only g w w' := by
  obtain ⟨hd, ho⟩ := ht
  subst hc
  have hm : L.length = 64 * (L.length / 64) := by omega
  have hlen : (L ++ Q).length = L.length + Q.length := List.length_append
  have hdiv : (L.length + Q.length) / 64 = L.length / 64 + Q.length / 64 := by omega
  have hmod : (L.length + Q.length) % 64 = Q.length % 64 := by omega
  have hst : Sh.stOf (L ++ Q) = Sh.blocks (Q.length / 64) (Sh.stOf L) Q := by
    unfold Sh.stOf
    rw [hlen, hdiv]
    exact Sh.blocks_split _ _ _ _ _ hm
  have hdrop : (L ++ Q).drop (64 * ((L.length + Q.length) / 64)) = Q.drop (64 * (Q.length / 64)) := by
    rw [hdiv, show 64 * (L.length / 64 + Q.length / 64) = L.length + 64 * (Q.length / 64) by omega, List.drop_append, List.drop_eq_nil_of_le (show L.length ≤ L.length + 64 * (Q.length / 64) by omega), List.nil_append, show L.length + 64 * (Q.length / 64) - L.length = 64 * (Q.length / 64) by omega]
  refine ⟨⟨?_, Go.splice r 0 (Q.drop (64 * (Q.length / 64))), ?_, ?_, ?_⟩, ho⟩
  · intro x hx
    rcases List.mem_append.1 hx with h | h
    · exact h8 x h
    · exact hq8 x h
  · rw [hst, hlen, hmod]; exact hd
  · exact W8_splice hr8 (fun y hy => hq8 y (List.mem_of_mem_drop hy)) 0
  · rw [hlen, hdrop, hmod]
    have e : (Q.drop (64 * (Q.length / 64))).length = Q.length % 64 := by simp; omega
    rw [← e]
    exact splice_zero_take r _

/-- Bytes in memory: so many, from an address on, or none. -/
def Bytes (w : World) (g : Nat) (a : Option Addr) (P : List Int) : Prop := (∀ x ∈ P, Sh.W8 x) ∧ (P = [] ∨ ∃ b off, a = some ⟨b, off, none⟩ ∧ b < w.heap.size ∧ b ≠ g ∧ At w .u8 b off P)

theorem take_any (g cap : Nat) (w : World) (L P : List Int) (a : Option Addr) (hR : Rep w g L) (hlen : L.length + P.length ≤ 72057594037927936) (hB : Bytes w g a P) (hcap : P.length ≤ cap) (ht : Tab w) (hg : g ≠ 2) (hgs : g < w.heap.size) :
    Calls Tryd.prog 85 #[.pointer (some ⟨g, 0, none⟩), .slice a P.length cap] w fun e w' => e = .returned (.tuple #[]) ∧ Rep w' g (L ++ P) ∧ Only g w w' := by
  obtain ⟨h8, r, hd, hr8, hrt⟩ := hR
  obtain ⟨hp8, hB⟩ := hB
  have hok : (Sh.stOf L).ok := Sh.blocks_ok _ _ _ Sh.H0_ok
  have hr64 := hd.1
  obtain ⟨h, hh⟩ : ∃ h, h = L.length % 64 := ⟨_, rfl⟩
  by_cases h0 : h = 0
  · rw [← hh, h0] at hd
    have hB' : ∃ b off, P = [] ∨ a = some ⟨b, off, none⟩ ∧ b < w.heap.size ∧ b ≠ g ∧ At w .u8 b off P := by
      rcases hB with hB | ⟨b, off, hB⟩
      · exact ⟨0, 0, Or.inl hB⟩
      · exact ⟨b, off, Or.inr hB⟩
    obtain ⟨b, off, hB'⟩ := hB'
    refine (take_loop_probe g b off cap w (Sh.stOf L) r P _ hok hd (by omega) hp8 a hcap hB' ht hg hgs (by omega) (by omega) _ rfl).mono ?_
    rintro e w' ⟨rfl, htl⟩
    exact ⟨rfl, rep_tail (by omega) h8 hp8 hr8 _ (by omega) htl⟩
  · by_cases hP0 : P = []
    · subst hP0
      rw [List.length_nil, List.append_nil]
      rw [← hh] at hd
      refine (take_nil g cap h w (Sh.stOf L) r _ a hd (by omega) (by omega) (by omega) (by simp at hlen; omega)).mono ?_
      rintro e w' ⟨rfl, hd', ho⟩
      exact ⟨rfl, ⟨h8, r, by rw [← hh]; exact hd', hr8, hrt⟩, ho⟩
    · obtain ⟨b, off, rfl, hbw, hbg, hAt⟩ : ∃ b off, a = some ⟨b, off, none⟩ ∧ b < w.heap.size ∧ b ≠ g ∧ At w .u8 b off P := by
        rcases hB with hB | hB
        · exact absurd hB hP0
        · exact hB
      rw [← hh] at hd hrt
      by_cases hsh : h + P.length < 64
      · refine (take_some g b off cap h w (Sh.stOf L) r P _ hd (by omega) (by omega) (by omega) hP0 hsh hcap hAt hbw hbg (by omega) (by omega) _ rfl).mono ?_
        rintro e w' ⟨rfl, hd', ho⟩
        have hdiv : (L.length + P.length) / 64 = L.length / 64 := by omega
        have hmod : (L.length + P.length) % 64 = h + P.length := by omega
        refine ⟨rfl, ⟨?_, Go.splice r h P, ?_, W8_splice hr8 hp8 h, ?_⟩, ho⟩
        · intro x hx
          rcases List.mem_append.1 hx with hx | hx
          · exact h8 x hx
          · exact hp8 x hx
        · have hst : Sh.stOf (L ++ P) = Sh.stOf L := by
            unfold Sh.stOf
            rw [List.length_append, hdiv]
            exact Sh.blocks_append _ _ _ _ (by omega)
          rw [hst, List.length_append, hmod, Int.natCast_add L.length]
          exact hd'
        · rw [List.length_append, hmod, hdiv, List.drop_append_of_le_length (by omega), ← hrt]
          have e : (r.take h).length = h := by simp; omega
          simp only [Go.splice]
          rw [← List.append_assoc, List.take_append_of_le_length (by simp; omega), List.take_of_length_le (by simp; omega)]
      · obtain ⟨n, hn⟩ : ∃ n, n = 64 - h := ⟨_, rfl⟩
        have hln : (P.take n).length = n := by simp; omega
        have hr1 : Go.splice r h (P.take n) = L.drop (64 * (L.length / 64)) ++ P.take n := by
          simp only [Go.splice]
          have ed : r.drop (h + (P.take n).length) = [] := List.drop_eq_nil_of_le (by rw [hln]; omega)
          rw [hrt, ed, List.append_nil]
        have hst : Sh.stOf (L ++ P.take n) = Sh.after KK (Sh.stOf L) (Go.splice r h (P.take n)) := by
          unfold Sh.stOf
          rw [List.length_append, hln, show (L.length + n) / 64 = L.length / 64 + 1 by omega]
          simp only [Sh.blocks]
          rw [Sh.blocks_append _ _ _ _ (by omega), List.drop_append_of_le_length (by omega), hr1, List.take_of_length_le (by simp; omega)]
        refine (take_full g b off cap h n w (Sh.stOf L) _ r _ P _ _ hok hd (by omega) (by omega) (by omega) (by omega) (by omega) (by omega) (Lib.hid rfl) (Lib.hid rfl) (Lib.hid rfl) (W8_splice hr8 (fun y hy => hp8 y (List.mem_of_mem_take hy)) h) hp8 hcap hAt hbw hbg ht hg hgs (by omega) (by omega) _ rfl).mono ?_
        rintro e w' ⟨rfl, htl⟩
        rw [← hst] at htl
        have := rep_tail (L := L ++ P.take n) (by rw [List.length_append, hln]; omega) (by
          intro x hx
          rcases List.mem_append.1 hx with hx | hx
          · exact h8 x hx
          · exact hp8 x (List.mem_of_mem_take hx)) (fun x hx => hp8 x (List.mem_of_mem_drop hx)) (W8_splice hr8 (fun y hy => hp8 y (List.mem_of_mem_take hy)) h) _ (by rw [List.length_append, hln, List.length_drop]; omega) htl
        rw [List.append_assoc, List.take_append_drop] at this
        exact ⟨rfl, this⟩
end Go.Proofs.YtiinmdleechcgaaDoor.Sha
namespace Go.Proofs.YtiinmdleechcgaaDoor.Sha
open Go.RowKit

namespace Sh
def outW (x : Int) : List Int := [x / 16777216, x / 65536 % 256, x / 256 % 256, x % 256]
def out (s : S) : List Int := s.cells.flatMap outW
/-- A byte of the length in bits. -/
def lbyte (len : Int) (i : Nat) : Int := len / 2 ^ (56 - 8 * i) % 256
def lbytes (len : Int) (n : Nat) : List Int := (List.range n).map (lbyte len)
def pad (n : Nat) : List Int := 128 :: (List.replicate ((119 - n % 64) % 64) 0 ++ lbytes ((n : Int) * 8) 8)
/-- SHA-256. -/
def sha (l : List Int) : List Int := out (stOf (l ++ pad l.length))
end Sh

/-- A block that is known whole: numbers of one kind. -/
def Blk (w : World) (g : Nat) (k : IntKind) (t : TypeId) (l : List Int) : Prop := w.heap[g]? = some (.cells (l.map (Value.int k)).toArray t (0, 0))
theorem Blk.at {w : World} {g : Nat} {k : IntKind} {t : TypeId} {l : List Int} (h : Blk w g k t l) : At w k g 0 l := by
  intro j hj
  rw [Nat.zero_add, cell_of_row w g j _ t (0, 0) h]
  simp [hj]
theorem Blk.cell {w : World} {g : Nat} {k : IntKind} {t : TypeId} {l : List Int} (h : Blk w g k t l) (j : Nat) (hj : j < l.length) : w.cell? ⟨g, j, none⟩ = some (.int k (l.getD j 0)) := by
  have := h.at j hj
  rwa [Nat.zero_add] at this
theorem Blk.free {w : World} {g : Nat} {k : IntKind} {t : TypeId} {l : List Int} (h : Blk w g k t l) (j : Nat) : w.frozen? ⟨g, j, none⟩ = false := frozen_of_row w g j _ t h
theorem Blk.set {w : World} {g : Nat} {k : IntKind} {t : TypeId} {l : List Int} (h : Blk w g k t l) (j : Nat) (x : Int) : Blk (w.setCell ⟨g, j, none⟩ (.int k x)) g k t (l.set j x) := by
  unfold Blk
  rw [heap_setCell_same w g j _ t _ h]
  simp [List.map_set]
theorem Blk.other {w w' : World} {g : Nat} {k : IntKind} {t : TypeId} {l : List Int} (h : Blk w g k t l) (hb : w'.heap[g]? = w.heap[g]?) : Blk w' g k t l := hb.trans h
theorem Blk.lt {w : World} {g : Nat} {k : IntKind} {t : TypeId} {l : List Int} (h : Blk w g k t l) : g < w.heap.size := lt_of_block h
theorem Only.blk {g b : Nat} {w w' : World} {k : IntKind} {t : TypeId} {l : List Int} (h : Only g w w') (hb : Blk w b k t l) (hg : b ≠ g) : Blk w' b k t l :=
  hb.other (h.block b hb.lt (fun e => hg (by cases e; rfl)))

theorem set_in (A Z : List Int) (x z : Int) (j : Nat) (hj : A.length = j) : (A ++ (z :: Z)).set j x = A ++ [x] ++ Z := by
  subst hj; simp

/-- The tail so far. -/
def tailAt (z : Nat) (len : Int) (i : Nat) : List Int := (128 :: List.replicate z 0) ++ Sh.lbytes len i ++ List.replicate (72 - (1 + z + i)) 0
theorem length_tailAt (z : Nat) (len : Int) (i : Nat) (h : 1 + z + i ≤ 72) : (tailAt z len i).length = 72 := by
  simp [tailAt, Sh.lbytes]; omega
theorem tailAt_succ (z : Nat) (len : Int) (i : Nat) (h : 1 + z + (i + 1) ≤ 72) : (tailAt z len i).set (1 + z + i) (Sh.lbyte len i) = tailAt z len (i + 1) := by
  unfold tailAt
  rw [show 72 - (1 + z + i) = (72 - (1 + z + (i + 1))) + 1 by omega, zeros_succ]
  rw [set_in _ _ _ _ _ (by simp [Sh.lbytes]; omega)]
  simp [Sh.lbytes, List.range_succ]

def z72 : List Int := List.replicate 72 0
def c72 : Array Value := (z72.map (Value.int .u8)).toArray
theorem zero58 (w : World) : (zeroValue 111).run Tryd.prog w = .ok (.agg c72) w := by kernel_rfl

theorem run_index_arr8 (arr : Array Value) (v : Value) (j : Nat) (hj : j < 8) (h : arr[j]? = some v) (w : World) : (Instr.index 101 (.agg arr) (.int .i64 (j : Int))).run Tryd.prog w = .ok v w := by
  have h1 := run_underlying (P := Tryd.prog) Tryd.underlying101
  have h2 := Tryd.sizeOf61
  have h3 := Tryd.isAgg61
  simp [Instr.index, asIntOf, h1, h2, h3, part, hj, h]
theorem st_get (s : Sh.S) (j : Nat) (hj : j < 8) : (#[Value.int .u32 s.a, .int .u32 s.b, .int .u32 s.c, .int .u32 s.d, .int .u32 s.e, .int .u32 s.f, .int .u32 s.g, .int .u32 s.h] : Array Value)[j]? = some (.int .u32 (s.cells.getD j 0)) := by
  match j, hj with
  | 0, _ => rfl
  | 1, _ => rfl
  | 2, _ => rfl
  | 3, _ => rfl
  | 4, _ => rfl
  | 5, _ => rfl
  | 6, _ => rfl
  | 7, _ => rfl

theorem run_slice72 (T n : Nat) (hn : n ≤ 72) (i : Int) (hi : i = n) (w : World) : (Instr.sliceAt 111 (.pointer (some ⟨T, 0, none⟩)) none (some (.int .i64 i)) none).run Tryd.prog w = .ok (.slice (some ⟨T, 0, none⟩) n 72) w := by
  subst hi
  have hl : Tryd.prog.arrayLen 111 = 72 := by kernel_rfl
  have he : Tryd.prog.elem 111 = 5 := by kernel_rfl
  have hu : Tryd.prog.underlying 111 = some (.array (Tryd.prog.arrayLen 111) (Tryd.prog.elem 111)) := by rw [hl, he]; exact Tryd.underlying111
  rw [run_sliceAt_array_h w 111 ⟨T, 0, none⟩ hu .i64 (n : Int) (by omega) (by rw [hl]; omega), he, Tryd.sizeOf5, hl]
  simp only [Result.andThen_ok, Int.toNat_natCast, slicedAt, Addr.add_mid, Nat.zero_mul, Nat.add_zero, Nat.sub_zero, ite_self]
def c32 : Array Value := ((List.replicate 32 (0 : Int)).map (Value.int .u8)).toArray
theorem run_mk32 (w : World) : (Instr.makeSlice 22 (.int .i64 0) (.int .i64 32)).run Tryd.prog w = .ok (.slice (some ⟨w.heap.size, 0, none⟩) 0 32) (w.alloc (.cells c32 5)) := by kernel_rfl

theorem Rep.stAlloc {w : World} {g : Nat} {l : List Int} (h : Rep w g l) (o : Obj) (hg : g < w.heap.size) : ∃ r h c, Dig (w.alloc o) g (Sh.stOf l) r h c := by
  obtain ⟨r, hd, _, _⟩ := h.dig
  exact ⟨r, _, _, hd.other (Below.heap_alloc w o g hg)⟩

theorem info5 : (Tryd.prog.info? 5).map (fun i => (i.zero, i.size, i.bytes)) = some (some (.int .u8 0), 1, 1) := by kernel_rfl
theorem cells_W (s : Sh.S) (h : s.ok) (k : Nat) : Sh.W32 (s.cells.getD k 0) := by
  obtain ⟨ha, hb, hc, hd, he, hf, hg, hh⟩ := h
  refine W32_getD ?_ k
  intro x hx
  simp only [Sh.S.cells, List.mem_cons, List.not_mem_nil, or_false] at hx
  rcases hx with rfl | rfl | rfl | rfl | rfl | rfl | rfl | rfl <;> assumption
theorem take_out (s : Sh.S) (k : Nat) (h : k < 8) : (s.cells.take (k + 1)).flatMap Sh.outW = (s.cells.take k).flatMap Sh.outW ++ Sh.outW (s.cells.getD k 0) := by
  have hl : k < s.cells.length := by simp [Sh.S.cells]; omega
  rw [List.take_succ_eq_append_getElem hl, List.flatMap_append]
  simp [hl]
/-- What is owned whole, up to its room: the block. -/
theorem blk_of_own {w : World} {base go : Nat} {l : List Int} {n : Nat} (h : w.ownsRow base 5 1 (.slice (some ⟨go, 0, none⟩) n n) n (l.map (Value.int .u8))) : Blk w go .u8 5 l := by
  obtain ⟨_, h2⟩ := h
  rcases h2 with ⟨h, _⟩ | ⟨g, cap, cur, hv, _, hg, _, _, hc, ht⟩
  · cases h
  · cases hv
    have e : cur = (l.map (Value.int .u8)).toArray := by
      rw [Nat.mul_one] at hc ht
      rw [List.take_of_length_le (by simp [hc])] at ht
      rw [← ht]
    rw [e] at hg
    exact hg

theorem tail_zero (z : Nat) (len : Int) (h : z ≤ 63) : (c72.setIfInBounds 0 (Value.int .u8 128)) = ((tailAt z len 0).map (Value.int .u8)).toArray := by
  have e : tailAt z len 0 = z72.set 0 128 := by
    have : (List.replicate z (0 : Int)) ++ List.replicate (72 - (1 + z + 0)) 0 = List.replicate 71 0 := by
      rw [List.replicate_append_replicate]; congr 1; omega
    unfold tailAt
    simp only [Sh.lbytes, List.range_zero, List.map_nil, List.append_nil, List.cons_append]
    rw [this]; rfl
  rw [e]
  unfold c72
  simp [List.map_set]

set_option maxRecDepth 100000 in
set_option maxHeartbeats 2000000 in
theorem end_any (g : Nat) (w : World) (L : List Int) (hR : Rep w g L) (hlen : L.length ≤ 1125899906842624) (ht : Tab w) (hg : g ≠ 2) (hgs : g < w.heap.size) :
    Calls Tryd.prog 86 #[.pointer (some ⟨g, 0, none⟩)] w fun e w' => ∃ go, e = .returned (.slice (some ⟨go, 0, none⟩) 32 32) ∧ Blk w' go .u8 5 (Sh.sha L) ∧ w.heap.size ≤ go ∧ Only g w w' := by
  obtain ⟨r, hd, hr8, hrt⟩ := hR.dig
  have h72 := hd.held
  have h73 := hd.count
  have hz58 := zero58
  have hB0 : Blk (w.alloc (.cells c72 111)) w.heap.size .u8 111 z72 := heap_alloc_new w _
  have hc0 := hB0.cell 0 (by decide)
  have hf0 := hB0.free 0
  obtain ⟨z, hz⟩ : ∃ z : Nat, z = (119 - L.length % 64) % 64 := ⟨_, rfl⟩
  have hz63 : z ≤ 63 := by omega
  have hze : (119 - (L.length : Int)) % 64 = (z : Int) := by omega
  have HZ := Lib.hid hz
  have HD := Lib.hid hd
  have HR := Lib.hid hR
  have HRT := Lib.hid hrt
  clear hd hrt hB0 hz hR
  go_enter Tryd.func86, Tryd.ntmps86
  go_wp2_with fail
  clear hze h72 h73 hc0 hf0 hz58
  have hT : Hid (Blk (w.alloc (.cells (c72.setIfInBounds 0 (Value.int .u8 128)) 111)) w.heap.size .u8 111 (tailAt z ((L.length : Int) * 8) 0)) := by
    rw [tail_zero z ((L.length : Int) * 8) hz63]; exact heap_alloc_new w _
  have hO : Hid (Below w.heap.size w (w.alloc (.cells (c72.setIfInBounds 0 (Value.int .u8 128)) 111))) := (Below.refl _ _).alloc (Nat.le_refl _) _
  generalize w.alloc (.cells (c72.setIfInBounds 0 (Value.int .u8 128)) 111) = wo at *
  obtain ⟨len, hln⟩ : ∃ len : Int, len = (L.length : Int) * 8 := ⟨_, rfl⟩
  have hln0 : 0 ≤ len := by omega
  have hln1 : len ≤ 9007199254740992 := by omega
  rw [← hln] at hT ⊢
  have HLN := Lib.hid hln
  clear hln
  go_loopw [23] (fun i wr => ∃ k : Nat, k ≤ 8 ∧ i = .int .i64 k ∧ Hid (Blk wr w.heap.size .u8 111 (tailAt z len k)) ∧ Hid (Below w.heap.size w wr)) (fun i _ => 8 - (intOf i).toNat)
  case atStart => exact ⟨0, by omega, rfl, hT, hO⟩
  case round =>
    obtain ⟨k, hk, rfl, B, O⟩ := hrel
    by_cases hlt : k < 8
    · have hl72 := length_tailAt z len k (by omega)
      have hc := B.out.cell (1 + z + k) (by omega)
      have hf := B.out.free (1 + z + k)
      have hset := B.out.set (1 + z + k) (Sh.lbyte len k)
      rw [tailAt_succ z len k (by omega)] at hset
      have HS := Lib.hid hset
      generalize (tailAt z len k).getD (1 + z + k) 0 = old at *
      clear hset hl72 hT hO
      go_wp2
      go_roundw
      case rel => exact ⟨k + 1, by omega, by go_num, HS.out, O.out.setCell (Nat.le_refl _) _⟩
      case measure => simp [intOf]; omega
    · have hk8 : ((k : Nat) : Int) = 8 := by omega
      rw [hk8]
      obtain rfl : k = 8 := by omega
      clear hk8 hT hO
      have hpl : (tailAt z len 8).take (1 + z + 8) = Sh.pad L.length := by
        unfold tailAt Sh.pad
        rw [List.take_append_of_le_length (by simp [Sh.lbytes]; omega), List.take_of_length_le (by simp [Sh.lbytes]; omega), HZ.out, HLN.out]
        simp
      have hlp : (Sh.pad L.length).length = 1 + z + 8 := by rw [← hpl]; simp [length_tailAt z len 8 (by omega)]; omega
      have hlb : ∀ x ∈ Sh.pad L.length, Sh.W8 x := by
        intro x hx
        unfold Sh.pad at hx
        simp only [List.mem_cons, List.mem_append, List.mem_replicate, Sh.lbytes, List.mem_map] at hx
        unfold Sh.W8
        rcases hx with rfl | ⟨_, rfl⟩ | ⟨i, _, rfl⟩
        · omega
        · omega
        · unfold Sh.lbyte; omega
      have hRw : Rep wr g L := ⟨HR.out.bytes, r, HD.out.other (O.out.block g hgs), hr8, HRT.out⟩
      have hBy : Bytes wr g (some ⟨w.heap.size, 0, none⟩) (Sh.pad L.length) := ⟨hlb, Or.inr ⟨w.heap.size, 0, rfl, B.out.lt, by omega, by
        have := B.out.at.sub 0 (1 + z + 8) (by rw [length_tailAt z len 8 (by omega)]; omega)
        rw [List.drop_zero, hpl] at this
        exact this⟩⟩
      have htk := take_any g 72 wr L (Sh.pad L.length) (some ⟨w.heap.size, 0, none⟩) hRw (by omega) hBy (by omega) (ht.below O.out ht.1) hg (by have := O.out.size; omega)
      rw [hlp] at htk
      have HTK := Lib.hid htk
      have hsl := run_slice72 w.heap.size (1 + z + 8) (by omega) (1 + (z : Int) + 8) (by omega)
      have hmk := run_mk32
      clear hBy hRw htk hlb hlp hpl HD HRT
      have hgw : g < wr.heap.size := Nat.lt_of_lt_of_le hgs O.out.size
      go_wp2_with ((go_at_call 85; refine HTK.out.mono ?_; rintro e w1 ⟨rfl, hR1, hO1⟩; obtain ⟨r2, h2, c2, hd2⟩ := hR1.stAlloc (.cells c32 5) (Nat.lt_of_lt_of_le hgw hO1.size); obtain ⟨c0, c1, c2, c3, c4, c5, c6, c7⟩ := hd2.st; have HD2 := Lib.hid hd2; have HR1 := Lib.hid hR1; have HO1 := Lib.hid hO1; clear hR1 hO1 hd2))
      clear c0 c1 c2 c3 c4 c5 c6 c7 hmk hsl HD2 HTK
      have hst : Sh.sha L = Sh.out (Sh.stOf (L ++ Sh.pad L.length)) := rfl
      have HST := Lib.hid hst
      have hstok : (Sh.stOf (L ++ Sh.pad L.length)).ok := Sh.blocks_ok _ _ _ Sh.H0_ok
      have hown : Hid ((w1.alloc (.cells c32 5)).ownsRow w.heap.size 5 1 (.slice (some ⟨w1.heap.size, 0, none⟩) 0 32) 0 []) := World.ownsRow_made w1 c32 32 (Nat.le_trans O.out.size HO1.out.size) (by unfold maxLen; omega) (by rfl)
      have hO2 : Hid (Only g w (w1.alloc (.cells c32 5))) := ((Only.below O.out).trans HO1.out).trans (Only.below ((Below.refl _ _).alloc (Nat.le_refl _) _))
      have hgo : g < w1.heap.size := Nat.lt_of_lt_of_le hgw HO1.out.size
      have hwo : w.heap.size ≤ w1.heap.size := Nat.le_trans O.out.size HO1.out.size
      generalize Sh.stOf (L ++ Sh.pad L.length) = st at *
      generalize w1.alloc (.cells c32 5) = w2 at *
      generalize w1.heap.size = go at *
      clear hst HR HR1 HO1 O B
      go_loopw [7, 47] (fun v i wr => ∃ k : Nat, k ≤ 8 ∧ i = .int .i64 k ∧ v = .slice (some ⟨go, 0, none⟩) (4 * k) 32 ∧ Hid (wr.ownsRow w.heap.size 5 1 (.slice (some ⟨go, 0, none⟩) (4 * k) 32) (4 * k) (((st.cells.take k).flatMap Sh.outW).map (Value.int .u8))) ∧ Hid (Only g w wr)) (fun _ i _ => 8 - (intOf i).toNat)
      case atStart => exact ⟨0, by omega, rfl, rfl, hown, hO2⟩
      case round =>
        clear hown hO2
        obtain ⟨k, hk, rfl, rfl, OW, O⟩ := hrel
        by_cases hlt : k < 8
        · have hix := run_index_arr8 _ _ k hlt (st_get st k hlt)
          have hxW := cells_W st hstok k
          obtain ⟨x0, x1⟩ := hxW
          have htk := take_out st k hlt
          have HTO := Lib.hid htk
          clear htk
          generalize st.cells.getD k 0 = x at *
          obtain ⟨i0, hi, hz0, hz1, hz2⟩ := info_parts info5
          have hnew : Hid (∀ o, (wr.alloc o).ownsRow w.heap.size 5 1 (.slice (some ⟨go, 0, none⟩) (4 * k) 32) (4 * k) (((st.cells.take k).flatMap Sh.outW).map (Value.int .u8))) := fun o => OW.out.alloc o
          go_wp2_with ((with_reducible refine wpList_append_fits _ (o := ⟨some 63, _, _, _, _, _⟩) rfl (.tmp 50) (.tmp 62) 22 rfl w.heap.size 5 i0 1 Tryd.underlying22 hi hz1 go (4 * k) 32 (((st.cells.take k).flatMap Sh.outW).map (Value.int .u8)) rfl (hnew.out _) ⟨wr.heap.size, 0, none⟩ 4 4 ((Sh.outW x).map (Value.int .u8)) rfl rfl ?_ ?_ ?_ ?_); exact (fun j u hu => by rw [Addr.add_mid, Nat.zero_add, cell_of_row _ _ _ _ 5 (0, 0) (heap_alloc_new wr _)]; simpa [Sh.outW] using hu); exact ints_oneCell _ _; exact (by omega); intro w3 hown3 hgr3; have HW3 := Lib.hid hown3; have HG3 := Lib.hid hgr3; clear hown3 hgr3)
          go_roundw
          case rel =>
            refine ⟨k + 1, by omega, by go_num, by rw [show 4 * (k + 1) = 4 * k + 4 by omega], ?_, ?_⟩
            · have := HW3.out
              rw [← List.map_append, ← HTO.out] at this
              exact this
            · have hsz := O.out.size
              have hsz3 := HG3.out.size
              simp at hsz3
              exact ⟨HG3.out.os.trans O.out.os, HG3.out.tape.trans O.out.tape, HG3.out.output.trans O.out.output, by omega, fun i hi hn => (HG3.out.block i (by simp; omega) (by intro e; cases e; omega)).trans ((Below.heap_alloc wr _ i (by omega)).trans (O.out.block i hi hn))⟩
          case measure => simp [intOf]; omega
        · obtain rfl : k = 8 := by omega
          go_wp2
          go_ret
          exact ⟨go, rfl, by
            have := blk_of_own OW.out (l := (st.cells.take 8).flatMap Sh.outW)
            rw [HST.out]
            simpa [Sh.S.cells, Sh.out] using this, hwo, O.out⟩
end Go.Proofs.YtiinmdleechcgaaDoor.Sha
namespace Go.Proofs.YtiinmdleechcgaaDoor.Sha
open Go.RowKit

/-- A slice of bytes, by its value. -/
def Slc (w : World) (v : Value) (P : List Int) : Prop := ∃ a cap, v = .slice a P.length cap ∧ P.length ≤ cap ∧ (∀ x ∈ P, Sh.W8 x) ∧ (P = [] ∨ ∃ b off, a = some ⟨b, off, none⟩ ∧ b < w.heap.size ∧ At w .u8 b off P)
theorem Slc.below {w w' : World} {v : Value} {P : List Int} {B : Nat} (h : Slc w v P) (hb : Below B w w') (hB : w.heap.size ≤ B) : Slc w' v P := by
  obtain ⟨a, cap, h1, h2, h3, h4⟩ := h
  refine ⟨a, cap, h1, h2, h3, ?_⟩
  rcases h4 with h4 | ⟨b, off, h5, h6, h7⟩
  · exact Or.inl h4
  · exact Or.inr ⟨b, off, h5, Nat.lt_of_lt_of_le h6 hb.size, h7.below hb (by omega)⟩
theorem Slc.nil (w : World) : Slc w (.slice none 0 0) [] := ⟨none, 0, rfl, Nat.le_refl _, by simp, Or.inl rfl⟩
theorem slc_of_blk {w : World} {go : Nat} {l : List Int} {n c : Nat} (h : Blk w go .u8 5 l) (hl : l.length = n) (hc : n ≤ c) (h8 : ∀ x ∈ l, Sh.W8 x) : Slc w (.slice (some ⟨go, 0, none⟩) n c) l :=
  ⟨_, c, by rw [hl], by omega, h8, Or.inr ⟨go, 0, rfl, h.lt, h.at⟩⟩

/-- Parts of bytes, by the value of the slice of them. -/
def Parts (w : World) (v : Value) (ls : List (List Int)) : Prop := ∃ a cap, v = .slice a ls.length cap ∧ ls.length ≤ 1152921504606846976 ∧ (ls = [] ∨ ∃ b off, a = some ⟨b, off, none⟩ ∧ b < w.heap.size ∧ ∀ j, j < ls.length → ∃ u, w.cell? ⟨b, off + j, none⟩ = some u ∧ Slc w u (ls.getD j []))
theorem Parts.below {w w' : World} {v : Value} {ls : List (List Int)} {B : Nat} (h : Parts w v ls) (hb : Below B w w') (hB : w.heap.size ≤ B) : Parts w' v ls := by
  obtain ⟨a, cap, h1, h2, h4⟩ := h
  refine ⟨a, cap, h1, h2, ?_⟩
  rcases h4 with h4 | ⟨b, off, h5, h6, h7⟩
  · exact Or.inl h4
  · refine Or.inr ⟨b, off, h5, Nat.lt_of_lt_of_le h6 hb.size, fun j hj => ?_⟩
    obtain ⟨u, hu, hs⟩ := h7 j hj
    exact ⟨u, (hb.cell (p := ⟨b, off + j, none⟩) (show b < B by omega)).trans hu, hs.below hb hB⟩

set_option maxHeartbeats 400000 in
theorem start_val (w : World) : Calls Tryd.prog 84 #[] w fun e w' => e = .returned (.agg (stCells Sh.H0)) ∧ Below w.heap.size w w' := by
  go_enter Tryd.func84, Tryd.ntmps84
  go_wp2
  exact bodyPost_ret (results_cell_row Tryd.results84 _ _ w.heap.size 101 (stCells Sh.H0) (0, 0) _ rfl (heap_alloc_new w _) Tryd.underlying101 rfl h8) rfl ⟨rfl, (Below.refl _ _).alloc (Nat.le_refl _) _⟩

def z64c : Array Value := (dg z8 (List.replicate 64 0) 0 0).toArray
theorem zero48 (w : World) : (zeroValue 105).run Tryd.prog w = .ok (.agg z64c) w := by kernel_rfl
theorem build48 (w : World) : (Instr.build 105 #[(0, .agg (stCells Sh.H0))]).run Tryd.prog w = .ok (.agg (dg Sh.H0 (List.replicate 64 0) 0 0).toArray) w := by kernel_rfl

theorem rep_start (w : World) (g : Nat) (h : w.heap[g]? = some (.cells (dg Sh.H0 (List.replicate 64 0) 0 0).toArray 105 (0, 0))) : Rep w g [] :=
  ⟨by simp, List.replicate 64 0, ⟨by simp, h⟩, by intro x hx; simp at hx; unfold Sh.W8; omega, by simp⟩
theorem size48 : (Tryd.prog.info? 105).map (·.size) = some 74 := by kernel_rfl
theorem dg74 : (dg Sh.H0 (List.replicate 64 0) 0 0).toArray.size = 74 := by rfl
theorem one74 : (dg Sh.H0 (List.replicate 64 0) 0 0).toArray.all (·.oneCell') = true := by
  refine Array.all_eq_true_iff_forall_mem.2 fun x hx => ?_
  simp only [dg, stCells, List.mem_toArray, List.mem_append, List.mem_cons, List.mem_map, List.mem_replicate, List.not_mem_nil, or_false] at hx
  rcases hx with (rfl | rfl | rfl | rfl | rfl | rfl | rfl | rfl) | ⟨y, _, rfl⟩ | rfl | rfl <;> rfl

theorem bytes_of_slc {w : World} {a : Option Addr} {n cap : Nat} {P : List Int} (h : Slc w (.slice a n cap) P) (g : Nat) (hg : w.heap.size ≤ g) (w' : World) (hb : Below w.heap.size w w') : n = P.length ∧ P.length ≤ cap ∧ Bytes w' g a P := by
  obtain ⟨a', cap', hv, hc, h8, hm⟩ := h
  simp only [Value.slice.injEq] at hv
  obtain ⟨rfl, rfl, rfl⟩ := hv
  refine ⟨rfl, hc, h8, ?_⟩
  rcases hm with hm | ⟨b, off, h1, h2, h3⟩
  · exact Or.inl hm
  · exact Or.inr ⟨b, off, h1, Nat.lt_of_lt_of_le h2 hb.size, by omega, h3.below hb h2⟩

theorem below_of_only {B g : Nat} {w w1 w2 : World} (h : Below B w w1) (ho : Only g w1 w2) (hB : B ≤ g) (hs : B ≤ w1.heap.size) : Below B w w2 :=
  h.trans ⟨ho.os, ho.tape, ho.output, ho.size, fun k hk => ho.block k (by omega) (by intro e; cases e; omega)⟩
theorem built48 : (Array.foldl (fun (cs : Array Value) (x : Value × Nat) => cs.setIfInBounds x.snd x.fst) z64c (stCells Sh.H0).zipIdx 0 (stCells Sh.H0).size) = (dg Sh.H0 (List.replicate 64 0) 0 0).toArray := by kernel_rfl
theorem flatten_take_succ (ls : List (List Int)) (k : Nat) (h : k < ls.length) : (ls.take (k + 1)).flatten = (ls.take k).flatten ++ ls.getD k [] := by
  rw [List.take_succ_eq_append_getElem h, List.flatten_append]
  simp [h]
theorem flatten_take_le (ls : List (List Int)) (k : Nat) : (ls.take k).flatten.length + (ls.getD k []).length ≤ ls.flatten.length := by
  by_cases h : k < ls.length
  · have e : ls.flatten = (ls.take (k + 1)).flatten ++ (ls.drop (k + 1)).flatten := by rw [← List.flatten_append, List.take_append_drop]
    rw [e, List.length_append, flatten_take_succ ls k h, List.length_append]; omega
  · rw [List.take_of_length_le (by omega)]
    simp [List.getElem?_eq_none (show ls.length ≤ k by omega)]

set_option maxRecDepth 100000 in
set_option maxHeartbeats 400000 in
theorem sumAfter_any (w : World) (vh vp : Value) (H : List Int) (ls : List (List Int)) (hH : Slc w vh H) (hP : Parts w vp ls) (hlen : H.length + ls.flatten.length ≤ 281474976710656) (ht : Tab w) :
    Calls Tryd.prog 71 #[vh, vp] w fun e w' => ∃ go, e = .returned (.slice (some ⟨go, 0, none⟩) 32 32) ∧ Blk w' go .u8 5 (Sh.sha (H ++ ls.flatten)) ∧ w.heap.size ≤ go ∧ Below w.heap.size w w' := by
  obtain ⟨ah, caph, rfl, hch, hh8, hhm⟩ := hH
  obtain ⟨ap, capp, rfl, hpl, hpm⟩ := hP
  have hSH : Slc w (.slice ah H.length caph) H := ⟨ah, caph, rfl, hch, hh8, hhm⟩
  have hz := zero48
  have hb := build48
  have h74 := size48
  have hz74 : z64c.size = 74 := by rfl
  have HSH := Lib.hid hSH
  have HT := Lib.hid ht
  have HPM := Lib.hid hpm
  have H74 := Lib.hid h74
  have HZ74 := Lib.hid hz74
  clear hSH hpm hhm hh8 h74 hz74
  go_enter Tryd.func71, Tryd.ntmps71
  go_wp2_with (first | (go_at_call 84; refine (start_val _).mono ?_; rintro e w1 ⟨rfl, hb1⟩; have HB1 := Lib.hid hb1; clear hb1) | ((with_reducible refine wpList_store_row (o := ⟨none, _, _, _, _, _⟩) rfl 105 (.tmp 5) (.tmp 9) rfl w1.heap.size _ rfl rfl 105 _ (heap_alloc_new w1 _) ?_ ?_ ?_ ?_); exact H74.out.trans (congrArg some dg74.symm); exact HZ74.out.trans dg74.symm; exact one74; generalize hw2 : World.setRow _ _ _ = w2; have HW2 := Lib.hid hw2; clear hw2))
  have hsz1 := HB1.out.size
  have hbw2 : Below w.heap.size w w2 := by rw [← HW2.out]; exact below_setRow (HB1.out.alloc hsz1 _) hsz1 _
  have hgs : w1.heap.size < w2.heap.size := by rw [← HW2.out]; simp
  have hrep : Rep w2 w1.heap.size [] := rep_start w2 _ (by rw [← HW2.out, built48]; exact setRow_heap _ _ _ _ 105 _ (heap_alloc_new w1 _))
  have h0 := ht.1
  have htab := ht.below hbw2 h0
  obtain ⟨-, hc2, hby⟩ := bytes_of_slc HSH.out w1.heap.size hsz1 w2 hbw2
  have htk := take_any w1.heap.size caph w2 [] H ah hrep (by simp; omega) hby hc2 htab (by omega) hgs
  rw [List.nil_append] at htk
  have HTK := Lib.hid htk
  have HBW := Lib.hid hbw2
  clear htk hby hrep HW2 HB1 hbw2 htab hc2 hz hb HZ74 H74 ht
  generalize w1.heap.size = g at *
  go_wp2_with ((go_at_call 85; refine HTK.out.mono ?_; rintro e w3 ⟨rfl, hR3, hO3⟩; have HR3 := Lib.hid hR3; have HO3 := Lib.hid hO3; clear hR3 hO3))
  have hB3 : Hid (Below w.heap.size w w3) := below_of_only HBW.out HO3.out hsz1 (by omega)
  have hg3 : g < w3.heap.size := Nat.lt_of_lt_of_le hgs HO3.out.size
  clear HTK HBW HO3
  go_loopw [14] (fun i wr => ∃ k : Nat, k ≤ ls.length ∧ i = .int .i64 k ∧ Hid (Rep wr g (H ++ (ls.take k).flatten)) ∧ Hid (Below w.heap.size w wr) ∧ g < wr.heap.size) (fun i _ => ls.length - (intOf i).toNat)
  case atStart => exact ⟨0, by omega, rfl, by simpa using HR3, hB3, hg3⟩
  case round =>
    clear HR3 hB3 hg3
    obtain ⟨k, hk, rfl, R, B, hgw⟩ := hrel
    by_cases hlt : k < ls.length
    · obtain ⟨b, off, rfl, hbw, hcells⟩ : ∃ b off, ap = some ⟨b, off, none⟩ ∧ b < w.heap.size ∧ ∀ (j : Nat), j < ls.length → ∃ u, w.cell? ⟨b, off + j, none⟩ = some u ∧ Slc w u (ls.getD j []) := by
        rcases HPM.out with h | h
        · rw [h] at hlt; simp at hlt
        · exact h
      obtain ⟨u, hu, hsl⟩ := hcells k hlt
      have hu' : wr.cell? ⟨b, off + k, none⟩ = some u := (B.out.cell (p := ⟨b, off + k, none⟩) hbw).trans hu
      obtain ⟨ak, ck, rfl, -⟩ := id hsl
      obtain ⟨-, hck, hby⟩ := bytes_of_slc hsl g hsz1 wr B.out
      have hfl := flatten_take_le ls k
      have htk := take_any g ck wr (H ++ (ls.take k).flatten) (ls.getD k []) ak R.out (by rw [List.length_append]; omega) hby hck (HT.out.below B.out h0) (by omega) hgw
      rw [List.append_assoc, ← flatten_take_succ ls k hlt] at htk
      have HTK := Lib.hid htk
      clear htk hby hsl hcells hfl HPM hu hck
      generalize (ls.getD k []).length = nk at *
      go_wp2_with ((go_at_call 85; refine HTK.out.mono ?_; rintro e w4 ⟨rfl, hR4, hO4⟩; have HR4 := Lib.hid hR4; have HO4 := Lib.hid hO4; clear hR4 hO4))
      go_roundw
      case rel => exact ⟨k + 1, by omega, by go_num, HR4, below_of_only B.out HO4.out hsz1 B.out.size, Nat.lt_of_lt_of_le hgw HO4.out.size⟩
      case measure => simp [intOf]; omega
    · obtain rfl : k = ls.length := by omega
      have hR : Rep wr g (H ++ ls.flatten) := by have := R.out; rwa [List.take_of_length_le (Nat.le_refl _)] at this
      have hen := end_any g wr (H ++ ls.flatten) hR (by rw [List.length_append]; omega) (HT.out.below B.out h0) (by omega) hgw
      have HEN := Lib.hid hen
      clear hen hR R HPM HSH
      go_wp2_with ((go_at_call 86; refine HEN.out.mono ?_; rintro e w4 ⟨go, rfl, hb4, hgo4, ho4⟩; have HB4 := Lib.hid hb4; have HGO := Lib.hid hgo4; have HO4 := Lib.hid ho4; clear hb4 hgo4 ho4))
      go_ret
      exact ⟨go, rfl, HB4.out, Nat.le_trans B.out.size HGO.out, below_of_only B.out HO4.out hsz1 B.out.size⟩
end Go.Proofs.YtiinmdleechcgaaDoor.Sha
namespace Go.Proofs.YtiinmdleechcgaaDoor.Sha
open Go.RowKit

def c64 : Array Value := ((List.replicate 64 (0 : Int)).map (Value.int .u8)).toArray
theorem zero46 (w : World) : (zeroValue 103).run Tryd.prog w = .ok (.agg c64) w := by kernel_rfl

namespace Sh
def x8 (x m : Int) : Int := bits .xor .u8 x m
def pad64 (K : List Int) : List Int := K ++ List.replicate (64 - K.length) 0
/-- The key of one block, masked. -/
def mask (K : List Int) (m : Int) : List Int := (pad64 K).map fun x => x8 x m
def maskAt (L : List Int) (m : Int) (k : Nat) : List Int := ((L.take k).map fun x => x8 x m) ++ L.drop k
theorem x8_W (x m : Int) : W8 (x8 x m) := by
  unfold x8 bits
  rw [IntKind.wrap_u8]; unfold W8; omega
theorem length_pad64 (K : List Int) (h : K.length ≤ 64) : (pad64 K).length = 64 := by simp [pad64]; omega
theorem length_maskAt (L : List Int) (m : Int) (k : Nat) : (maskAt L m k).length = L.length := by simp [maskAt]; omega
theorem maskAt_zero (L : List Int) (m : Int) : maskAt L m 0 = L := by simp [maskAt]
theorem maskAt_all (L : List Int) (m : Int) (k : Nat) (h : L.length ≤ k) : maskAt L m k = L.map fun x => x8 x m := by
  simp [maskAt, List.take_of_length_le h, List.drop_eq_nil_of_le h]
theorem maskAt_get (L : List Int) (m : Int) (k : Nat) (h : k < L.length) : (maskAt L m k).getD k 0 = L.getD k 0 := by
  unfold maskAt
  rw [List.getD_eq_getElem?_getD, List.getElem?_append_right (by simp; omega), List.getD_eq_getElem?_getD]
  congr 1
  simp
  congr 1; omega
theorem maskAt_set (L : List Int) (m : Int) (k : Nat) (h : k < L.length) : (maskAt L m k).set k (x8 (L.getD k 0) m) = maskAt L m (k + 1) := by
  unfold maskAt
  rw [List.set_append_right _ _ (by simp; omega), List.take_succ_eq_append_getElem h, List.map_append, List.append_assoc]
  congr 1
  have e : L.drop k = L[k] :: L.drop (k + 1) := List.drop_eq_getElem_cons h
  simp [h, Nat.min_eq_left (Nat.le_of_lt h)]
  rw [e]; rfl
theorem mask_W (K : List Int) (m : Int) : ∀ x ∈ mask K m, W8 x := by
  intro x hx
  simp only [mask, List.mem_map] at hx
  obtain ⟨y, _, rfl⟩ := hx
  exact x8_W _ _
theorem length_mask (K : List Int) (m : Int) (h : K.length ≤ 64) : (mask K m).length = 64 := by simp [mask, length_pad64 K h]
end Sh

theorem copy_key (w : World) (a : Option Addr) (cap : Nat) (K : List Int) (hK : K.length ≤ 64) (hS : Slc w (.slice a K.length cap) K) :
    ∃ w2, (Builtin.copy_ #[22, 22] 3 #[.slice (some ⟨w.heap.size, 0, none⟩) 64 64, .slice a K.length cap]).run Tryd.prog (w.alloc (.cells c64 103)) = .ok (.int .i64 K.length) w2 ∧ Blk w2 w.heap.size .u8 103 (Sh.pad64 K) ∧ Below w.heap.size w w2 := by
  have h0 : Below w.heap.size w (w.alloc (.cells c64 103)) := (Below.refl _ _).alloc (Nat.le_refl _) _
  have hbk : (w.alloc (.cells c64 103)).heap[w.heap.size]? = some (.cells c64 103 (0, 0)) := heap_alloc_new w _
  by_cases hn : K = []
  · subst hn
    refine ⟨_, run_copy_none _ 22 22 3 5 _ _ _ _ _ _ Tryd.underlying22 i5 (by simp), ?_, h0⟩
    exact hbk
  · obtain ⟨a', cap', hv, hc, h8, hm⟩ := hS
    simp only [Value.slice.injEq] at hv
    obtain ⟨rfl, -, rfl⟩ := hv
    rcases hm with hm | ⟨b, off, rfl, h2, h3⟩
    · exact absurd hm hn
    · have hl : (K.map (Value.int .u8)).length = K.length := List.length_map _
      have hr := run_copy_row (P := Tryd.prog) (w.alloc (.cells c64 103)) 22 22 3 5 w.heap.size 0 64 64 ⟨b, off, none⟩ K.length cap c64 103 (K.map (Value.int .u8)) Tryd.underlying22 i5 hbk (by rw [hl]; exact (Nat.min_eq_left hK).symm) (src_of_at (h3.below h0 h2)) (by rw [hl]; simp [c64]; omega) (ints_oneCell _ _)
      rw [hl] at hr
      refine ⟨_, hr, ?_, below_setRow h0 (Nat.le_refl _) _⟩
      have := setRow_heap _ _ _ (c64.toList.take 0 ++ K.map (Value.int .u8) ++ c64.toList.drop (0 + K.length)).toArray 103 _ hbk
      refine this.trans ?_
      have hc : c64.toList = List.replicate 64 (.int .u8 0) := by unfold c64; rw [List.map_replicate]
      rw [hc, List.drop_replicate]
      simp only [Sh.pad64, List.map_append, List.map_replicate, List.take_zero, List.nil_append, Nat.zero_add]

end Go.Proofs.YtiinmdleechcgaaDoor.Sha
namespace Go.Proofs.YtiinmdleechcgaaDoor.Sha
open Go.RowKit

theorem slc_of {w : World} {go : Nat} {t : TypeId} {l : List Int} {n c : Nat} (h : Blk w go .u8 t l) (hl : l.length = n) (hc : n ≤ c) (h8 : ∀ x ∈ l, Sh.W8 x) : Slc w (.slice (some ⟨go, 0, none⟩) n c) l :=
  ⟨_, c, by rw [hl], by omega, h8, Or.inr ⟨go, 0, rfl, h.lt, h.at⟩⟩
theorem Blk.below {w w' : World} {B g : Nat} {k : IntKind} {t : TypeId} {l : List Int} (h : Blk w g k t l) (hb : Below B w w') (hg : g < B) : Blk w' g k t l := h.other (hb.block g hg)

namespace Sh
theorem outW_W (x : Int) (h : W32 x) : ∀ y ∈ outW x, W8 y := by
  intro y hy
  obtain ⟨h0, h1⟩ := h
  unfold outW at hy
  simp only [List.mem_cons, List.not_mem_nil, or_false] at hy
  unfold W8
  rcases hy with rfl | rfl | rfl | rfl <;> omega
theorem sha_W (l : List Int) : ∀ y ∈ sha l, W8 y := by
  intro y hy
  unfold sha out at hy
  rw [List.mem_flatMap] at hy
  obtain ⟨x, hx, hy⟩ := hy
  refine outW_W x ?_ y hy
  obtain ⟨ha, hb, hc, hd, he, hf, hg, hh⟩ : (stOf (l ++ pad l.length)).ok := blocks_ok _ _ _ H0_ok
  simp only [S.cells, List.mem_cons, List.not_mem_nil, or_false] at hx
  rcases hx with rfl | rfl | rfl | rfl | rfl | rfl | rfl | rfl <;> assumption
theorem length_sha (l : List Int) : (sha l).length = 32 := by simp [sha, out, S.cells, outW]
/-- The key that is masked. -/
def key (K : List Int) : List Int := if 64 < K.length then sha K else K
/-- HMAC. -/
def mac (K L : List Int) : List Int := sha (mask (key K) 92 ++ sha (mask (key K) 54 ++ L))
theorem length_key (K : List Int) : (key K).length ≤ 64 := by
  unfold key; split
  · rw [length_sha]; omega
  · omega
end Sh

theorem parts_one {w w' : World} {g : Nat} {t : TypeId} {v : Value} {P : List Int} (h : w.heap[g]? = some (.cells #[v] t (0, 0))) (hs : Slc w v P) (hw : w' = w) : Parts w' (.slice (some ⟨g, 0, none⟩) 1 1) [P] := by
  subst hw
  refine ⟨_, 1, rfl, by simp, Or.inr ⟨g, 0, rfl, lt_of_block h, ?_⟩⟩
  intro j hj
  obtain rfl : j = 0 := by simpa using hj
  exact ⟨v, by rw [cell_of_row _ _ _ _ t (0, 0) h]; rfl, hs⟩

theorem slc_mask {w : World} {go : Nat} {K : List Int} {m : Int} (hK : K.length ≤ 64) (h : Blk w go .u8 103 (Sh.mask K m)) : Slc w (.slice (some ⟨go, 0, none⟩) 64 64) (Sh.mask K m) :=
  slc_of h (Sh.length_mask K m hK) (Nat.le_refl _) (Sh.mask_W K m)
theorem slc_sha {w : World} {go : Nat} {L : List Int} (h : Blk w go .u8 5 (Sh.sha L)) : Slc w (.slice (some ⟨go, 0, none⟩) 32 32) (Sh.sha L) :=
  slc_of h (Sh.length_sha L) (Nat.le_refl _) (Sh.sha_W L)

end Go.Proofs.YtiinmdleechcgaaDoor.Sha
namespace Go.Proofs.YtiinmdleechcgaaDoor.Sha
open Go.RowKit

namespace Sh
def wide (L : List Int) : List Int := sha (0 :: L) ++ sha (1 :: L)
end Sh

theorem slc_byte (w w' : World) (x : Int) (hx : Sh.W8 x) (hw : w' = w.alloc (.cells #[.int .u8 x] 5)) : Slc w' (.slice (some ⟨w.heap.size, 0, none⟩) 1 1) [x] := by
  subst hw
  have hb : Blk (w.alloc (.cells #[.int .u8 x] 5)) w.heap.size .u8 5 [x] := heap_alloc_new w _
  exact slc_of hb rfl (Nat.le_refl _) (by simpa using hx)

/-- The two sums, one behind the other. -/
theorem wide_steps (w : World) (vp : Value) (ls : List (List Int)) (hP : Parts w vp ls) (hlen : ls.flatten.length ≤ 1099511627776) (ht : Tab w) :
    Calls Tryd.prog 71 #[.slice (some ⟨w.heap.size, 0, none⟩) 1 1, vp] (w.alloc (.cells #[.int .u8 0] 5)) fun e w1 => ∃ g1, e = .returned (.slice (some ⟨g1, 0, none⟩) 32 32) ∧
      Calls Tryd.prog 71 #[.slice (some ⟨w1.heap.size, 0, none⟩) 1 1, vp] (w1.alloc (.cells #[.int .u8 1] 5)) fun e w2 => ∃ g2, e = .returned (.slice (some ⟨g2, 0, none⟩) 32 32) ∧
        Blk w2 g1 .u8 5 (Sh.sha (0 :: ls.flatten)) ∧ Blk w2 g2 .u8 5 (Sh.sha (1 :: ls.flatten)) ∧ w.heap.size ≤ g1 ∧ Below w.heap.size w w2 := by
  have ho0 : Below w.heap.size w (w.alloc (.cells #[.int .u8 0] 5)) := (Below.refl _ _).alloc (Nat.le_refl _) _
  refine (sumAfter_any _ _ vp [0] ls (slc_byte w _ 0 (by unfold Sh.W8; omega) rfl) (hP.below ho0 (Nat.le_refl _)) (by simp only [List.length_singleton]; omega) (ht.below ho0 ht.1)).mono ?_
  rintro e w1 ⟨g1, rfl, hb1, hg1, ho1⟩
  refine ⟨g1, rfl, ?_⟩
  have ho1' : Below w.heap.size w w1 := ho0.trans (ho1.mono ho0.size)
  have ho2 : Below w1.heap.size w1 (w1.alloc (.cells #[.int .u8 1] 5)) := (Below.refl _ _).alloc (Nat.le_refl _) _
  have ho2' : Below w.heap.size w (w1.alloc (.cells #[.int .u8 1] 5)) := ho1'.trans (ho2.mono ho1'.size)
  refine (sumAfter_any _ _ vp [1] ls (slc_byte w1 _ 1 (by unfold Sh.W8; omega) rfl) (hP.below ho2' (Nat.le_refl _)) (by simp only [List.length_singleton]; omega) (ht.below ho2' ht.1)).mono ?_
  rintro e w2 ⟨g2, rfl, hb2, hg2, ho3⟩
  refine ⟨g2, rfl, ?_, hb2, Nat.le_trans ho0.size hg1, ho2'.trans (ho3.mono ho2'.size)⟩
  have hb1' := hb1.below ho2 hb1.lt
  exact hb1'.below ho3 hb1'.lt

/-- What is owned: where it lies. -/
theorem own_lies {w : World} {base n : Nat} {v : Value} {l : List Int} (h : w.ownsRow base 5 1 v n (l.map (Value.int .u8))) (hn : l.length = n) (h0 : 0 < n) :
    ∃ g cap, v = .slice (some ⟨g, 0, none⟩) n cap ∧ n ≤ cap ∧ At w .u8 g 0 l ∧ base ≤ g ∧ g < w.heap.size := by
  obtain ⟨_, h2⟩ := h
  rcases h2 with ⟨_, h⟩ | ⟨g, cap, cur, hv, hb, hg, hc, _, hs, ht⟩
  · omega
  · refine ⟨g, cap, hv, hc, ?_, hb, lt_of_block hg⟩
    intro j hj
    rw [Nat.zero_add, cell_of_row w g j _ 5 (0, 0) hg]
    have e : (cur.toList.take (n * 1))[j]? = some (.int .u8 (l.getD j 0)) := by rw [ht]; simp [hj]
    rw [List.getElem?_take_of_lt (by omega)] at e
    simpa using e
theorem length_wide (L : List Int) : (Sh.wide L).length = 64 := by simp [Sh.wide, Sh.length_sha]

set_option maxRecDepth 100000 in
set_option maxHeartbeats 400000 in
theorem wide_any (w : World) (vp : Value) (ls : List (List Int)) (hP : Parts w vp ls) (hlen : ls.flatten.length ≤ 1099511627776) (ht : Tab w) :
    Calls Tryd.prog 43 #[vp] w fun e w' => ∃ go, e = .returned (.slice (some ⟨go, 0, none⟩) 64 64) ∧ At w' .u8 go 0 (Sh.wide ls.flatten) ∧ go < w'.heap.size ∧ Below w.heap.size w w' := by
  have hst := wide_steps w vp ls hP hlen ht
  have HST := Lib.hid hst
  obtain ⟨i0, hi, hz0, hz1, hz2⟩ := info_parts info5
  have hw : Hid (Sh.wide ls.flatten = Sh.sha (0 :: ls.flatten) ++ Sh.sha (1 :: ls.flatten)) := rfl
  have hl0 : Hid ((Sh.sha (0 :: ls.flatten)).length = 32) := Sh.length_sha _
  have hl1 : Hid ((Sh.sha (1 :: ls.flatten)).length = 32) := Sh.length_sha _
  clear hst hP ht
  generalize Sh.wide ls.flatten = W at *
  generalize Sh.sha (0 :: ls.flatten) = A at *
  generalize Sh.sha (1 :: ls.flatten) = B at *
  go_enter Tryd.func43, Tryd.ntmps43
  go_wp2_with (first
    | (go_at_call 71; refine H1.out.mono ?_; rintro e w2 ⟨g2, rfl, h2, h3, h4, h5⟩; have H2 := Lib.hid (src_of_at h2.at); have H3 := Lib.hid (src_of_at h3.at); have H5 := Lib.hid h5; clear h2 h3 h4 h5)
    | (go_at_call 71; refine HST.out.mono ?_; rintro e w1 ⟨g1, rfl, h1⟩; have H1 := Lib.hid h1; clear h1)
    | ((with_reducible refine wpList_append_grows _ (o := ⟨some 10, _, _, _, _, _⟩) rfl (.tmp 6) (.tmp 9) 22 rfl 5 i0 (.int .u8 0) 1 1 Tryd.underlying22 hi hz0 hz1 hz2 rfl (by decide) (some ⟨g1, 0, none⟩) 32 32 (A.map (Value.int .u8)) rfl ?_ ?_ ?_ ⟨g2, 0, none⟩ 32 32 (B.map (Value.int .u8)) rfl ?_ ?_ ?_ ?_ ?_ ?_ ?_); exact (fun h => by cases h); exact (by rw [List.length_map, hl0.out]); exact (fun b hb => by cases hb; exact H2.out); exact (by rw [List.length_map, hl1.out]); exact H3.out; exact ints_oneCell _ _; exact (by decide); exact (by unfold maxLen; omega); exact (by omega); rintro v3 w3 hown hgr; rw [← List.map_append] at hown; obtain ⟨g3, cap3, rfl, hc3, hat3, hb3, hlt3⟩ := own_lies hown (by rw [List.length_append, hl0.out, hl1.out]) (by omega); have HAT := Lib.hid hat3; have HGR := Lib.hid hgr; clear hown hat3 hgr hb3))
  go_ret
  exact ⟨g3, rfl, by rw [hw.out]; exact HAT.out, hlt3, H5.out.trans ⟨HGR.out.os, HGR.out.tape, HGR.out.output, HGR.out.size, fun k hk => HGR.out.block k (Nat.lt_of_lt_of_le hk H5.out.size) (by simp)⟩⟩
end Go.Proofs.YtiinmdleechcgaaDoor.Sha
namespace Go.Proofs.YtiinmdleechcgaaDoor.Sha
open Go.RowKit

/-- What the reference's sum gives, in a block of its own. -/
def Fresh (w : World) (a : Option Addr) : Prop := ∀ p, a = some p → w.heap.size ≤ p.block
theorem Fresh.mono {w w' : World} {a : Option Addr} (h : Fresh w' a) (hs : w.heap.size ≤ w'.heap.size) : Fresh w a := fun p hp => Nat.le_trans hs (h p hp)
def RSum : Prop := ∀ (w : World) (v : Value) (m : List Int), Slc w v m → m.length ≤ 1000000 → Calls Tryd.prog 29 #[v] w fun e w' => ∃ a n c, e = .returned (.slice a n c) ∧ Slc w' (.slice a n c) (Sh.sha m) ∧ Below w.heap.size w w' ∧ Fresh w a

theorem slc_len {w : World} {a : Option Addr} {n c : Nat} {P : List Int} (h : Slc w (.slice a n c) P) : n = P.length := by
  obtain ⟨_, _, hv, _⟩ := h
  simp only [Value.slice.injEq] at hv
  exact hv.2.1

theorem own_apart {w w' : World} {base k : Nat} {e : TypeId} {v : Value} {xs : List Value} {r : Option Nat} (h : w.ownsRow base e 1 v k xs) (hg : w.grownBy w' r) (hne : ∀ g, v.ownBlock = some g → r ≠ some g) : w'.ownsRow base e 1 v k xs := by
  obtain ⟨h1, h2⟩ := h
  refine ⟨h1, ?_⟩
  rcases h2 with h2 | ⟨g, cap, cur, rfl, hb, hat, r2⟩
  · exact Or.inl h2
  · exact Or.inr ⟨g, cap, cur, rfl, hb, (hg.block g (lt_of_block hat) (fun hh => hne g rfl hh.symm)).trans hat, r2⟩
theorem own_lt {w : World} {base k : Nat} {e : TypeId} {v : Value} {xs : List Value} (h : w.ownsRow base e 1 v k xs) : ∀ g, v.ownBlock = some g → base ≤ g ∧ g < w.heap.size := by
  intro g hg
  rcases h.2 with ⟨rfl, _⟩ | ⟨g', cap, cur, rfl, hb, hat, _⟩
  · simp [Value.ownBlock] at hg
  · simp only [Value.ownBlock, Option.some.injEq] at hg
    subst hg; exact ⟨hb, lt_of_block hat⟩
/-- Two rows that are owned, apart. -/
def Two (w : World) (base : Nat) (v u : Value) (n m : Nat) (A B : List Int) : Prop :=
  w.ownsRow base 5 1 v n (A.map (Value.int .u8)) ∧ w.ownsRow base 5 1 u m (B.map (Value.int .u8)) ∧ ∀ g, v.ownBlock = some g → u.ownBlock ≠ some g
theorem Two.swap {w : World} {base n m : Nat} {v u : Value} {A B : List Int} (h : Two w base v u n m A B) : Two w base u v m n B A := ⟨h.2.1, h.1, fun g hg hv => h.2.2 g hv hg⟩
theorem Two.alloc {w : World} {base n m : Nat} {v u : Value} {A B : List Int} (h : Two w base v u n m A B) (o : Obj) : Two (w.alloc o) base v u n m A B := ⟨h.1.alloc o, h.2.1.alloc o, h.2.2⟩
/-- The first one is appended to. -/
theorem Two.grow {w w' : World} {base n m : Nat} {v u v' : Value} {A B : List Int} {x : Int} (h : Two w base v u n m A B) (ho : w'.ownsRow base 5 1 v' (n + 1) (A.map (Value.int .u8) ++ [.int .u8 x])) (hg : w.grownBy w' v.ownBlock) (hb : v'.ownBlock = v.ownBlock ∨ v'.ownBlock = some w.heap.size) : Two w' base v' u (n + 1) m (A ++ [x]) B := by
  refine ⟨by rw [List.map_append]; exact ho, own_apart h.2.1 hg (fun g hu hv => h.2.2 g hv hu), ?_⟩
  intro g hv hu
  rcases hb with hb | hb
  · exact h.2.2 g (hb.symm.trans hv) hu
  · have h1 := own_lt h.2.1 g hu
    rw [hb] at hv
    cases hv
    omega
theorem below_two {w wr w' : World} {k : Nat} {v : Value} {xs : List Value} (hb : Below w.heap.size w wr) (h : wr.ownsRow w.heap.size 5 1 v k xs) (hg : wr.grownBy w' v.ownBlock) : Below w.heap.size w w' := by
  refine hb.trans ⟨hg.os, hg.tape, hg.output, hg.size, fun i hi => hg.block i (Nat.lt_of_lt_of_le hi hb.size) ?_⟩
  intro hh
  have := own_lt h i hh.symm
  omega
theorem mask_take (K : List Int) (m : Int) (k : Nat) (h : k < 64) (hK : K.length ≤ 64) : (Sh.mask K m).take (k + 1) = (Sh.mask K m).take k ++ [Sh.x8 ((Sh.pad64 K).getD k 0) m] := by
  have hl := Sh.length_mask K m hK
  have hp := Sh.length_pad64 K hK
  rw [List.take_succ_eq_append_getElem (by omega)]
  simp [Sh.mask, show k < (Sh.pad64 K).length by omega]
theorem pad_low (K : List Int) (k : Nat) (h : k < K.length) : (Sh.pad64 K).getD k 0 = K.getD k 0 := by
  unfold Sh.pad64
  rw [List.getD_eq_getElem?_getD, List.getElem?_append_left h, ← List.getD_eq_getElem?_getD]
theorem pad_high (K : List Int) (k : Nat) (h : K.length ≤ k) : (Sh.pad64 K).getD k 0 = 0 := by
  unfold Sh.pad64
  rw [List.getD_eq_getElem?_getD, List.getElem?_append_right h, List.getElem?_replicate]
  split <;> rfl
theorem slc_at {w : World} {a : Option Addr} {n c : Nat} {P : List Int} (h : Slc w (.slice a n c) P) (j : Nat) (hj : j < n) : ∃ b off, a = some ⟨b, off, none⟩ ∧ b < w.heap.size ∧ w.cell? ⟨b, off + j, none⟩ = some (.int .u8 (P.getD j 0)) := by
  obtain ⟨a', cap', hv, _, _, hm⟩ := h
  simp only [Value.slice.injEq] at hv
  obtain ⟨rfl, rfl, rfl⟩ := hv
  rcases hm with hm | ⟨b, off, rfl, h2, h3⟩
  · rw [hm] at hj; simp at hj
  · exact ⟨b, off, rfl, h2, h3 j hj⟩

/-- What is nil, whatever room it claims, appended to what is owned. -/
theorem run_append_none_cap {P : Program} {w : World} (base : Nat) (t ty e : TypeId) (i : TypeInfo) (size : Nat) (ht : P.underlying t = some (.slice e)) (hi : P.info? e = some i)
    (v : Value) (n c : Nat) (xs : List Value) (hown : w.ownsRow base e size v n xs) :
    (Builtin.append_ #[t, t] ty #[v, .slice none 0 c]).run P w = .ok v w := by
  rcases hown.2 with ⟨rfl, rfl⟩ | ⟨g, cap, cur, rfl, _, _, hnc, _⟩
  · simp [Builtin.append_, run_underlying ht, sizeOf, typeInfo, hi, Builtin.lenOf, Builtin.firstCells]
  · simp [Builtin.append_, run_underlying ht, sizeOf, typeInfo, hi, Builtin.lenOf, Builtin.firstCells, hnc, storeCells]
theorem append_none_cap {P : Program} {w : World} {ops : Array Oper} {rest : List Oper} {o : Oper} {a : Act} {Q : Exit → Act → World → Prop} (hgd : o.guard = none) (s x : Operand) (t : TypeId)
    (ho : o.op = .call { callee := .builtin .append, args := #[s, x], argTypes := #[t, t] })
    (base : Nat) (e : TypeId) (i : TypeInfo) (size : Nat) (ht : P.underlying t = some (.slice e)) (hi : P.info? e = some i)
    (v : Value) (n c : Nat) (xs : List Value) (hs : a.eval s = v) (hown : w.ownsRow base e size v n xs) (hx : a.eval x = .slice none 0 c)
    (h : wpList P ops Q rest (a.put o.dst v) w) : wpList P ops Q (o :: rest) a w := by
  refine wpList_plain hgd fun K hK => ?_
  have hrun := run_append_none_cap (P := P) (w := w) base t o.type e i size ht hi v n c xs hown
  unfold Oper.wp
  simp [execOp, ho, resolve, invoke, builtin, hs, hx, hrun, Result.andThen]
  exact hK _ _ h

end Go.Proofs.YtiinmdleechcgaaDoor.Sha
namespace Go.Proofs.YtiinmdleechcgaaDoor.Sha
open Go.RowKit

theorem slc_own {w : World} {base n : Nat} {v : Value} {l : List Int} (h : w.ownsRow base 5 1 v n (l.map (Value.int .u8))) (h8 : ∀ x ∈ l, Sh.W8 x) : ∃ a c, v = .slice a n c ∧ Slc w (.slice a n c) l := by
  have hl : l.length = n := by have := h.1; simpa using this
  rcases h.2 with ⟨rfl, h0⟩ | ⟨g, cap, cur, rfl, _, _, hc, _⟩
  · exact ⟨none, 0, by rw [h0], none, 0, by rw [hl], by omega, h8, Or.inl (List.eq_nil_of_length_eq_zero (by omega))⟩
  · refine ⟨_, _, rfl, some ⟨g, 0, none⟩, cap, by rw [hl], by omega, h8, ?_⟩
    by_cases h0 : n = 0
    · exact Or.inl (List.eq_nil_of_length_eq_zero (by omega))
    · obtain ⟨g2, cap2, hv, _, hat, _, hlt⟩ := own_lies h hl (by omega)
      cases hv
      exact Or.inr ⟨g, 0, rfl, hlt, hat⟩
theorem slc_src {w : World} {ad : Addr} {n c : Nat} {P : List Int} (h : Slc w (.slice (some ad) n c) P) : ∀ (j : Nat) (u : Value), (P.map (Value.int .u8))[j]? = some u → w.cell? (ad.add j) = some u := by
  obtain ⟨a', cap', hv, _, _, hm⟩ := h
  simp only [Value.slice.injEq] at hv
  obtain ⟨rfl, rfl, rfl⟩ := hv
  rcases hm with hm | ⟨b, off, hb, h2, h3⟩
  · intro j u hu; rw [hm] at hu; simp at hu
  · cases hb; exact src_of_at h3

end Go.Proofs.YtiinmdleechcgaaDoor.Sha
namespace Go.Proofs.YtiinmdleechcgaaDoor.Sha
open Go.RowKit
namespace Sh
/-- Some bytes as a number, the highest first. -/
def acc (p : List Int) (at0 : Nat) : Nat → Int
  | 0 => 0
  | j + 1 => acc p at0 j * 256 + p.getD (at0 + j) 0
theorem acc_low (p : List Int) (at0 j : Nat) (h : ∀ x ∈ p, W8 x) (hj : j ≤ 3) : 0 ≤ acc p at0 j ∧ acc p at0 j ≤ 16777215 := by
  have h0 := W8_getD h (at0 + 0)
  have h1 := W8_getD h (at0 + 1)
  have h2 := W8_getD h (at0 + 2)
  obtain ⟨a0, b0⟩ := h0
  obtain ⟨a1, b1⟩ := h1
  obtain ⟨a2, b2⟩ := h2
  match j, hj with
  | 0, _ => simp only [acc]; omega
  | 1, _ => simp only [acc]; omega
  | 2, _ => simp only [acc]; omega
  | 3, _ => simp only [acc]; omega
theorem ld4_sum (a b c d : Int) (ha : W8 a) (hb : W8 b) (hc : W8 c) (hd : W8 d) : ld4 a b c d = ((a * 256 + b) * 256 + c) * 256 + d := by
  obtain ⟨a0, a1⟩ := ha
  obtain ⟨b0, b1⟩ := hb
  obtain ⟨c0, c1⟩ := hc
  obtain ⟨d0, d1⟩ := hd
  obtain ⟨A, rfl⟩ := Int.eq_ofNat_of_zero_le a0
  obtain ⟨B, rfl⟩ := Int.eq_ofNat_of_zero_le b0
  obtain ⟨C, rfl⟩ := Int.eq_ofNat_of_zero_le c0
  obtain ⟨D, rfl⟩ := Int.eq_ofNat_of_zero_le d0
  unfold ld4
  rw [show ((A : Nat) : Int) * 16777216 = ((A * 16777216 : Nat) : Int) by omega, show ((B : Nat) : Int) * 65536 = ((B * 65536 : Nat) : Int) by omega, show ((C : Nat) : Int) * 256 = ((C * 256 : Nat) : Int) by omega]
  rw [u32_or_nat _ _ (by omega) (by omega), nat_join 24 _ _ (by omega) (by omega), u32_or_nat _ _ (by omega) (by omega), nat_join 16 _ _ (by omega) (by omega), u32_or_nat _ _ (by omega) (by omega), nat_join 8 _ _ (by omega) (by omega)]
  omega
theorem acc_four (p : List Int) (i : Nat) (h : ∀ x ∈ p, W8 x) : acc p (4 * i) 4 = ld4 (p.getD (4 * i) 0) (p.getD (4 * i + 1) 0) (p.getD (4 * i + 2) 0) (p.getD (4 * i + 3) 0) := by
  rw [ld4_sum _ _ _ _ (W8_getD h _) (W8_getD h _) (W8_getD h _) (W8_getD h _)]
  simp only [acc, Nat.add_zero]
  omega
/-- The words so far. -/
def words (p : List Int) (i : Nat) : List Int := if i < 16 then (w16 p).take i else grow (i - 16) (w16 p)
theorem length_words (p : List Int) (i : Nat) : (words p i).length = i := by
  unfold words
  split
  · simp [length_w16]; omega
  · rw [length_grow, length_w16]; omega
theorem words_W (p : List Int) (i : Nat) : ∀ x ∈ words p i, W32 x := by
  unfold words
  split
  · intro x hx; exact w16_W p x (List.mem_of_mem_take hx)
  · exact grow_W _ _ (w16_W p)
theorem words_low (p : List Int) (i : Nat) (h : i < 16) (h8 : ∀ x ∈ p, W8 x) : words p (i + 1) = words p i ++ [acc p (4 * i) 4] := by
  rw [acc_four p i h8, show words p i = (w16 p).take i from if_pos h, ← w16_take_succ p i h]
  unfold words
  split
  · rfl
  · obtain rfl : i = 15 := by omega
    rw [List.take_of_length_le (by rw [length_w16]; omega)]; rfl
theorem words_high (p : List Int) (i : Nat) (h : 16 ≤ i) : words p (i + 1) = words p i ++ [ad (ad (ad ((words p i).getD (i - 16) 0) (sg0 ((words p i).getD (i - 15) 0))) ((words p i).getD (i - 7) 0)) (sg1 ((words p i).getD (i - 2) 0))] := by
  have hl := length_words p i
  have e : words p i = grow (i - 16) (w16 p) := if_neg (by omega)
  have e2 : words p (i + 1) = grow (i - 16 + 1) (w16 p) := by
    rw [show i - 16 + 1 = i + 1 - 16 by omega]; exact if_neg (by omega)
  rw [e] at hl ⊢
  rw [e2]
  show _ ++ [ext _] = _
  unfold ext
  rw [hl]
theorem words_all (p : List Int) : words p 64 = sched p := if_neg (by decide)
theorem lbytes_succ (len : Int) (k : Nat) : lbytes len (k + 1) = lbytes len k ++ [lbyte len k] := by simp [lbytes, List.range_succ]
theorem lbytes_W (len : Int) (k : Nat) : ∀ x ∈ lbytes len k, W8 x := by
  intro x hx
  simp only [lbytes, List.mem_map] at hx
  obtain ⟨i, _, rfl⟩ := hx
  unfold lbyte W8; omega
/-- The message with its tail. -/
def full (m : List Int) : List Int := m ++ pad m.length
theorem length_full (m : List Int) : ∃ b, (full m).length = 64 * b ∧ 64 * b ≤ m.length + 72 := by
  refine ⟨(m.length + 1 + (119 - m.length % 64) % 64 + 8) / 64, ?_, ?_⟩
  · simp [full, pad, lbytes]; omega
  · omega
theorem pad_W (n : Nat) : ∀ x ∈ pad n, W8 x := by
  intro x hx
  simp only [pad, List.mem_cons, List.mem_append, List.mem_replicate] at hx
  rcases hx with rfl | ⟨_, rfl⟩ | hx
  · unfold W8; omega
  · unfold W8; omega
  · exact lbytes_W _ _ x hx
theorem full_W (m : List Int) (h : ∀ x ∈ m, W8 x) : ∀ x ∈ full m, W8 x := by
  intro x hx
  rcases List.mem_append.1 hx with hx | hx
  · exact h x hx
  · exact pad_W _ x hx
/-- A block. -/
def blockOf (l : List Int) (b : Nat) : List Int := (l.drop (64 * b)).take 64
theorem blockOf_get (l : List Int) (b j : Nat) (hj : j < 64) : (blockOf l b).getD j 0 = l.getD (64 * b + j) 0 := by
  unfold blockOf
  rw [List.getD_eq_getElem?_getD, List.getElem?_take, if_pos hj, List.getElem?_drop, ← List.getD_eq_getElem?_getD]
theorem blockOf_W (l : List Int) (b : Nat) (h : ∀ x ∈ l, W8 x) : ∀ x ∈ blockOf l b, W8 x := fun x hx => h x (List.mem_of_mem_drop (List.mem_of_mem_take hx))
theorem blocks_more (b : Nat) (s : S) (l : List Int) : blocks (b + 1) s l = plus (blocks b s l) (rounds KK (sched (blockOf l b)) (blocks b s l) 64) := rfl
theorem sha_full (m : List Int) (b : Nat) (h : (full m).length = 64 * b) : sha m = out (blocks b H0 (full m)) := by
  show out (blocks ((full m).length / 64) H0 (full m)) = _
  rw [h, Nat.mul_div_cancel_left _ (by decide)]
theorem outW_take (x : Int) (h : W32 x) (t : Nat) (ht : t < 4) : (outW x).take (t + 1) = (outW x).take t ++ [x / 2 ^ (8 * (3 - t)) % 256] := by
  obtain ⟨h0, h1⟩ := h
  match t, ht with
  | 0, _ =>
    simp [outW]; omega
  | 1, _ => simp [outW]
  | 2, _ => simp [outW]
  | 3, _ => simp [outW]
end Sh
end Go.Proofs.YtiinmdleechcgaaDoor.Sha
namespace Go.Proofs.YtiinmdleechcgaaDoor.Sha
open Go.RowKit

theorem grown_refl (w : World) (r : Option Nat) : w.grownBy w r := ⟨rfl, rfl, rfl, Nat.le_refl _, fun _ _ _ => rfl⟩

/-- Bytes, nil or not, appended to what is owned. -/
theorem append_slc {w : World} {ops : Array Oper} {rest : List Oper} {o : Oper} {a : Act} {Q : Exit → Act → World → Prop} (hgd : o.guard = none) (s x : Operand)
    (ho : o.op = .call { callee := .builtin .append, args := #[s, x], argTypes := #[22, 22] })
    (base : Nat) (v : Value) (n : Nat) (xs : List Int) (hs : a.eval s = v) (hown : w.ownsRow base 5 1 v n (xs.map (Value.int .u8)))
    (am : Option Addr) (m c : Nat) (M : List Int) (hx : a.eval x = .slice am m c) (hM : Slc w (.slice am m c) M) (hlen : n + M.length ≤ 100000000000000) (hbase : base ≤ w.heap.size)
    (h : ∀ v' w', w'.ownsRow base 5 1 v' (n + M.length) ((xs ++ M).map (Value.int .u8)) → w.grownBy w' v.ownBlock → (v'.ownBlock = v.ownBlock ∨ v'.ownBlock = some w.heap.size) → wpList Tryd.prog ops Q rest (a.put o.dst v') w') :
    wpList Tryd.prog ops Q (o :: rest) a w := by
  obtain ⟨i0, hi, hz0, hz1, hz2⟩ := info_parts info5
  obtain rfl := slc_len hM
  cases am with
  | none =>
    obtain rfl : M = [] := by
      obtain ⟨_, _, hv, _, _, hm⟩ := hM
      rcases hm with hm | ⟨_, _, hb, _⟩
      · exact hm
      · cases hv; cases hb
    have hx' : a.eval x = .slice none 0 c := hx
    refine wpList_plain hgd fun K hK => ?_
    have hrun := run_append_none_cap (P := Tryd.prog) (w := w) base 22 o.type 5 i0 1 Tryd.underlying22 hi v n c _ hown
    unfold Oper.wp
    simp [execOp, ho, resolve, invoke, builtin, hs, hx', hrun, Result.andThen]
    exact hK _ _ (h v w (by rw [List.append_nil, List.length_nil, Nat.add_zero]; exact hown) (grown_refl _ _) (Or.inl rfl))
  | some ad =>
    refine wpList_append_own_at w hgd s x 22 ho base 5 i0 (.int .u8 0) 1 1 Tryd.underlying22 hi hz0 hz1 hz2 rfl (by decide) v n (xs.map (Value.int .u8)) hs hown ad M.length c (M.map (Value.int .u8)) hx (by rw [List.length_map, Nat.mul_one]) (slc_src hM) ?_ (by unfold maxLen; omega) (by omega) hbase ?_
    · intro u hu
      simp only [List.mem_map] at hu
      obtain ⟨y, _, rfl⟩ := hu; rfl
    · intro v' w' h1 h2 _ h4
      exact h v' w' (by rw [List.map_append]; exact h1) h2 h4
end Go.Proofs.YtiinmdleechcgaaDoor.Sha
namespace Go.Proofs.YtiinmdleechcgaaDoor.Sha
namespace Nt
def B : Int := 4294967296
def val : List Int → Int
  | [] => 0
  | x :: r => x + B * val r
def pw (n : Nat) : Int := B ^ n
theorem pw_zero : pw 0 = 1 := rfl
theorem pw_succ (n : Nat) : pw (n + 1) = B * pw n := by unfold pw; rw [Int.pow_succ, Int.mul_comm]
theorem pw_pos (n : Nat) : 0 < pw n := Int.pow_pos (by decide)
theorem pw_add (m n : Nat) : pw (m + n) = pw m * pw n := Int.pow_add _ _ _
theorem pw_le {m n : Nat} (h : m ≤ n) : pw m ≤ pw n := by
  obtain ⟨d, rfl⟩ : ∃ d, n = m + d := ⟨n - m, by omega⟩
  rw [pw_add]
  have h1 := pw_pos m
  have h2 := pw_pos d
  calc pw m = pw m * 1 := (Int.mul_one _).symm
    _ ≤ pw m * pw d := Int.mul_le_mul_of_nonneg_left (by omega) (by omega)

def Ws (l : List Int) : Prop := ∀ x ∈ l, Sh.W32 x
theorem Ws.nil : Ws [] := by intro x hx; cases hx
theorem Ws.tail {x : Int} {l : List Int} (h : Ws (x :: l)) : Ws l := fun y hy => h y (List.mem_cons_of_mem _ hy)
theorem Ws.take {l : List Int} (h : Ws l) (n : Nat) : Ws (l.take n) := fun y hy => h y (List.mem_of_mem_take hy)
theorem Ws.drop {l : List Int} (h : Ws l) (n : Nat) : Ws (l.drop n) := fun y hy => h y (List.mem_of_mem_drop hy)
theorem Ws.getD {l : List Int} (h : Ws l) (n : Nat) : Sh.W32 (l.getD n 0) := W32_getD h n
theorem Ws.set {l : List Int} (h : Ws l) (n : Nat) {x : Int} (hx : Sh.W32 x) : Ws (l.set n x) := by
  intro y hy
  rcases List.mem_or_eq_of_mem_set hy with h1 | h1
  · exact h y h1
  · rw [h1]; exact hx

theorem val_nonneg : ∀ {l : List Int}, Ws l → 0 ≤ val l
  | [], _ => by simp [val]
  | x :: r, h => by
    have h1 := val_nonneg h.tail
    have h2 := (h x List.mem_cons_self).1
    unfold val
    have : 0 ≤ B * val r := Int.mul_nonneg (by decide) h1
    omega
theorem val_lt : ∀ {l : List Int}, Ws l → val l < pw l.length
  | [], _ => by simp [val, pw_zero]
  | x :: r, h => by
    have h1 := val_lt h.tail
    have h2 := (h x List.mem_cons_self).2
    rw [val, List.length_cons, pw_succ]
    have h3 : B * val r ≤ B * (pw r.length - 1) := Int.mul_le_mul_of_nonneg_left (by omega) (by decide)
    rw [Int.mul_sub, Int.mul_one] at h3
    have hB : B = 4294967296 := rfl
    omega
theorem val_append : ∀ (a b : List Int), val (a ++ b) = val a + pw a.length * val b
  | [], b => by simp [val, pw_zero]
  | x :: r, b => by
    rw [List.cons_append, val, val, val_append r b, List.length_cons, pw_succ, Int.mul_add, Int.mul_assoc]; omega
theorem val_split (l : List Int) (n : Nat) (h : n ≤ l.length) : val l = val (l.take n) + pw n * val (l.drop n) := by
  conv => lhs; rw [← List.take_append_drop n l]
  rw [val_append, List.length_take, Nat.min_eq_left h]
theorem val_drop (l : List Int) (n : Nat) (h : n < l.length) : val (l.drop n) = l.getD n 0 + B * val (l.drop (n + 1)) := by
  rw [List.drop_eq_getElem_cons h, val]
  simp [h]
theorem val_take_succ (l : List Int) (n : Nat) (h : n < l.length) : val (l.take (n + 1)) = val (l.take n) + pw n * l.getD n 0 := by
  rw [List.take_succ_eq_append_getElem h, val_append, List.length_take, Nat.min_eq_left (by omega)]
  simp [val, h]
theorem val_set : ∀ (l : List Int) (n : Nat) (x : Int), n < l.length → val (l.set n x) = val l + pw n * (x - l.getD n 0)
  | [], n, _, h => by simp at h
  | y :: r, 0, x, _ => by simp [val, pw_zero]; omega
  | y :: r, n + 1, x, h => by
    rw [List.set_cons_succ, val, val, val_set r n x (by simpa using h), pw_succ, Int.mul_add, Int.mul_assoc]
    simp; omega
theorem val_zeros (n : Nat) : val (List.replicate n 0) = 0 := by
  induction n with
  | zero => rfl
  | succ n ih => rw [List.replicate_succ, val, ih]; rfl

/-- Where the noughts behind begin. -/
def cut (l : List Int) : Nat → Nat
  | 0 => 0
  | n + 1 => if l.getD n 0 = 0 then cut l n else n + 1
def trim (l : List Int) : List Int := l.take (cut l l.length)
theorem cut_le (l : List Int) : ∀ n, cut l n ≤ n
  | 0 => Nat.le_refl _
  | n + 1 => by
    unfold cut; split
    · exact Nat.le_succ_of_le (cut_le l n)
    · exact Nat.le_refl _
theorem cut_zeros (l : List Int) : ∀ n, n ≤ l.length → val (l.take n) = val (l.take (cut l n))
  | 0, _ => rfl
  | n + 1, h => by
    unfold cut; split
    · next h0 => rw [val_take_succ l n (by omega), h0, Int.mul_zero, Int.add_zero]; exact cut_zeros l n (by omega)
    · rfl
theorem val_trim (l : List Int) : val (trim l) = val l := by
  unfold trim
  rw [← cut_zeros l l.length (Nat.le_refl _), List.take_length]
theorem length_trim (l : List Int) : (trim l).length = cut l l.length := by
  unfold trim
  rw [List.length_take, Nat.min_eq_left (cut_le l _)]
theorem Ws.trim {l : List Int} (h : Ws l) : Ws (trim l) := h.take _
theorem cut_last (l : List Int) : ∀ n, 0 < cut l n → l.getD (cut l n - 1) 0 ≠ 0
  | 0, h => by simp [cut] at h
  | n + 1, h => by
    unfold cut at h ⊢
    split
    · next h0 => rw [if_pos h0] at h; exact cut_last l n h
    · next h0 => exact h0
/-- The last one is no nought. -/
def Neat (l : List Int) : Prop := 0 < l.length → l.getD (l.length - 1) 0 ≠ 0
theorem neat_trim (l : List Int) : Neat (trim l) := by
  intro h
  rw [length_trim] at h ⊢
  have := cut_last l l.length h
  unfold trim
  rw [List.getD_eq_getElem?_getD, List.getElem?_take_of_lt (by omega), ← List.getD_eq_getElem?_getD]
  exact this
theorem neat_le {l : List Int} (hn : Neat l) (hw : Ws l) (h : 0 < l.length) : pw (l.length - 1) ≤ val l := by
  have h1 := hn h
  have h2 := (hw.getD (l.length - 1)).1
  have h3 := val_nonneg (hw.take (l.length - 1))
  have h4 := pw_pos (l.length - 1)
  have e := val_take_succ l (l.length - 1) (by omega)
  rw [show l.length - 1 + 1 = l.length by omega, List.take_length] at e
  rw [e]
  have h5 : pw (l.length - 1) * 1 ≤ pw (l.length - 1) * l.getD (l.length - 1) 0 := Int.mul_le_mul_of_nonneg_left (by omega) (by omega)
  omega
theorem val_lt_of_length {a b : List Int} (ha : Ws a) (hb : Ws b) (nb : Neat b) (h : a.length < b.length) : val a < val b := by
  have h1 := val_lt ha
  have h2 := neat_le nb hb (by omega)
  have h3 := pw_le (show a.length ≤ b.length - 1 by omega)
  omega
/-- The first place from above where they differ tells. -/
theorem val_lt_of_word {a b : List Int} (ha : Ws a) (hb : Ws b) (n : Nat) (h1 : n < a.length) (h2 : n < b.length) (hd : a.drop (n + 1) = b.drop (n + 1)) (hlt : a.getD n 0 < b.getD n 0) : val a < val b := by
  rw [val_split a n (by omega), val_split b n (by omega), val_drop a n h1, val_drop b n h2, hd]
  have h3 := val_lt (ha.take n)
  rw [List.length_take, Nat.min_eq_left (by omega)] at h3
  have h4 := val_nonneg (hb.take n)
  have h5 : pw n * (a.getD n 0 + B * val (b.drop (n + 1)) + 1) ≤ pw n * (b.getD n 0 + B * val (b.drop (n + 1))) := Int.mul_le_mul_of_nonneg_left (by omega) (by have := pw_pos n; omega)
  rw [Int.mul_add, Int.mul_one] at h5
  omega
theorem val_small (x : Int) : val [x % B, x / B] = x := by
  have hB : B = 4294967296 := rfl
  simp only [val, Int.mul_zero, Int.add_zero]
  rw [hB]; omega
end Nt
end Go.Proofs.YtiinmdleechcgaaDoor.Sha
namespace Go.Proofs.YtiinmdleechcgaaDoor.Sha
open Go.RowKit

/-- A number, by the value of the slice of its words. -/
def Num (w : World) (v : Value) (l : List Int) : Prop := ∃ a cap, v = .slice a l.length cap ∧ l.length ≤ cap ∧ Nt.Ws l ∧ (l = [] ∨ ∃ b off, a = some ⟨b, off, none⟩ ∧ b < w.heap.size ∧ At w .u32 b off l)
theorem Num.below {w w' : World} {v : Value} {l : List Int} {B : Nat} (h : Num w v l) (hb : Below B w w') (hB : w.heap.size ≤ B) : Num w' v l := by
  obtain ⟨a, cap, h1, h2, h3, h4⟩ := h
  refine ⟨a, cap, h1, h2, h3, ?_⟩
  rcases h4 with h4 | ⟨b, off, h5, h6, h7⟩
  · exact Or.inl h4
  · exact Or.inr ⟨b, off, h5, Nat.lt_of_lt_of_le h6 hb.size, h7.below hb (by omega)⟩
theorem num_sliced {w : World} {a : Option Addr} {n cap : Nat} {l : List Int} (hS : Num w (.slice a n cap) l) (m : Nat) (hm : m ≤ n) : Num w (sliced a 0 m cap 1) (l.take m) := by
  obtain ⟨a', cap', hv, hc, h8, hmm⟩ := hS
  simp only [Value.slice.injEq] at hv
  obtain ⟨rfl, rfl, rfl⟩ := hv
  have hlen : (l.take m).length = m := by simp; omega
  refine ⟨_, cap - 0, by rw [hlen]; rfl, by rw [hlen]; omega, h8.take m, ?_⟩
  by_cases h0 : m = 0
  · exact Or.inl (by rw [h0]; rfl)
  · rcases hmm with h | ⟨b, off, rfl, h2, h3⟩
    · rw [h] at hm; simp at hm; omega
    · refine Or.inr ⟨b, off, ?_, h2, ?_⟩
      · rw [if_neg (by omega)]; rfl
      · have := h3.sub 0 m (by omega)
        rwa [List.drop_zero] at this
theorem run_cut52 (a : Option Addr) (n cap m : Nat) (hm : m ≤ cap) (i : Int) (hi : i = m) (w : World) : (Instr.slice 29 (.slice a n cap) none (some (.int .i64 i)) none).run Tryd.prog w = .ok (sliced a 0 m cap 1) w := by
  subst hi
  have he : Tryd.prog.elem 29 = 61 := by kernel_rfl
  have hu : Tryd.prog.underlying 29 = some (.slice (Tryd.prog.elem 29)) := by rw [he]; exact Tryd.underlying29
  rw [run_slice_h w 29 a n cap hu .i64 m (by omega) (by omega), he, Tryd.sizeOf61]
  rfl

set_option maxRecDepth 100000 in
set_option maxHeartbeats 400000 in
theorem trim_any (w : World) (v : Value) (l : List Int) (h : Num w v l) (hl : l.length ≤ 1000000) :
    Calls Tryd.prog 41 #[v] w fun e w' => ∃ v', e = .returned v' ∧ Num w' v' (Nt.trim l) ∧ Below w.heap.size w w' := by
  obtain ⟨a, cap, rfl, hc, hw, hm⟩ := id h
  have H := Lib.hid h
  have HM := Lib.hid hm
  have HC := Lib.hid (show Nt.trim l = l.take (Nt.cut l l.length) from rfl)
  clear h hm hw
  go_enter Tryd.func41, Tryd.ntmps41
  go_wp2_with fail
  go_loopw [3] (fun i wr => ∃ n : Nat, n ≤ l.length ∧ i = .int .i64 n ∧ Hid (Nt.cut l n = Nt.cut l l.length) ∧ Hid (Below w.heap.size w wr)) (fun i _ => (intOf i).toNat)
  case atStart => exact ⟨l.length, Nat.le_refl _, rfl, rfl, Below.refl _ _⟩
  case round =>
    obtain ⟨n, hn, rfl, CU, B⟩ := hrel
    cases n with
    | zero =>
      have h0 : Nt.cut l l.length = 0 := CU.out.symm
      have hnum : Num wr (sliced a 0 0 cap 1) (Nt.trim l) := by rw [HC.out, h0]; exact num_sliced (H.out.below B.out (Nat.le_refl _)) 0 (Nat.zero_le _)
      have hcut := run_cut52 a l.length cap 0 (Nat.zero_le _) 0 rfl
      generalize sliced a 0 0 cap 1 = sv at *
      have HN := Lib.hid hnum
      clear hnum h0
      go_wp2
      go_ret
      exact ⟨_, rfl, HN.out, B.out⟩
    | succ n =>
      obtain ⟨b, off, rfl, hbw, hAt⟩ : ∃ b off, a = some ⟨b, off, none⟩ ∧ b < w.heap.size ∧ At w .u32 b off l := by
        rcases HM.out with h | h
        · rw [h] at hn; simp at hn
        · exact h
      have hcell : wr.cell? ⟨b, off + n, none⟩ = some (.int .u32 (l.getD n 0)) := (hAt.below B.out hbw) n (by omega)
      by_cases hz : l.getD n 0 = 0
      · have hcu : Nt.cut l n = Nt.cut l l.length := by rw [← CU.out]; conv => rhs; unfold Nt.cut; rw [if_pos hz]
        have HCU := Lib.hid hcu
        rw [hz] at hcell
        clear hcu CU hAt HM HC H hz
        go_wp2
        go_roundw
        case rel => exact ⟨n, by omega, by go_num, HCU, B⟩
        case measure => simp [intOf]
      · have h1 : Nt.cut l l.length = n + 1 := by rw [← CU.out]; unfold Nt.cut; rw [if_neg hz]
        have hnum : Num wr (sliced (some ⟨b, off, none⟩) 0 (n + 1) cap 1) (Nt.trim l) := by rw [HC.out, h1]; exact num_sliced (H.out.below B.out (Nat.le_refl _)) (n + 1) hn
        have hcut := run_cut52 (some ⟨b, off, none⟩) l.length cap (n + 1) (by omega) ((n : Int) + 1) (by omega)
        generalize sliced (some ⟨b, off, none⟩) 0 (n + 1) cap 1 = sv at *
        have HN := Lib.hid hnum
        clear hnum h1 CU hAt HM HC H
        generalize l.getD n 0 = x at *
        go_wp2
        go_ret
        exact ⟨_, rfl, HN.out, B.out⟩

theorem num_blk {w : World} {g : Nat} {t : TypeId} {l : List Int} {n : Nat} (h : Blk w g .u32 t l) (hl : l.length = n) (hw : Nt.Ws l) : Num w (.slice (some ⟨g, 0, none⟩) n n) l :=
  ⟨_, n, by rw [hl], by omega, hw, Or.inr ⟨g, 0, rfl, h.lt, h.at⟩⟩

set_option maxRecDepth 100000 in
set_option maxHeartbeats 400000 in
theorem small_any (w : World) (x : Int) (h0 : 0 ≤ x) (h1 : x ≤ 18446744073709551615) :
    Calls Tryd.prog 64 #[.int .u64 x] w fun e w' => ∃ v' l, e = .returned v' ∧ Num w' v' l ∧ Nt.val l = x ∧ Nt.Neat l ∧ l.length ≤ 2 ∧ Below w.heap.size w w' := by
  have hw : Nt.Ws [x % 4294967296, x / 4294967296] := by
    intro y hy
    simp only [List.mem_cons, List.not_mem_nil, or_false] at hy
    unfold Sh.W32
    rcases hy with rfl | rfl <;> omega
  have hb : Blk (w.alloc (.cells #[.int .u32 (x % 4294967296), .int .u32 (x / 4294967296)] 61)) w.heap.size .u32 61 [x % 4294967296, x / 4294967296] := heap_alloc_new w _
  have ho : Below w.heap.size w (w.alloc (.cells #[.int .u32 (x % 4294967296), .int .u32 (x / 4294967296)] 61)) := (Below.refl _ _).alloc (Nat.le_refl _) _
  have ht := trim_any _ _ _ (num_blk hb rfl hw) (by simp)
  have HT := Lib.hid ht
  have HO := Lib.hid ho
  clear ht ho hb hw
  go_enter Tryd.func64, Tryd.ntmps64
  go_wp2_with (go_at_call 41; refine HT.out.mono ?_; rintro e w1 ⟨v1, rfl, h2, h3⟩; have H2 := Lib.hid h2; have H3 := Lib.hid h3; clear h2 h3)
  go_ret
  refine ⟨_, _, rfl, H2.out, ?_, Nt.neat_trim _, ?_, HO.out.trans (H3.out.mono HO.out.size)⟩
  · rw [Nt.val_trim]; exact Nt.val_small x
  · rw [Nt.length_trim]; exact Nt.cut_le _ _
end Go.Proofs.YtiinmdleechcgaaDoor.Sha
