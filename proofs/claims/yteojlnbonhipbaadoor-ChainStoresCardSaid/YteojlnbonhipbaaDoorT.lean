/- A chain's step, over any primitives. -/
import Derived.Test.YteojlnbonhipbaaDoorS
import Derived.Laws.Rows
import Derived.Laws.ResultCell
namespace Go.Proofs.YteojlnbonhipbaaDoor
open Go.RowKit Go.Maps
/-- The text "step". -/
def stepS : List UInt8 := [115, 116, 101, 112]
/-- Two keys handed back by a derivation. -/
structure Keys2 (w : World) (e : Ending) (K1 K2 : List UInt8) : Prop where
  ex : ∃ r cr a1 c1 a2 c2, e = .returned (.slice (some ⟨r, 0, none⟩) 2 cr) ∧ r < w.heap.size ∧ w.cell? ⟨r, 0, none⟩ = some (.slice a1 32 c1) ∧ w.cell? ⟨r, 1, none⟩ = some (.slice a2 32 c2) ∧ By w a1 K1 ∧ By w a2 K2 ∧ 32 ≤ c1 ∧ 32 ≤ c2
/-- Primitives: what lies there, what a step derives, how long that may go on. -/
structure PI (σ : Type) where
  P : World → Nat → Nat → σ → Prop
  k1 : σ → List UInt8 → List UInt8
  k2 : σ → List UInt8 → List UInt8
  st : σ → List UInt8 → σ
  ok : Nat → σ → List UInt8 → Prop
  on : ∀ {w w' : World} {B pb : Nat} {s : σ}, P w B pb s → Below w.heap.size w w' → P w' B pb s
  kp : ∀ {ts : List (Option TypeId)} {w w' : World} {B pb : Nat} {s : σ}, P w B pb s → Kp ts w w' → Below B w w' → (some 83 ∉ ts ∧ some 130 ∉ ts ∧ none ∉ ts ∧ some 61 ∉ ts ∧ some 5 ∉ ts) → P w' B pb s
  call : ∀ (w : World) (B pb n : Nat) (s : σ) (K : List UInt8) (ko : Option Addr) (kc : Nat), P w B pb s → ok (n + 1) s K → By w ko K → 32 ≤ kc → B ≤ w.heap.size →
    Calls Tryd.prog 9 #[.pointer (some ⟨pb, 0, none⟩), .slice ko 32 kc, .slice none 0 0, .string ⟨stepS.toArray⟩, .int .i64 2] w fun e w' => Keys2 w' e (k1 s K) (k2 s K) ∧ P w' B pb (st s K) ∧ Below B w w' ∧ Kp TK w w'
  next : ∀ (n : Nat) (s : σ) (K : List UInt8), ok (n + 1) s K → ok n (st s K) (k2 s K)
  len : ∀ (n : Nat) (s : σ) (K : List UInt8), ok n s K → K.length = 32
  len1 : ∀ (n : Nat) (s : σ) (K : List UInt8), ok (n + 1) s K → (k1 s K).length = 32
/-- A chain's value. -/
def chV (ko : Option Addr) (kl kc n : Nat) : Value := .agg #[.slice ko kl kc, .int .u32 n]
theorem info27 : (Tryd.prog.info? 27).map (·.size) = some 2 := by kernel_rfl
set_option maxHeartbeats 4000000 in
/-- A chain copied. -/
theorem cclone_any (w : World) (ko : Option Addr) (kc : Nat) (K : List UInt8) (n : Nat) (h : Byt w ko K) (hK : K.length ≤ 1048576) :
    Calls Tryd.prog 22 #[.agg #[.slice ko K.length kc, .int .u32 n]] w fun e w' => ∃ ao cap, e = .returned (.agg #[.slice ao K.length cap, .int .u32 n]) ∧ By w' ao K ∧ K.length ≤ cap ∧ Below w.heap.size w w' := by
  have hb0 := Joins.below_alloc2 w (.cells #[.slice ko K.length kc, .int .u32 n] 27) (.cells #[.slice none 0 0, .int .u32 0] 27)
  have hc := fun w' (hb : Below w.heap.size w w') => clone_any ko kc K w' (h.on hb (Nat.le_refl _)) hK
  obtain ⟨L, hL⟩ : ∃ L, L = K.length := ⟨_, rfl⟩
  rw [← hL] at hb0 hc ⊢
  have HC := Lib.hid hc
  have HL := Lib.hid hL
  have HB := Lib.hid hb0
  have hr0 := (Below.heap_alloc (w.alloc (.cells #[.slice ko L kc, .int .u32 n] 27)) (.cells #[.slice none 0 0, .int .u32 0] 27) w.heap.size (by simp)).trans (heap_alloc_new w (.cells #[.slice ko L kc, .int .u32 n] 27))
  have hr1 := heap_alloc_new (w.alloc (.cells #[.slice ko L kc, .int .u32 n] 27)) (.cells #[.slice none 0 0, .int .u32 0] 27)
  rw [show (w.alloc (.cells #[.slice ko L kc, .int .u32 n] 27)).heap.size = w.heap.size + 1 by simp] at hr1
  clear hc hL hK h hb0
  go_enter Tryd.func22, Tryd.ntmps22
  go_wp2
  generalize (w.alloc (.cells #[.slice ko L kc, .int .u32 n] 27)).alloc (.cells #[.slice none 0 0, .int .u32 0] 27) = w0 at *
  have c0 : w0.cell? ⟨w.heap.size, 0, none⟩ = some (.slice ko L kc) := by rw [cell_of_row _ _ _ _ _ _ hr0]; rfl
  have c1 : w0.cell? ⟨w.heap.size, 1, none⟩ = some (.int .u32 n) := by rw [cell_of_row _ _ _ _ _ _ hr0]; rfl
  have h0l := (Array.getElem?_eq_some_iff.1 hr0).1
  have h1l := (Array.getElem?_eq_some_iff.1 hr1).1
  have HR1 := Lib.hid hr1
  have hcd : Calls Tryd.prog 24 #[.slice ko L kc] w0.drew _ := HC.out w0.drew HB.out.drew
  have HCD := Lib.hid hcd
  clear hcd hr1 hr0
  go_region_with (go_at_call 24; refine HCD.out.mono ?_; rintro e w1 ⟨v1, rfl, hown, hb1⟩; have d1 := (hb1.cell (p := ⟨w.heap.size, 1, none⟩) h0l).trans c1; have hr2 := (hb1.block _ h1l).trans HR1.out; obtain ⟨ao, cap, rfl, hby, hcap⟩ := hown.by_; have HO := Lib.hid (And.intro hby (And.intro hcap hb1)); have f2 : w1.frozen? ⟨w.heap.size + 1, 0, none⟩ = false := (by simp [World.frozen?, hr2]); have d2 : w1.cell? ⟨w.heap.size + 1, 0, none⟩ = some (.slice none 0 0) := (by rw [cell_of_row _ _ _ _ _ _ hr2]; rfl); have hr3 := heap_setCell_same w1 (w.heap.size + 1) 0 _ 27 (.slice ao K.length cap) hr2; have f3 : (w1.setCell ⟨w.heap.size + 1, 0, none⟩ (.slice ao K.length cap)).frozen? ⟨w.heap.size + 1, 1, none⟩ = false := (by simp [World.frozen?, hr3]); have d3 : (w1.setCell ⟨w.heap.size + 1, 0, none⟩ (.slice ao K.length cap)).cell? ⟨w.heap.size + 1, 1, none⟩ = some (.int .u32 0) := (by rw [cell_of_row _ _ _ _ _ _ hr3]; rfl); have HR2 := Lib.hid hr2; have HR3 := Lib.hid hr3; clear hb1 hby hcap hown hr2 hr3)
  all_goals (
    go_wp2
    have hr4 := heap_setCell_same _ (w.heap.size + 1) 1 _ 27 (.int .u32 n) HR3.out
    obtain ⟨hby, hcap, hb1⟩ := HO.out
    have hbw := (HB.out.drew.trans (hb1.mono HB.out.size))
    have hb5 : Below w.heap.size w ((w1.setCell ⟨w.heap.size + 1, 0, none⟩ (.slice ao K.length cap)).setCell ⟨w.heap.size + 1, 1, none⟩ (.int .u32 n)) := (hbw.setCell (p := ⟨w.heap.size + 1, 0, none⟩) (Nat.le_succ _) _).setCell (p := ⟨w.heap.size + 1, 1, none⟩) (Nat.le_succ _) _
    have hby5 := (hby.kp (Kp.set (i := 0) HR2.out _) (by decide)).kp (Kp.set (i := 1) HR3.out (.int .u32 n)) (by decide)
    exact bodyPost_ret (results_cell_row Tryd.results22 _ _ (w.heap.size + 1) 27 _ (0, 0) _ rfl hr4 Tryd.underlying27 rfl info27) rfl ⟨ao, cap, by rw [HL.out]; rfl, hby5, by rw [HL.out]; exact hcap, hb5⟩)
end Go.Proofs.YteojlnbonhipbaaDoor
