/- The primitives over terms: two keys derived of one. -/
import Derived.Test.YteojlnbonhipbaaDoorQ
namespace Go.Proofs.YteojlnbonhipbaaDoor
open Go.RowKit Go.Maps
theorem Kp.set {w : World} {b i : Nat} {cs : Array Value} {t : TypeId} {fr : Nat × Nat} (hb : w.heap[b]? = some (.cells cs t fr)) (v : Value) : Kp [some t] w (w.setCell ⟨b, i, none⟩ v) := by
  refine ⟨by simp [World.setCell], fun j o hj ho => ?_⟩
  by_cases e : j = b
  · subst e
    rw [hb] at hj
    cases hj
    exact absurd (List.mem_singleton.2 rfl) ho
  · rw [Below.heap_setCell _ _ _ _ e]; exact hj
theorem Kp.new {ts : List (Option TypeId)} {w a : World} (h : Kp ts w a) {p : Addr} (hp : w.heap.size ≤ p.block) (v : Value) : Kp ts w (a.setCell p v) := by
  refine ⟨by simp [World.setCell]; exact h.size, fun j o hj ho => ?_⟩
  have hl := (Array.getElem?_eq_some_iff.1 hj).1
  rw [Below.heap_setCell _ _ _ _ (by omega)]
  exact h.keep j o hj ho
theorem Kp.below {ts : List (Option TypeId)} {w a b : World} (h : Kp ts w a) (k : Below a.heap.size a b) : Kp ts w b := h.trans (Kp.of_below ts k)
theorem conc_at (w : World) (ko : Option Addr) (kn kc : Nat) :
    Calls Tryd.prog 88 #[.slice (some ⟨w.heap.size + 1, 0, none⟩) 2 2] ((w.alloc (.cells #[.slice ko kn kc] 24)).alloc (.cells #[.slice (some ⟨w.heap.size, 0, none⟩) 1 1, .slice none 0 0] 30)).drew fun e w' => ∃ g c, e = .returned (.slice (some ⟨g, 0, none⟩) 1 c) ∧ w'.cell? ⟨g, 0, none⟩ = some (.slice ko kn kc) ∧ g < w'.heap.size ∧ Below w.heap.size w w' := by
  have hb := Joins.below_alloc2 w (.cells #[.slice ko kn kc] 24) (.cells #[.slice (some ⟨w.heap.size, 0, none⟩) 1 1, .slice none 0 0] 30)
  have h1 := heap_alloc_new (w.alloc (.cells #[.slice ko kn kc] 24)) (.cells #[.slice (some ⟨w.heap.size, 0, none⟩) 1 1, .slice none 0 0] 30)
  have h0 := (Below.heap_alloc (w.alloc (.cells #[.slice ko kn kc] 24)) (.cells #[.slice (some ⟨w.heap.size, 0, none⟩) 1 1, .slice none 0 0] 30) w.heap.size (by simp)).trans (heap_alloc_new w (.cells #[.slice ko kn kc] 24))
  rw [show (w.alloc (.cells #[.slice ko kn kc] 24)).heap.size = w.heap.size + 1 by simp] at h1
  refine (concat_one _ (w.heap.size + 1) w.heap.size ko kn kc (by rw [cell_of_row (World.drew _) _ _ _ _ _ h1]; rfl) (by rw [cell_of_row (World.drew _) _ _ _ _ _ h1]; rfl) (by rw [cell_of_row (World.drew _) _ _ _ _ _ h0]; rfl) (by simp) (by simp; omega)).mono ?_
  rintro e w' ⟨v, rfl, hown, hb2⟩
  rcases hown.2 with ⟨-, h⟩ | ⟨g, c, cur, rfl, -, hc, -, -, -, ht⟩
  · cases h
  · refine ⟨g, c, rfl, ?_, (Array.getElem?_eq_some_iff.1 hc).1, hb.drew.trans (hb2.mono hb.size)⟩
    rw [cell_of_row _ _ _ _ _ _ hc]
    have h := congrArg (fun l : List Value => l[0]?) ht
    simpa using h
theorem made2 : madeCells #[Value.slice none 0 0] 2 = #[.slice none 0 0, .slice none 0 0] := by kernel_rfl
/-- A derived term. -/
def dt (u : Nat) (s : List UInt8) (i : Nat) : Tm := ⟨5, [(u : Int)], s, i⟩
theorem dt_fit (u : Nat) (hu : u < 100) (s : List UInt8) (hs : s.length ≤ 1048576) (i : Nat) (hi : i < 100) : Fit (dt u s i) :=
  ⟨⟨by show (0 : Int) ≤ 5; decide, by show (5 : Int) ≤ 255; decide, ⟨by show (0 : Int) ≤ (i : Int); omega, by show (i : Int) < 100; omega⟩, fun j hj => by
    have : j = (u : Int) := by simpa [dt] using hj
    subst this
    exact ⟨by omega, by omega⟩⟩, by show (1 : Nat) ≤ _; omega, by show s.length ≤ _; omega⟩
theorem tput_dt (u : Nat) (hu : u < 100) (s : List UInt8) (hs : s.length ≤ 1048576) (i : Nat) (hi : i < 100) (n : Nat) (w : World) (hN : w.heap[n]? = some (.cells #[.int .i64 u] 3 (0, 0))) (B tb : Nat) (L : List Tm) (hT : Tb w B tb L) (hB : B ≤ w.heap.size) (hL : L.length ≤ 1048576) :
    Calls Tryd.prog 89 #[.agg #[.pointer (some ⟨tb, 0, none⟩)], .agg #[.int .u8 5, .slice (some ⟨n, 0, none⟩) 1 1, .string ⟨s.toArray⟩, .int .i64 i]] w fun e w' => ∃ g, e = .returned (.slice (some ⟨g, 0, none⟩) 32 32) ∧ w.heap.size ≤ g ∧ By w' (some ⟨g, 0, none⟩) (keyB (L.idxOf (dt u s i))) ∧ Tb w' B tb (ins L (dt u s i)) ∧ Below B w w' ∧ Kp TK w w' :=
  tput_any (dt u s i) (dt_fit u hu s hs i hi) (some ⟨n, 0, none⟩) 1 w (nums_row hN) B tb L hT hB hL
/-- What a derivation of two keys leaves. -/
def Two (w : World) (B tb : Nat) (L : List Tm) (u : Nat) (s : List UInt8) (e : Ending) (w' : World) : Prop :=
  ∃ r g1 g2, e = .returned (.slice (some ⟨r, 0, none⟩) 2 2) ∧ w'.heap[r]? = some (.cells #[.slice (some ⟨g1, 0, none⟩) 32 32, .slice (some ⟨g2, 0, none⟩) 32 32] 24 (0, 0)) ∧
    By w' (some ⟨g1, 0, none⟩) (keyB (L.idxOf (dt u s 0))) ∧ By w' (some ⟨g2, 0, none⟩) (keyB ((ins L (dt u s 0)).idxOf (dt u s 1))) ∧
    Tb w' B tb (ins (ins L (dt u s 0)) (dt u s 1)) ∧ Below B w w' ∧ Kp TK w w'
set_option maxHeartbeats 4000000 in
set_option maxRecDepth 20000 in
theorem tderive_two (w : World) (B tb : Nat) (L : List Tm) (u : Nat) (hT : Tb w B tb L) (hB : B ≤ w.heap.size) (hL : L.length ≤ 1000000) (hu : u < L.length) (hu1 : u < 100) (s : List UInt8) (hs : s.length ≤ 1048576) (ko : Option Addr) (kc : Nat) (hby : By w ko (keyB u)) (hkc : 32 ≤ kc) :
    Calls Tryd.prog 79 #[.agg #[.pointer (some ⟨tb, 0, none⟩)], .slice ko 32 kc, .slice none 0 0, .string ⟨s.toArray⟩, .int .i64 2] w (Two w B tb L u s) := by
  obtain ⟨i0, hi, hz0, hz1, hz2⟩ := info_parts info24
  have hb0 := Joins.below_alloc1 w (.cells #[.pointer (some ⟨tb, 0, none⟩)] 73)
  have c0 : (w.alloc (.cells #[.pointer (some ⟨tb, 0, none⟩)] 73)).cell? ⟨w.heap.size, 0, none⟩ = some (.pointer (some ⟨tb, 0, none⟩)) := by
    rw [cell_of_row _ _ _ _ _ _ (heap_alloc_new w _)]; rfl
  have h0l : w.heap.size < (w.alloc (.cells #[.pointer (some ⟨tb, 0, none⟩)] 73)).heap.size := by simp
  have hcc := fun w => conc_at w ko 32 kc
  have HH := Lib.hid (heap_alloc_new w (.cells #[.pointer (some ⟨tb, 0, none⟩)] 73))
  have HT := Lib.hid hT
  have HBY := Lib.hid hby
  clear hT hby
  go_enter Tryd.func79, Tryd.ntmps79
  go_wp2
  have hrd : ∀ w1, Below w.heap.size w w1 → ∀ g c, w1.cell? ⟨g, 0, none⟩ = some (.slice ko 32 kc) → g < w1.heap.size → Calls Tryd.prog 87 #[.agg #[.pointer (some ⟨tb, 0, none⟩)], .slice (some ⟨g, 0, none⟩) 1 c] w1 fun e w' => ∃ n, e = .returned (.slice (some ⟨n, 0, none⟩) 1 1) ∧ w'.heap[n]? = some (.cells #[.int .i64 u] 3 (0, 0)) ∧ Below w1.heap.size w1 w' := fun w1 hb g c hk hg =>
    tread_one w1 B tb L u (HT.out.on hb) (by omega) hu g c ko kc hk hg (HBY.out.kp (Kp.of_below [] hb) (List.not_mem_nil)) hkc
  have HRD := Lib.hid hrd
  clear hrd
  generalize w.alloc (.cells #[.pointer (some ⟨tb, 0, none⟩)] 73) = w0 at *
  go_region_with (first
    | (go_at_call 88; refine (hcc _).mono ?_; rintro e w1 ⟨g, c, rfl, hk, hgl, hb1⟩; have HRD1 := Lib.hid (HRD.out w1 (hb0.trans (hb1.mono hb0.size)) g c hk hgl); have c1 := (hb1.cell (p := ⟨w.heap.size, 0, none⟩) h0l).trans c0; have h1l := Nat.lt_of_lt_of_le h0l hb1.size; have HB1 := Lib.hid hb1; clear hk hgl hb1)
    | (go_at_call 87; refine HRD1.out.mono ?_; rintro e w2 ⟨n, rfl, hn, hb2⟩; have c2 := (hb2.cell (p := ⟨w.heap.size, 0, none⟩) h1l).trans c1; have HN2 := Lib.hid hn; have HB2 := Lib.hid hb2; clear hn hb2))
  all_goals (
    have hbA := hb0.trans ((HB1.out.trans (HB2.out.mono HB1.out.size)).mono hb0.size)
    have hbm := Joins.below_alloc1 w2 (.cells #[.slice none 0 0, .slice none 0 0] 24)
    have hr3 := heap_alloc_new w2 (.cells #[.slice none 0 0, .slice none 0 0] 24)
    have c3 := (hbm.cell (p := ⟨w.heap.size, 0, none⟩) (Nat.lt_of_lt_of_le h1l HB2.out.size)).trans c2
    have hN3 := (hbm.block n (Array.getElem?_eq_some_iff.1 HN2.out).1).trans HN2.out
    have h73 := (hbm.block w.heap.size (Nat.lt_of_lt_of_le h1l HB2.out.size)).trans ((HB2.out.block w.heap.size h1l).trans ((HB1.out.block w.heap.size h0l).trans HH.out))
    have H73 := Lib.hid h73
    clear h73
    have hT3 := (HT.out.on hbA).on hbm
    have hbw := hbA.trans (hbm.mono hbA.size)
    have hp0 := tput_dt u hu1 s hs 0 (by decide) n _ hN3 B tb L hT3 (Nat.le_trans hB hbw.size) (by omega)
    have HP0 := Lib.hid hp0
    have hrw : w.heap.size ≤ w2.heap.size := hbA.size
    have HX := Lib.hid (And.intro hN3 (And.intro hbw hr3))
    clear hp0 hN3 hT3 hbw hr3 hbm hbA hcc c0 c1 c2
    go_wp2_with (at_make; refine wpList_make_row _ rfl _ _ 30 rfl 24 i0 (.slice none 0 0) Tryd.underlying30 hi hz0 hz1 rfl .i64 .i64 2 rfl rfl (by rw [hz2]; decide) (by decide) ?_; rw [made2]; refine Hid.out ?_)
    refine Lib.hid ?_
    obtain ⟨r, hr⟩ : ∃ r, r = w2.heap.size := ⟨_, rfl⟩
    rw [← hr] at HX hrw ⊢
    generalize w2.alloc (.cells #[.slice none 0 0, .slice none 0 0] 24) = w3 at *
    obtain ⟨hN3, hbw, hr3⟩ := HX.out
    have hrl := (Array.getElem?_eq_some_iff.1 hr3).1
    have h3l := Nat.lt_of_lt_of_le h1l (Nat.le_trans HB2.out.size (show w2.heap.size ≤ w3.heap.size by omega))
    have HN3 := Lib.hid hN3
    have HB3 := Lib.hid hbw
    have HR3 := Lib.hid hr3
    clear hN3 hbw hr3 HX HN2 hr
    go_wp2
    refine wp_loop_rounds 3 ?_
    rw [rounds_succ]
    go_wp2_with (go_at_call 89; refine HP0.out.mono ?_; rintro e w4 ⟨g1, rfl, hg1, hby1, hT4, hb4, hk4⟩; refine Hid.out ?_)
    refine Lib.hid ?_
    have hr4 := hk4.cells HR3.out (show some 24 ∉ TK by decide)
    have h74 := hk4.cells H73.out (show some 73 ∉ TK by decide)
    have hs3 := HB3.out.size
    have hb4s := hb4.size
    have hrs := heap_setCell_same w4 r 0 _ 24 (.slice (some ⟨g1, 0, none⟩) 32 32) hr4
    have hks := Kp.set (i := 0) hr4 (.slice (some ⟨g1, 0, none⟩) 32 32)
    have h75 := hks.cells h74 (by decide)
    have hb5 : Below B w (w4.setCell ⟨r, 0, none⟩ (.slice (some ⟨g1, 0, none⟩) 32 32)) := ((HB3.out.mono hB).trans hb4).setCell (p := ⟨r, 0, none⟩) (by show B ≤ r; omega) _
    have hkw : Kp TK w (w4.setCell ⟨r, 0, none⟩ (.slice (some ⟨g1, 0, none⟩) 32 32)) := ((Kp.of_below TK HB3.out).trans hk4).new (p := ⟨r, 0, none⟩) hrw _
    have hT5 := hT4.kp hks (by decide) (by decide) (by decide)
    have hN5 := hks.cells (hk4.cells HN3.out (show some 3 ∉ TK by decide)) (by decide)
    have hp1 := tput_dt u hu1 s hs 1 (by decide) n _ hN5 B tb _ hT5 (Nat.le_trans hB hkw.size) (by have := (ins_len L (dt u s 0)).2; omega)
    have hby5 := hby1.kp hks (by decide)
    have f4 : w4.frozen? ⟨r, 0, none⟩ = false := by simp [World.frozen?, hr4]
    have d4 : w4.cell? ⟨r, 0, none⟩ = some (.slice none 0 0) := by rw [cell_of_row _ _ _ _ _ _ hr4]; rfl
    have c5 : (w4.setCell ⟨r, 0, none⟩ (.slice (some ⟨g1, 0, none⟩) 32 32)).cell? ⟨w.heap.size, 0, none⟩ = some (.pointer (some ⟨tb, 0, none⟩)) := by rw [cell_of_row _ _ _ _ _ _ h75]; rfl
    have HP1 := Lib.hid hp1
    have HY5 := Lib.hid hby5
    have HR5 := Lib.hid hrs
    have HB5 := Lib.hid hb5
    have HK5 := Lib.hid hkw
    clear hp1 hby5 hrs hb5 hkw hT5 hN5 hT4 hby1 hks h74 hb4 hk4 hg1 hb4s hs3 h75 hr4
    go_wp2
    rw [rounds_succ]
    go_wp2_with (go_at_call 89; refine HP1.out.mono ?_; rintro e w6 ⟨g2, rfl, hg2, hby2, hT6, hb6, hk6⟩; refine Hid.out ?_)
    refine Lib.hid ?_
    have hr6 := hk6.cells HR5.out (show some 24 ∉ TK by decide)
    have f6 : w6.frozen? ⟨r, 1, none⟩ = false := by simp [World.frozen?, hr6]
    have d6 : w6.cell? ⟨r, 1, none⟩ = some (.slice none 0 0) := by rw [cell_of_row _ _ _ _ _ _ hr6]; rfl
    go_wp2
    rw [rounds_succ]
    go_wp2
    go_ret
    have hr7 := heap_setCell_same w6 r 1 _ 24 (.slice (some ⟨g2, 0, none⟩) 32 32) hr6
    have hks := Kp.set (i := 1) hr6 (.slice (some ⟨g2, 0, none⟩) 32 32)
    refine ⟨r, g1, g2, rfl, hr7, (HY5.out.kp hk6 (by decide)).kp hks (by decide), hby2.kp hks (by decide), hT6.kp hks (by decide) (by decide) (by decide), (HB5.out.trans hb6).setCell (p := ⟨r, 1, none⟩) (by show B ≤ r; omega) _, (HK5.out.trans hk6).new (p := ⟨r, 1, none⟩) hrw _⟩)
end Go.Proofs.YteojlnbonhipbaaDoor
