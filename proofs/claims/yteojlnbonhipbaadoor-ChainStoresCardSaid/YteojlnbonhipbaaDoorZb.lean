/- The primitives over terms, as primitives; the law's start in terms. -/
import Derived.Test.YteojlnbonhipbaaDoorZa
import Derived.Lib.SlBytesConst
namespace Go.Proofs.YteojlnbonhipbaaDoor
open Go.RowKit Go.Maps
/-- The place of which bytes tell. -/
def uOf (K : List UInt8) : Nat := val8 (K.map fun b => (b.toNat : Int)) 8
theorem keyB_ints (u : Nat) : (keyB u).map (fun b => (b.toNat : Int)) = bl u 8 := by
  have h := keyB_cells u
  unfold Lib.byteCells at h
  have h2 : ((keyB u).map fun b => (b.toNat : Int)).map (Value.int .u8) = (bl u 8).map (Value.int .u8) := by
    rw [List.map_map]; exact h
  exact (List.map_inj_right (fun a b h => by injection h)).1 h2
theorem uOf_keyB (u : Nat) (hu : u < 18446744073709551616) : uOf (keyB u) = u := by
  unfold uOf
  rw [keyB_ints, bl_val8 u hu]
/-- The primitives over terms. -/
def piT : PI (Nat × Nat × List Tm) where
  P w B pb s := Pt w B pb s.1 s.2.1 s.2.2
  k1 s K := keyB (s.2.2.idxOf (dt (uOf K) stepS 0))
  k2 s K := keyB ((ins s.2.2 (dt (uOf K) stepS 0)).idxOf (dt (uOf K) stepS 1))
  st s K := (s.1, s.2.1, ins (ins s.2.2 (dt (uOf K) stepS 0)) (dt (uOf K) stepS 1))
  ok n s K := ∃ u, u < s.2.2.length ∧ K = keyB u ∧ s.2.2.length + 2 * n ≤ 99
  on h hb := h.on hb
  kp h k _ hs := h.kp k hs.1 hs.2.1 hs.2.2.1 hs.2.2.2.1
  call w B pb n s K ko kc hP hok hby hkc hB := by
    obtain ⟨u, hu, rfl, hl⟩ := hok
    have h := pderive_terms w B pb s.1 s.2.1 s.2.2 u hP hB (by omega) hu (by omega) stepS (by decide) ko kc hby hkc
    rw [uOf_keyB u (by omega)]
    refine h.mono ?_
    rintro e w' ⟨r, g1, g2, rfl, hr, y1, y2, hP', hb, hk⟩
    exact ⟨⟨r, 2, _, 32, _, 32, rfl, (Array.getElem?_eq_some_iff.1 hr).1, by rw [cell_of_row _ _ _ _ _ _ hr]; rfl, by rw [cell_of_row _ _ _ _ _ _ hr]; rfl, y1, y2, Nat.le_refl _, Nat.le_refl _⟩, hP', hb, hk⟩
  next n s K hok := by
    obtain ⟨u, hu, rfl, hl⟩ := hok
    refine ⟨_, ins_lt _ _, rfl, ?_⟩
    have h1 := ins_len s.2.2 (dt (uOf (keyB u)) stepS 0)
    have h2 := ins_len (ins s.2.2 (dt (uOf (keyB u)) stepS 0)) (dt (uOf (keyB u)) stepS 1)
    dsimp only
    omega
  len n s K hok := by
    obtain ⟨u, -, rfl, -⟩ := hok
    exact keyB_len u
  len1 n s K _ := keyB_len _
theorem owns_mono {w : World} {B B' size n : Nat} {e : TypeId} {v : Value} {xs : List Value} (h : w.ownsRow B e size v n xs) (hB : B' ≤ B) : w.ownsRow B' e size v n xs := by
  obtain ⟨h1, h2⟩ := h
  refine ⟨h1, ?_⟩
  rcases h2 with h2 | ⟨g, cap, cur, hv, hg, hc, h3⟩
  · exact .inl h2
  · exact .inr ⟨g, cap, cur, hv, Nat.le_trans hB hg, hc, h3⟩
theorem Tb.mono {w : World} {B B' tb : Nat} {L : List Tm} (h : Tb w B tb L) (hB : B' ≤ B) : Tb w B' tb L := by
  obtain ⟨tv, mv, E, h, e⟩ := h
  refine ⟨tv, mv, E, ⟨Nat.le_trans hB h.tbB, h.row, owns_mono h.own hB, h.ne, h.each, h.nodup, ?_⟩, e⟩
  rcases h.mp with q | ⟨mb, D, q1, q2, q3, q4, q5, q6⟩
  · exact .inl q
  · exact .inr ⟨mb, D, q1, q2, q3, Nat.le_trans hB q4, q5, q6⟩
theorem Pt.monoB {w : World} {B B' pb tb m : Nat} {L : List Tm} (h : Pt w B pb tb m L) (hB : B' ≤ B) : Pt w B' pb tb m L := ⟨Nat.le_trans hB h.pbB, h.row, h.tab.mono hB⟩
theorem kconst (w : World) (C : Array Value) (n c g : Nat) (hg : g = w.heap.size) :
    (convert 24 24 (.slice (some ⟨g, 0, none⟩) n c)).run Tryd.prog (w.alloc (.cells C 5)) = .ok (.slice (some ⟨g, 0, none⟩) n c) (w.alloc (.cells C 5 (C.size, C.size + 1))) := by
  subst hg; exact Lib.run_convert_bytes_const w 24 5 C n c Tryd.underlying24 Tryd.underlying5
set_option maxRecDepth 20000 in
set_option maxHeartbeats 4000000 in
theorem open_terms (w : World) (mode : Nat) (hm : mode % 2 = 1) (hm2 : mode < 256) : Calls Tryd.prog 8 #[.int .u8 mode] w fun e w' => ∃ pb tb go, e = .returned (.tuple #[.pointer (some ⟨pb, 0, none⟩), .agg #[.slice go 32 32, .int .u32 0]]) ∧ Pt w' w.heap.size pb tb 1 [atm 1] ∧ By w' go (keyB 0) ∧ Below w.heap.size w w' := by
  have h1 : ((mode : Int) % 2) = 1 := by omega
  have hmod : (mode : Int).tmod 2 = 1 := by rw [Int.tmod_eq_emod_of_nonneg (by omega)]; exact h1
  have kc := kconst (w.alloc (.cells #[.slice none 0 0, .int .u32 0] 27)) #[.int .u8 99, .int .u8 104, .int .u8 97, .int .u8 105, .int .u8 110] 5 5 (w.heap.size + 1) (by simp)
  go_enter Tryd.func8, Tryd.ntmps8
  have hb0 := Joins.below_alloc2 w (.cells #[.slice none 0 0, .int .u32 0] 27) (.cells #[.int .u8 99, .int .u8 104, .int .u8 97, .int .u8 105, .int .u8 110] 5 (5, 6))
  have hr0 := (Below.heap_alloc (w.alloc (.cells #[.slice none 0 0, .int .u32 0] 27)) (.cells #[.int .u8 99, .int .u8 104, .int .u8 97, .int .u8 105, .int .u8 110] 5 (5, 6)) w.heap.size (by simp)).trans (heap_alloc_new w (.cells #[.slice none 0 0, .int .u32 0] 27))
  have hnew := pnew_terms ((w.alloc (.cells #[.slice none 0 0, .int .u32 0] 27)).alloc (.cells #[.int .u8 99, .int .u8 104, .int .u8 97, .int .u8 105, .int .u8 110] 5 (5, 6))) (.slice (some ⟨w.heap.size + 1, 0, none⟩) 5 5)
  have HN := Lib.hid hnew
  have HB := Lib.hid (And.intro hb0 hr0)
  clear hnew hb0 hr0 hm hm2 h1
  go_wp2_with (go_at_call 19; refine HN.out.mono ?_; rintro e w1 ⟨pb, tb, rfl, hpb, hP1, hb1⟩; refine Hid.out ?_)
  refine Lib.hid ?_
  obtain ⟨hb0, hr0⟩ := HB.out
  have hP1' := hP1.monoB hb0.size
  have hbw := hb0.trans (hb1.mono hb0.size)
  have hfr := pfresh_terms w1 w.heap.size pb tb 0 [] hP1' hbw.size (by decide) (by decide)
  have hr1 := (hb1.block w.heap.size (by simp; omega)).trans hr0
  have HF := Lib.hid hfr
  have HB1 := Lib.hid (And.intro hbw hr1)
  clear hfr hr1 hbw hP1 hP1' hb1 hb0 hr0 hpb HN HB kc
  go_wp2_with (go_at_call 20; refine HF.out.mono ?_; rintro e w2 ⟨g, rfl, hby, hP2, hb2, hk2⟩; refine Hid.out ?_)
  refine Lib.hid ?_
  have q1 := hk2.cells HB1.out.2 (show some 27 ∉ PK by decide)
  have f0 : w2.frozen? ⟨w.heap.size, 0, none⟩ = false := by simp [World.frozen?, q1]
  have d0 : w2.cell? ⟨w.heap.size, 0, none⟩ = some (.slice none 0 0) := by rw [cell_of_row _ _ _ _ _ _ q1]; rfl
  have hr3 := heap_setCell_same w2 w.heap.size 0 _ 27 (.slice (some ⟨g, 0, none⟩) 32 32) q1
  have f1 : (w2.setCell ⟨w.heap.size, 0, none⟩ (.slice (some ⟨g, 0, none⟩) 32 32)).frozen? ⟨w.heap.size, 1, none⟩ = false := by simp [World.frozen?, hr3]
  have d1 : (w2.setCell ⟨w.heap.size, 0, none⟩ (.slice (some ⟨g, 0, none⟩) 32 32)).cell? ⟨w.heap.size, 1, none⟩ = some (.int .u32 0) := by rw [cell_of_row _ _ _ _ _ _ hr3]; rfl
  have HQ := Lib.hid (And.intro q1 (And.intro hr3 (And.intro hby (And.intro hP2 (And.intro hb2 hk2)))))
  clear q1 hr3 hby hP2 hb2 hk2 HF
  go_wp2
  obtain ⟨q1, hr3, hby, hP2, hb2, hk2⟩ := HQ.out
  have hr4 := heap_setCell_same _ w.heap.size 1 _ 27 (.int .u32 0) hr3
  have k1 := Kp.set (i := 0) q1 (.slice (some ⟨g, 0, none⟩) 32 32)
  have k2 := Kp.set (i := 1) hr3 (.int .u32 0)
  have hbf := ((HB1.out.1.trans hb2).setCell (p := ⟨w.heap.size, 0, none⟩) (Nat.le_refl _) (.slice (some ⟨g, 0, none⟩) 32 32)).setCell (p := ⟨w.heap.size, 1, none⟩) (Nat.le_refl _) (.int .u32 0)
  refine bodyPost_ret (results_tmp_cell_row Tryd.results8 _ _ w.heap.size 27 _ (0, 0) _ rfl hr4 Tryd.underlying27 rfl info27) rfl ⟨pb, tb, some ⟨g, 0, none⟩, rfl, ?_, (hby.kp k1 (by decide)).kp k2 (by decide), hbf⟩
  exact (hP2.kp k1 (by decide) (by decide) (by decide) (by decide)).kp k2 (by decide) (by decide) (by decide) (by decide)
end Go.Proofs.YteojlnbonhipbaaDoor
