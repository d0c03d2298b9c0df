/- What two terms agree on. -/
import Derived.Test.YtghaknienffmjaaDoorMh
namespace Go.Proofs.YtghaknienffmjaaDoor
open Go.RowKit Go.Maps
/-- What a put leaves: the table has the term at place j. -/
def PutR (w : World) (B tb : Nat) (E : List En) (t : Tm) (e : Ending) (w' : World) : Prop :=
  ∃ j tv mv E', e = .returned (.int .i64 (j : Nat)) ∧ Tab w' B tb tv mv E' ∧ Below B w w' ∧ E <+: E' ∧ E'.length ≤ E.length + 1 ∧ ∃ h : j < E'.length, E'[j].1 = t
theorem put_any (t : Tm) (hf : Fit t) (ao : Option Addr) (cap : Nat) (w : World) (hG : Gv w) (hN : Nums w ao t.of) (B tb : Nat) (tv mv : Value) (E : List En) (hT : Tab w B tb tv mv E) (hB : B ≤ w.heap.size) (hE : E.length ≤ 1048576) :
    Calls Tryd.prog 11 #[.pointer (some ⟨tb, 0, none⟩), .agg #[.int .u8 t.k, .slice ao t.of.length cap, .string ⟨t.tx.toArray⟩, .int .i64 t.n]] w (PutR w B tb E t) := by
  by_cases h : t ∈ E.map (·.1)
  · obtain ⟨x, hx, hxt⟩ := List.mem_map.1 h
    obtain ⟨j, hj, rfl⟩ := List.getElem_of_mem hx
    refine (put_old t hf ao cap w hG hN B tb tv mv E hT j hj hxt).mono fun e w' ⟨h1, h2⟩ => ?_
    exact ⟨j, tv, mv, E, h1, hT.on h2, h2.mono hB, List.prefix_rfl, Nat.le_succ _, hj, hxt⟩
  · refine (put_new t hf ao cap w hG hN B tb tv mv E hT hB hE h).mono fun e w' ⟨h1, h2, tv', mv', ao', cap', h3, _⟩ => ?_
    exact ⟨E.length, tv', mv', _, h1, h3, h2, List.prefix_append _ _, by simp, by simp, by simp⟩
theorem PutR.of {w w2 w' : World} {B tb : Nat} {E : List En} {t : Tm} {e : Ending} (h : PutR w2 B tb E t e w') (hb : Below B w w2) : PutR w B tb E t e w' := by
  obtain ⟨j, tv, mv, E', h1, h2, h3, h4⟩ := h
  exact ⟨j, tv, mv, E', h1, h2, hb.trans h3, h4⟩
theorem nums_two (w : World) (a b : Int) : Nums (w.alloc (.cells #[.int .i64 a, .int .i64 b] 3)) (some ⟨w.heap.size, 0, none⟩) [a, b] := by
  refine ⟨fun j hj => ⟨w.heap.size, 0, rfl, by simp, ?_⟩⟩
  rw [Nat.zero_add, cell_of_row _ _ _ _ _ _ (heap_alloc_new w _)]
  match j, hj with
  | 0, _ => rfl
  | 1, _ => rfl
theorem nums_one (w : World) (a : Int) : Nums (w.alloc (.cells #[.int .i64 a] 3)) (some ⟨w.heap.size, 0, none⟩) [a] := by
  refine ⟨fun j hj => ⟨w.heap.size, 0, rfl, by simp, ?_⟩⟩
  rw [Nat.zero_add, cell_of_row _ _ _ _ _ _ (heap_alloc_new w _)]
  match j, hj with
  | 0, _ => rfl
/-- A small term may be put. -/
theorem fit_of (k n : Int) (of : List Int) (hk0 : 0 ≤ k) (hk1 : k ≤ 255) (hn : Tm.I64 n) (hof : ∀ i ∈ of, Tm.I64 i) (hl : of.length ≤ 2) : Fit ⟨k, of, [], n⟩ :=
  ⟨⟨hk0, hk1, hn, hof⟩, by show of.length ≤ _; omega, by show (0 : Nat) ≤ _; omega⟩
set_option maxRecDepth 20000 in
set_option maxHeartbeats 4000000 in
theorem agree_pub (w : World) (hG : Gv w) (B tb : Nat) (tv mv : Value) (E : List En) (hT : Tab w B tb tv mv E) (hB : B ≤ w.heap.size) (hE : E.length ≤ 1048576) (x y a : Nat) (hy : y < E.length) (hyt : E[y].1 = ⟨3, [(a : Int)], [], 0⟩) (hx : x ≤ 1048576) (ha : a ≤ 1048576) :
    Calls Tryd.prog 18 #[.pointer (some ⟨tb, 0, none⟩), .int .i64 x, .int .i64 y] w (PutR w B tb E ⟨4, [min (x : Int) a, max (x : Int) a], [], 0⟩) := by
  have hget := get_in hT y hy
  rw [hyt] at hget
  have HT := Lib.hid hT
  have HE := Lib.hid hE
  clear hT hyt hE
  go_enter Tryd.func18, Tryd.ntmps18
  go_wp2_with (go_at_call 13; refine hget.mono ?_; rintro e w1 ⟨ao, cap, rfl, hN1, hb1⟩; refine Hid.out ?_)
  refine Lib.hid ?_
  obtain ⟨b, off, rfl, hbl, hc0⟩ := hN1.at_ 0 (by simp)
  have hc1 : (w1.alloc (.cells #[.int .u8 3, .slice (some ⟨b, off, none⟩) 1 cap, .string ⟨#[]⟩, .int .i64 0] 25)).cell? ⟨b, off, none⟩ = some (.int .i64 a) := by
    rw [(Joins.below_alloc1 w1 _).cell (p := ⟨b, off, none⟩) hbl]
    simpa using hc0
  clear hN1 hc0 hget
  go_wp2_with (go_at_call 11; refine Hid.out ?_)
  refine Lib.hid ?_
  have hbA := Joins.below_alloc2 w1 (.cells #[.int .u8 3, .slice (some ⟨b, off, none⟩) 1 cap, .string ⟨#[]⟩, .int .i64 0] 25) (.cells #[.int .i64 (min (x : Int) a), .int .i64 (max (x : Int) a)] 3)
  have hb2 := hb1.trans (hbA.mono hb1.size)
  have hN2 := nums_two (w1.alloc (.cells #[.int .u8 3, .slice (some ⟨b, off, none⟩) 1 cap, .string ⟨#[]⟩, .int .i64 0] 25)) (min (x : Int) a) (max (x : Int) a)
  rw [show (w1.alloc (.cells #[.int .u8 3, .slice (some ⟨b, off, none⟩) 1 cap, .string ⟨#[]⟩, .int .i64 0] 25)).heap.size = w1.heap.size + 1 by simp] at hN2
  have hput := put_any ⟨4, [min (x : Int) a, max (x : Int) a], [], 0⟩ (fit_of 4 0 _ (by omega) (by omega) ⟨by omega, by omega⟩ (fun i hi => by simp at hi; rcases hi with rfl | rfl <;> exact ⟨by omega, by omega⟩) (by simp)) (some ⟨w1.heap.size + 1, 0, none⟩) 2 _ (hG.on hb2) hN2 B tb tv mv E (HT.out.on hb2) (Nat.le_trans hB hb2.size) HE.out
  have HP := Lib.hid hput
  have HB2 := Lib.hid hb2
  clear hput hN2 hb2 hbA hc1
  go_wp2_with (go_at_call 11; refine HP.out.mono ?_; rintro e w3 hr; have hr2 := hr.of (HB2.out.mono hB); obtain ⟨j, tv', mv', E', rfl, hrest⟩ := hr2; have HR := Lib.hid hrest; clear hr hrest)
  go_ret
  exact ⟨j, tv', mv', E', rfl, HR.out⟩
set_option maxRecDepth 20000 in
set_option maxHeartbeats 4000000 in
theorem agree_atom (w : World) (hG : Gv w) (B tb : Nat) (tv mv : Value) (E : List En) (hT : Tab w B tb tv mv E) (hB : B ≤ w.heap.size) (hE : E.length ≤ 1048576) (x y : Nat) (v : Int) (hy : y < E.length) (hyt : E[y].1 = ⟨1, [], [], v⟩) (hx : x ≤ 1048576) :
    Calls Tryd.prog 18 #[.pointer (some ⟨tb, 0, none⟩), .int .i64 x, .int .i64 y] w (PutR w B tb E ⟨4, [(x : Int), (y : Int)], [], 1⟩) := by
  have hget := get_in hT y hy
  rw [hyt] at hget
  have HT := Lib.hid hT
  have HE := Lib.hid hE
  clear hT hyt hE
  go_enter Tryd.func18, Tryd.ntmps18
  go_wp2_with (go_at_call 13; refine hget.mono ?_; rintro e w1 ⟨ao, cap, rfl, hN1, hb1⟩; refine Hid.out ?_)
  refine Lib.hid ?_
  clear hN1 hget
  go_wp2_with (go_at_call 11; refine Hid.out ?_)
  refine Lib.hid ?_
  have hbA := Joins.below_alloc2 w1 (.cells #[.int .u8 1, .slice ao 0 cap, .string ⟨#[]⟩, .int .i64 v] 25) (.cells #[.int .i64 (x : Int), .int .i64 (y : Int)] 3)
  have hb2 := hb1.trans (hbA.mono hb1.size)
  have hN2 := nums_two (w1.alloc (.cells #[.int .u8 1, .slice ao 0 cap, .string ⟨#[]⟩, .int .i64 v] 25)) (x : Int) (y : Int)
  rw [show (w1.alloc (.cells #[.int .u8 1, .slice ao 0 cap, .string ⟨#[]⟩, .int .i64 v] 25)).heap.size = w1.heap.size + 1 by simp] at hN2
  have hput := put_any ⟨4, [(x : Int), (y : Int)], [], 1⟩ (fit_of 4 1 _ (by omega) (by omega) ⟨by omega, by omega⟩ (fun i hi => by simp at hi; have := HE.out; rcases hi with rfl | rfl <;> exact ⟨by omega, by omega⟩) (by simp)) (some ⟨w1.heap.size + 1, 0, none⟩) 2 _ (hG.on hb2) hN2 B tb tv mv E (HT.out.on hb2) (Nat.le_trans hB hb2.size) HE.out
  have HP := Lib.hid hput
  have HB2 := Lib.hid hb2
  clear hput hN2 hb2 hbA
  go_wp2_with (go_at_call 11; refine HP.out.mono ?_; rintro e w3 hr; have hr2 := hr.of (HB2.out.mono hB); obtain ⟨j, tv', mv', E', rfl, hrest⟩ := hr2; have HR := Lib.hid hrest; clear hr hrest)
  go_ret
  exact ⟨j, tv', mv', E', rfl, HR.out⟩
end Go.Proofs.YtghaknienffmjaaDoor
