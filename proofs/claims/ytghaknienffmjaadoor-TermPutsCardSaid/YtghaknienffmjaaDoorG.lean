/- The document's examples: 'awake'. -/
import Derived.Test.YtghaknienffmjaaDoorD
namespace Go.Proofs.YtghaknienffmjaaDoor
open Go.RowKit
theorem cell_of_row (w : World) (g j : Nat) (cur : Array Value) (t : TypeId) (fr : Nat × Nat) (hg : w.heap[g]? = some (.cells cur t fr)) : w.cell? ⟨g, j, none⟩ = cur[j]? := by simp [World.cell?, hg]
set_option maxHeartbeats 2000000 in
theorem awake_any (w : World) (m : Int) (hm : w.cell? ⟨1, 0, none⟩ = some (.int .i64 m)) (h1 : 1 < w.heap.size) : Calls Tryd.prog 8 #[] w fun e w' => e = .returned (.bool true) ∧ Below w.heap.size w w' := by
  have kc := fun (w : World) (C : Array Value) (n c : Nat) => kconst w C n c w.heap.size rfl
  go_enter Tryd.func8, Tryd.ntmps8
  go_wp2_with (go_at_call 20; refine (parts_ex _ m hm h1).mono ?_; rintro e w1 ⟨v, rfl, hown, hb1⟩; refine Hid.out ?_)
  refine Lib.hid ?_
  obtain ⟨-, h2⟩ := hown
  rcases h2 with ⟨-, h2⟩ | ⟨g, cap, cur, rfl, hg, hc, -, -, hcs, h3⟩
  · cases h2
  have hgl : g < w1.heap.size := (Array.getElem?_eq_some_iff.1 hc).1
  have c0 : cur[0]? = some (.string ⟨#[97, 98]⟩) := by
    have h := congrArg (fun l : List Value => l[0]?) h3
    simpa using h
  have c1 : cur[1]? = some (.string ⟨#[]⟩) := by
    have h := congrArg (fun l : List Value => l[1]?) h3
    simpa using h
  have a0 : w1.cell? ⟨g, 0, none⟩ = some (.string ⟨#[97, 98]⟩) := by rw [World.cell?]; simp [hc, c0]
  have a1 : w1.cell? ⟨g, 1, none⟩ = some (.string ⟨#[]⟩) := by rw [World.cell?]; simp [hc, c1]
  clear h3 hcs hc c0 c1
  have x0 : (w1.alloc (.cells #[.int .u8 97, .int .u8 98] 5 (2, 3))).cell? ⟨w1.heap.size, 0, none⟩ = some (.int .u8 97) := by rw [cell_of_row _ _ _ _ _ _ (heap_alloc_new w1 _)]; rfl
  have x1 : (w1.alloc (.cells #[.int .u8 97, .int .u8 98] 5 (2, 3))).cell? ⟨w1.heap.size, 1, none⟩ = some (.int .u8 98) := by rw [cell_of_row _ _ _ _ _ _ (heap_alloc_new w1 _)]; rfl
  have hM := fun c => mark_ab _ w1.heap.size c x0 x1
  have hn : Below w1.heap.size w1 (w1.alloc (.cells #[.int .u8 97, .int .u8 98] 5 (2, 3))) := Joins.below_alloc1 _ _
  clear x0 x1
  go_wp2_with (go_at_call 19; refine (hM 2).mono ?_; rintro e w2 ⟨rfl, hb2⟩; have hb3 := hn.trans (hb2.mono hn.size); have b0 := (hb3.cell (p := ⟨g, 0, none⟩) hgl).trans a0; have b1 := (hb3.cell (p := ⟨g, 1, none⟩) hgl).trans a1; have HB := Lib.hid (hb1.trans (hb3.mono hb1.size)); clear hb2 hb3 hn a0 a1 hM kc)
  go_ret
  exact ⟨rfl, HB.out⟩
end Go.Proofs.YtghaknienffmjaaDoor
