/- A nil table has no terms: the law's walk. -/
import Derived.Test.YtghaknienffmjaaDoorG
namespace Go.Proofs.YtghaknienffmjaaDoor
open Go.RowKit
/-- A term in a variable of the call's own. -/
structure Boxed (b : Nat) (k o s n : Value) (w : World) : Prop where
  lt : b < w.heap.size
  c0 : w.cell? ⟨b, 0, none⟩ = some k
  c1 : w.cell? ⟨b, 1, none⟩ = some o
  c2 : w.cell? ⟨b, 2, none⟩ = some s
  c3 : w.cell? ⟨b, 3, none⟩ = some n
theorem Boxed.new (w : World) (k o s n : Value) : Boxed w.heap.size k o s n (w.alloc (.cells #[k, o, s, n] 25)) :=
  ⟨by simp, by rw [cell_of_row _ _ _ _ _ _ (heap_alloc_new w _)]; rfl, by rw [cell_of_row _ _ _ _ _ _ (heap_alloc_new w _)]; rfl, by rw [cell_of_row _ _ _ _ _ _ (heap_alloc_new w _)]; rfl, by rw [cell_of_row _ _ _ _ _ _ (heap_alloc_new w _)]; rfl⟩
theorem Boxed.on {b B : Nat} {k o s n : Value} {w w' : World} (h : Boxed b k o s n w) (hb : Below B w w') (hB : b < B) : Boxed b k o s n w' :=
  ⟨Nat.lt_of_lt_of_le h.lt hb.size, (hb.cell hB).trans h.c0, (hb.cell hB).trans h.c1, (hb.cell hB).trans h.c2, (hb.cell hB).trans h.c3⟩
set_option maxHeartbeats 2000000 in
theorem nil_walk (i : Int) (k n : Value) (ao : Option Addr) (len cap : Nat) (s : ByteArray) (w : World) (m : Int) (hm : w.cell? ⟨1, 0, none⟩ = some (.int .i64 m)) (h1 : 1 < w.heap.size) :
    Calls Tryd.prog 7 #[.int .i64 i, .agg #[k, .slice ao len cap, .string s, n]] w fun e w' => e = .returned (.bool true) ∧ Below w.heap.size w w' := by
  have hb0 := Joins.below_alloc1 w (.cells #[k, .slice ao len cap, .string s, n] 25)
  have hx0 := Boxed.new w k (.slice ao len cap) (.string s) n
  have hA := awake_any (w.alloc (.cells #[k, .slice ao len cap, .string s, n] 25)) m ((hb0.cell h1).trans hm) (by have := hb0.size; omega)
  go_enter Tryd.func7, Tryd.ntmps7
  go_wp2_with (go_at_call 8; refine hA.mono ?_; rintro e w1 ⟨rfl, hb⟩; refine Hid.out ?_)
  refine Lib.hid ?_
  have hx1 := hx0.on hb hx0.lt
  have hb1 := hb0.trans (hb.mono hb0.size)
  have hA1 := awake_any w1 m ((hb1.cell h1).trans hm) (by have := hb1.size; omega)
  clear hb hx0 hA hb0
  have c1 := hx1.c1
  have c2 := hx1.c2
  have HX1 := Lib.hid hx1
  clear hx1
  go_wp2_with (first
    | (go_at_call 8; refine hA1.mono ?_; rintro e w2 ⟨rfl, hb2⟩)
    | (go_at_call 13; refine Hid.out ?_))
  · go_ret
    exact ⟨rfl, hb1.trans (hb2.mono hb1.size)⟩
  · refine Lib.hid ?_
    clear c1 c2 hA1
    go_wp2_with (go_at_call 13; refine (get_nil i w1).mono ?_; rintro e w2 ⟨rfl, hb⟩; refine Hid.out ?_)
    refine Lib.hid ?_
    have hx2 := HX1.out.on hb HX1.out.lt
    have hb2 := hb1.trans (hb.mono hb1.size)
    have hz : Below w.heap.size w (w2.alloc (.cells #[.int .u8 0, .slice none 0 0, .string ⟨#[]⟩, .int .i64 0] 25)) := hb2.trans ((Joins.below_alloc1 w2 _).mono hb2.size)
    have hx3 := hx2.on (Joins.below_alloc1 w2 (.cells #[.int .u8 0, .slice none 0 0, .string ⟨#[]⟩, .int .i64 0] 25)) hx2.lt
    clear hb hb2 hb1
    obtain ⟨hlt, c0, c1, c2, c3⟩ := hx3
    clear hx2 HX1
    go_wp2_with (go_at_call 14; refine (find_nil _ _ _ _ _).mono ?_; rintro e w4 ⟨rfl, hb⟩; refine Hid.out ?_)
    refine Lib.hid ?_
    have hx4 := (Boxed.mk hlt c0 c1 c2 c3).on hb hlt
    have hz4 := hz.trans (hb.mono hz.size)
    clear hb hlt c0 c1 c2 c3 hz
    obtain ⟨hlt, c0, c1, c2, c3⟩ := hx4
    go_wp2_with (first
      | (go_at_call 11; refine (put_nil _ _ _ _ _).mono ?_; rintro e w5 ⟨rfl, hb⟩; have HZ5 := Lib.hid (hz4.trans (hb.mono hz4.size)); clear hb hlt c0 c1 c2 c3 hz4)
      | (go_at_call 12; refine (len_nil _).mono ?_; rintro e w6 ⟨rfl, rfl⟩))
    go_ret
    exact ⟨rfl, HZ5.out⟩
  · go_ret
    exact ⟨rfl, hb1.trans (hb2.mono hb1.size)⟩
end Go.Proofs.YtghaknienffmjaaDoor
