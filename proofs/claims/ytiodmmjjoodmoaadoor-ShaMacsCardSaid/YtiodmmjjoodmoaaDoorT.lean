/- The law of parts, whatever the input. -/
import Derived.Test.YtiodmmjjoodmoaaDoorR
namespace Go.Proofs.YtiodmmjjoodmoaaDoor
open Go.RowKit

set_option maxRecDepth 100000 in
set_option maxHeartbeats 400000 in
theorem parts_long (w : World) (ht : Tab w) (ap ak ac : Option Addr) (np nk nc cp ck cc : Nat) (h : 2000 < np ∨ 300 < nk ∨ 20 < nc) :
    Calls Tryd.prog 4 #[.slice ap np cp, .slice ak nk ck, .slice ac nc cc] w fun e w' => e = .returned (.bool true) ∧ Below w.heap.size w w' := by
  have HS := Lib.hid (awake_any w ht)
  have HT := Lib.hid ht
  clear ht
  have h' : (2000 < np) ∨ (np ≤ 2000 ∧ 300 < nk) ∨ (np ≤ 2000 ∧ nk ≤ 300 ∧ 20 < nc) := by omega
  clear h
  rcases h' with h | ⟨h0, h⟩ | ⟨h0, h1, h⟩
  all_goals
    go_enter Tryd.func4, Tryd.ntmps4
    go_wp2_with (first
      | (go_at_call 8; refine HS2.out.mono ?_; rintro e w2 ⟨rfl, hb2⟩; have HB2 := Lib.hid hb2; clear hb2)
      | (go_at_call 8; refine HS.out.mono ?_; rintro e w1 ⟨rfl, hb1⟩; have HB1 := Lib.hid hb1; have HS2 := Lib.hid (awake_any w1 (HT.out.below hb1 HT.out.1)); clear hb1))
    go_ret
    exact ⟨rfl, HB1.out.trans (HB2.out.mono HB1.out.size)⟩

theorem parts_any (w : World) (ht : Tab w) (ap ak ac : Option Addr) (cp ck cc : Nat) (P K C : List Int) (hP : Slc w (.slice ap P.length cp) P) (hK : Slc w (.slice ak K.length ck) K) (hC : Slc2 w (.slice ac C.length cc) C) :
    Calls Tryd.prog 4 #[.slice ap P.length cp, .slice ak K.length ck, .slice ac C.length cc] w fun e w' => e = .returned (.bool true) ∧ Below w.heap.size w w' := by
  by_cases h : P.length ≤ 2000 ∧ K.length ≤ 300 ∧ C.length ≤ 20
  · exact parts_probe w ht ap ak ac cp ck cc P K C hP hK hC h.1 h.2.1 h.2.2
  · exact parts_long w ht ap ak ac _ _ _ cp ck cc (by omega)
end Go.Proofs.YtiodmmjjoodmoaaDoor
