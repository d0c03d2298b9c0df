/- What bytes are read as. -/
import Derived.Test.YteojlnbonhipbaaDoorMs
namespace Go.Proofs.YteojlnbonhipbaaDoor
open Go.RowKit Go.Maps
theorem place_yes (w : World) (B tb : Nat) (tv mv : Value) (E : List En) (hT : Tab w B tb tv mv E) (hE : E.length ≤ 1048576) (ao : Option Addr) (cap : Nat) (P : List Int) (hP : P.length ≤ 281474976710656) (hc : P.length ≤ cap) (h : BytI w ao P) (hb : ∀ x ∈ P, 0 ≤ x ∧ x ≤ 255) (hs : Stands P E.length) :
    Calls Tryd.prog 94 #[.pointer (some ⟨tb, 0, none⟩), .slice ao P.length cap] w fun e w' => e = .returned (.tuple #[.int .i64 (val8 P 8 : Nat), .bool true]) ∧ w' = w := by
  refine (place_num w B tb tv mv E hT hE ao cap P hP hc h hb hs.1 hs.2.1 hs.2.2.1).mono fun e w' ⟨h1, h2⟩ => ⟨h1.trans ?_, h2⟩
  rw [if_pos hs.2.2.2]
theorem place_not (w : World) (B tb : Nat) (tv mv : Value) (E : List En) (hT : Tab w B tb tv mv E) (hE : E.length ≤ 1048576) (ao : Option Addr) (cap : Nat) (P : List Int) (hP : P.length ≤ 281474976710656) (hc : P.length ≤ cap) (h : BytI w ao P) (hb : ∀ x ∈ P, 0 ≤ x ∧ x ≤ 255) (hs : ¬ Stands P E.length) :
    Calls Tryd.prog 94 #[.pointer (some ⟨tb, 0, none⟩), .slice ao P.length cap] w fun e w' => e = .returned (.tuple #[.int .i64 0, .bool false]) ∧ w' = w := by
  by_cases h3 : 32 ≤ P.length ∧ P.getD 0 0 = 84 ∧ (∀ x ∈ P.drop 9, x = 0)
  · refine (place_num w B tb tv mv E hT hE ao cap P hP hc h hb h3.1 h3.2.1 h3.2.2).mono fun e w' ⟨h1, h2⟩ => ⟨h1.trans ?_, h2⟩
    rw [if_neg (fun h4 => hs ⟨h3.1, h3.2.1, h3.2.2, h4⟩)]
  · exact place_no w tb ao cap P hP hc h h3
set_option maxHeartbeats 2000000 in
theorem read_yes (w : World) (B tb : Nat) (tv mv : Value) (E : List En) (hT : Tab w B tb tv mv E) (hE : E.length ≤ 1048576) (ao : Option Addr) (cap : Nat) (P : List Int) (hP : P.length ≤ 281474976710656) (hc : P.length ≤ cap) (h : BytI w ao P) (hb : ∀ x ∈ P, 0 ≤ x ∧ x ≤ 255) (hs : Stands P E.length) :
    Calls Tryd.prog 90 #[.pointer (some ⟨tb, 0, none⟩), .slice ao P.length cap] w fun e w' => e = .returned (.int .i64 (val8 P 8 : Nat)) ∧ w' = w := by
  have hp := place_yes w B tb tv mv E hT hE ao cap P hP hc h hb hs
  generalize val8 P 8 = v at *
  generalize P.length = n at *
  clear hs h hb hT
  go_enter Tryd.func90, Tryd.ntmps90
  go_wp2_with (go_at_call 94; refine hp.mono ?_; rintro e9 w1 ⟨rfl, hw⟩; obtain rfl := hw.symm)
  go_ret
  exact ⟨rfl, rfl⟩
end Go.Proofs.YteojlnbonhipbaaDoor
