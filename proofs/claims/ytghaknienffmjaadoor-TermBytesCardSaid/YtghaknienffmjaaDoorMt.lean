/- What bytes are read as. -/
import Derived.Test.YtghaknienffmjaaDoorMs
import Derived.Test.YtghaknienffmjaaDoorMn
namespace Go.Proofs.YtghaknienffmjaaDoor
open Go.RowKit Go.Maps
theorem place_yes (w : World) (B tb : Nat) (tv mv : Value) (E : List En) (hT : Tab w B tb tv mv E) (hE : E.length ≤ 1048576) (ao : Option Addr) (cap : Nat) (P : List Int) (hP : P.length ≤ 281474976710656) (hc : P.length ≤ cap) (h : Byt w ao P) (hb : ∀ x ∈ P, 0 ≤ x ∧ x ≤ 255) (hs : Stands P E.length) :
    Calls Tryd.prog 15 #[.pointer (some ⟨tb, 0, none⟩), .slice ao P.length cap] w fun e w' => e = .returned (.tuple #[.int .i64 (val8 P 8 : Nat), .bool true]) ∧ w' = w := by
  refine (place_num w B tb tv mv E hT hE ao cap P hP hc h hb hs.1 hs.2.1 hs.2.2.1).mono fun e w' ⟨h1, h2⟩ => ⟨h1.trans ?_, h2⟩
  rw [if_pos hs.2.2.2]
theorem place_not (w : World) (B tb : Nat) (tv mv : Value) (E : List En) (hT : Tab w B tb tv mv E) (hE : E.length ≤ 1048576) (ao : Option Addr) (cap : Nat) (P : List Int) (hP : P.length ≤ 281474976710656) (hc : P.length ≤ cap) (h : Byt w ao P) (hb : ∀ x ∈ P, 0 ≤ x ∧ x ≤ 255) (hs : ¬ Stands P E.length) :
    Calls Tryd.prog 15 #[.pointer (some ⟨tb, 0, none⟩), .slice ao P.length cap] w fun e w' => e = .returned (.tuple #[.int .i64 0, .bool false]) ∧ w' = w := by
  by_cases h3 : 32 ≤ P.length ∧ P.getD 0 0 = 84 ∧ (∀ x ∈ P.drop 9, x = 0)
  · refine (place_num w B tb tv mv E hT hE ao cap P hP hc h hb h3.1 h3.2.1 h3.2.2).mono fun e w' ⟨h1, h2⟩ => ⟨h1.trans ?_, h2⟩
    rw [if_neg (fun h4 => hs ⟨h3.1, h3.2.1, h3.2.2, h4⟩)]
  · exact place_no w tb ao cap P hP hc h h3
set_option maxHeartbeats 2000000 in
theorem read_yes (w : World) (B tb : Nat) (tv mv : Value) (E : List En) (hT : Tab w B tb tv mv E) (hE : E.length ≤ 1048576) (ao : Option Addr) (cap : Nat) (P : List Int) (hP : P.length ≤ 281474976710656) (hc : P.length ≤ cap) (h : Byt w ao P) (hb : ∀ x ∈ P, 0 ≤ x ∧ x ≤ 255) (hs : Stands P E.length) :
    Calls Tryd.prog 17 #[.pointer (some ⟨tb, 0, none⟩), .slice ao P.length cap] w fun e w' => e = .returned (.int .i64 (val8 P 8 : Nat)) ∧ w' = w := by
  have hp := place_yes w B tb tv mv E hT hE ao cap P hP hc h hb hs
  generalize val8 P 8 = v at *
  generalize P.length = n at *
  clear hs h hb hT
  go_enter Tryd.func17, Tryd.ntmps17
  go_wp2_with (go_at_call 15; refine hp.mono ?_; rintro e9 w1 ⟨rfl, hw⟩; obtain rfl := hw.symm)
  go_ret
  exact ⟨rfl, rfl⟩
/-- The Raw term of bytes. -/
def raw (P : List Int) : Tm := ⟨2, [], (strOfNums P).data.toList, 0⟩
theorem raw_fit (P : List Int) (hP : P.length ≤ 281474976710656) : Fit (raw P) :=
  ⟨⟨by show (0 : Int) ≤ 2; decide, by show (2 : Int) ≤ 255; decide, ⟨by show (-9223372036854775808 : Int) ≤ 0; decide, by show (0 : Int) ≤ _; decide⟩, fun i hi => absurd hi (List.not_mem_nil)⟩, Nat.zero_le _, by show (strOfNums P).data.toList.length ≤ _; rw [← size_list, strOfNums_size]; exact hP⟩
theorem str_back (s : ByteArray) : (⟨s.data.toList.toArray⟩ : ByteArray) = s := rfl
set_option maxHeartbeats 2000000 in
theorem read_not (w : World) (hG : Gv w) (B tb : Nat) (tv mv : Value) (E : List En) (hT : Tab w B tb tv mv E) (hB : B ≤ w.heap.size) (hE : E.length ≤ 1048576) (ao : Option Addr) (cap : Nat) (P : List Int) (hP : P.length ≤ 281474976710656) (hc : P.length ≤ cap) (h : Byt w ao P) (hb : ∀ x ∈ P, 0 ≤ x ∧ x ≤ 255) (hs : ¬ Stands P E.length) :
    Calls Tryd.prog 17 #[.pointer (some ⟨tb, 0, none⟩), .slice ao P.length cap] w (PutF w B tb tv mv E (raw P)) := by
  have hp := place_not w B tb tv mv E hT hE ao cap P hP hc h hb hs
  have hcv := conv_bytes h cap
  have hput := put_frame (raw P) (raw_fit P hP) none 0 w hG ⟨fun j hj => absurd hj (Nat.not_lt_zero _)⟩ B tb tv mv E hT hB hE
  have e1 : (⟨(raw P).tx.toArray⟩ : ByteArray) = strOfNums P := rfl
  rw [e1] at hput
  have e2 : (raw P).k = 2 := rfl
  have e3 : (raw P).n = 0 := rfl
  have e4 : (raw P).of.length = 0 := rfl
  rw [e2, e3, e4] at hput
  have HP := Lib.hid hput
  generalize strOfNums P = s at *
  generalize P.length = n at *
  clear hs h hb hT hput e1 e2 e3 e4
  go_enter Tryd.func17, Tryd.ntmps17
  go_wp2_with (first
    | (go_at_call 15; refine hp.mono ?_; rintro e9 w1 ⟨rfl, hw⟩; obtain rfl := hw.symm)
    | (go_at_call 11; refine HP.out.mono ?_; rintro e9 w1 hr; have HR := Lib.hid hr; obtain ⟨j, tv', mv', E', rfl, -⟩ := hr))
  go_ret
  exact HR.out
end Go.Proofs.YtghaknienffmjaaDoor
