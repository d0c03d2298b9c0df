/- The document's examples: the library's functions, and the text cut once. -/
import Derived.Test.YtghaknienffmjaaDoorA
import Derived.Test.YtghaknienffmjaaDoorSh
import Derived.Lib.AtoiErrMem
namespace Go.Proofs.YtghaknienffmjaaDoor
open Go.RowKit
set_option maxHeartbeats 400000 in
theorem clone_any (s : ByteArray) (w : World) (hlim : s.size ≤ 281474976710656) : Calls Tryd.prog 26 #[.string s] w fun e w' => e = .returned (.string s) ∧ Below w.heap.size w w' := by
  go_enter Tryd.func26, Tryd.ntmps26
  go_wp2_with (go_at_call 31; refine (Tryd.stringslite_Clone s _ hlim).mono ?_; rintro e w' ⟨rfl, hb⟩)
  go_ret
  exact ⟨rfl, hb⟩
theorem below_drewN (w : World) (k : Nat) : Below w.heap.size w (w.drewN k) := ⟨rfl, rfl, rfl, Nat.le_refl _, fun _ _ => rfl⟩
theorem strcut {s a b : ByteArray} (w : World) (m : Int) (hm : w.cell? ⟨1, 0, none⟩ = some (.int .i64 m)) (hs : s.size < 4294967281) (h : Lib.cut s.data.toList [58] = (a.data.toList, b.data.toList, true)) :
    Calls Tryd.prog 29 #[.string s, .string ⟨#[58]⟩] w fun e w' => e = .returned (.tuple #[.string a, .string b, .bool true]) ∧ Below w.heap.size w w' := by
  refine (Tryd.strings_Cut s ⟨#[58]⟩ m w hs hm).mono ?_
  rintro e w' ⟨rfl, k, rfl⟩
  refine ⟨?_, below_drewN _ _⟩
  show Ending.returned (.tuple #[.string ⟨(Lib.cut s.data.toList [58]).1.toArray⟩, .string ⟨(Lib.cut s.data.toList [58]).2.1.toArray⟩, .bool (Lib.cut s.data.toList [58]).2.2]) = _
  rw [h]
theorem atoi_num {s : ByteArray} {n : Int} (w : World) (hl : s.size ≤ 18) (h : Lib.atoi s.data.toList = some n) :
    Calls Tryd.prog 30 #[.string s] w fun e w' => e = .returned (.tuple #[.int .i64 n, .nilIface]) ∧ Below w.heap.size w w' := by
  refine (Tryd.strconv_Atoi s n hl h w).mono ?_
  rintro e w' ⟨rfl, t, rfl⟩
  exact ⟨rfl, Lib.bytesWorld_below _ _ _⟩
theorem itoa_num {s : ByteArray} (i : Nat) (hi : i < 100) (h : Lib.decDigits i = s.data.toList) (w : World) :
    Calls Tryd.prog 24 #[.int .i64 i] w fun e w' => e = .returned (.string s) ∧ w' = w := by
  refine (Tryd.strconv_Itoa_small i hi w).mono ?_
  rintro e w' ⟨rfl, rfl⟩
  refine ⟨?_, rfl⟩
  rw [h]
set_option maxHeartbeats 1000000 in
theorem cut_one (w : World) (m : Int) (hm : w.cell? ⟨1, 0, none⟩ = some (.int .i64 m)) :
    Calls Tryd.prog 25 #[.string ⟨#[50, 58, 97, 98, 48, 58]⟩] w fun e w' => e = .returned (.tuple #[.string ⟨#[97, 98]⟩, .string ⟨#[48, 58]⟩, .bool true]) ∧ Below w.heap.size w w' := by
  have hc := strcut (s := ⟨#[50, 58, 97, 98, 48, 58]⟩) (a := ⟨#[50]⟩) (b := ⟨#[97, 98, 48, 58]⟩) w m hm (by decide) (by decide)
  have ha := fun w => atoi_num (s := ⟨#[50]⟩) (n := 2) w (by decide) (by decide)
  have hi := fun w => itoa_num (s := ⟨#[50]⟩) 2 (by decide) (by simp [Lib.decDigits]) w
  go_enter Tryd.func25, Tryd.ntmps25
  go_wp2_with (first
    | (go_at_call 29; refine hc.mono ?_; rintro e w1 ⟨rfl, hb1⟩)
    | (go_at_call 30; refine (ha _).mono ?_; rintro e w2 ⟨rfl, hb2⟩)
    | (go_at_call 24; refine (hi _).mono ?_; rintro e w3 ⟨rfl, rfl⟩))
  go_region
  go_wp2
  go_ret3
  exact ⟨rfl, (hb1.trans (hb2.mono hb1.size)).drew⟩
set_option maxHeartbeats 1000000 in
theorem cut_two (w : World) (m : Int) (hm : w.cell? ⟨1, 0, none⟩ = some (.int .i64 m)) :
    Calls Tryd.prog 25 #[.string ⟨#[48, 58]⟩] w fun e w' => e = .returned (.tuple #[.string ⟨#[]⟩, .string ⟨#[]⟩, .bool true]) ∧ Below w.heap.size w w' := by
  have hc := strcut (s := ⟨#[48, 58]⟩) (a := ⟨#[48]⟩) (b := ⟨#[]⟩) w m hm (by decide) (by decide)
  have ha := fun w => atoi_num (s := ⟨#[48]⟩) (n := 0) w (by decide) (by decide)
  have hi := fun w => itoa_num (s := ⟨#[48]⟩) 0 (by decide) (by simp [Lib.decDigits]) w
  go_enter Tryd.func25, Tryd.ntmps25
  go_wp2_with (first
    | (go_at_call 29; refine hc.mono ?_; rintro e w1 ⟨rfl, hb1⟩)
    | (go_at_call 30; refine (ha _).mono ?_; rintro e w2 ⟨rfl, hb2⟩)
    | (go_at_call 24; refine (hi _).mono ?_; rintro e w3 ⟨rfl, rfl⟩))
  go_region
  go_wp2
  go_ret3
  exact ⟨rfl, (hb1.trans (hb2.mono hb1.size)).drew⟩
end Go.Proofs.YtghaknienffmjaaDoor
