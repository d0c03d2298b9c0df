/- What the library's variables hold; a text cut once, for every text. -/
import Derived.Test.YtghaknienffmjaaDoorB
import Derived.Test.YtghaknienffmjaaDoorSi
import Derived.Test.YtghaknienffmjaaDoorLa
import Derived.Lib.AppendIntMem
namespace Go.Proofs.YtghaknienffmjaaDoor
open Go.RowKit
/-- What the library's variables hold. -/
structure Gv (w : World) : Prop where
  sz : 4 ≤ w.heap.size
  mx : ∃ m, w.cell? ⟨1, 0, none⟩ = some (.int .i64 m)
  es : ∃ te pe, w.cell? ⟨2, 0, none⟩ = some (.iface te pe)
  er : ∃ te pe, w.cell? ⟨3, 0, none⟩ = some (.iface te pe)
  tab : Lib.TabIs Tryd.prog w "internal/strconv.uint64pow10" .u64 Lib.pow10Tab
theorem Gv.on {w w' : World} (h : Gv w) (hb : Below w.heap.size w w') : Gv w' := by
  have hs := h.sz
  obtain ⟨m, hm⟩ := h.mx
  obtain ⟨a, b, he⟩ := h.es
  obtain ⟨c, d, hr⟩ := h.er
  exact ⟨Nat.le_trans hs hb.size, ⟨m, (hb.cell (p := ⟨1, 0, none⟩) (by show 1 < _; omega)).trans hm⟩, ⟨a, b, (hb.cell (p := ⟨2, 0, none⟩) (by show 2 < _; omega)).trans he⟩, ⟨c, d, (hb.cell (p := ⟨3, 0, none⟩) (by show 3 < _; omega)).trans hr⟩, Lib.tabBelow_of_tabIs h.tab w' hb⟩
theorem below_grow (w : World) (k : Nat) (os : Array Obj) : Below w.heap.size w (Sort.grow (w.drewN k) os) := by
  refine ⟨rfl, rfl, rfl, ?_, fun j hj => ?_⟩
  · show w.heap.size ≤ (w.heap ++ os).size
    rw [Array.size_append]; omega
  · show (w.heap ++ os)[j]? = w.heap[j]?
    rw [Array.getElem?_append_left hj]
theorem itoa_nat (n : Nat) (hn : n ≤ 9223372036854775807) (w : World) (hG : Gv w) : Calls Tryd.prog 24 #[.int .i64 n] w fun e w' => e = .returned (.string ⟨(Lib.decDigits n).toArray⟩) ∧ Below w.heap.size w w' := by
  refine (Tryd.strconv_Itoa n (by omega) (by omega) w hG.tab).mono ?_
  rintro e w' ⟨rfl, k, os, rfl⟩
  rw [Lib.itoa_nonneg]
  exact ⟨rfl, below_grow _ _ _⟩
theorem atoi_ok (s : ByteArray) (hs : s.size ≤ 281474976710656) (v : Int) (h : Lib.atoiAll s.data.toList = .ok v) (w : World) : Calls Tryd.prog 30 #[.string s] w fun e w' => e = .returned (.tuple #[.int .i64 v, .nilIface]) ∧ Below w.heap.size w w' := by
  refine (Tryd.strconv_Atoi_ok s (by omega) v h w).mono ?_
  rintro e w' ⟨rfl, rfl | ⟨t, rfl⟩⟩
  · exact ⟨rfl, Below.refl _ _⟩
  · exact ⟨rfl, Lib.bytesWorld_below _ _ _⟩
theorem atoi_bad (s : ByteArray) (hs : s.size ≤ 281474976710656) (h : ∀ v, Lib.atoiAll s.data.toList ≠ .ok v) (w : World) (hG : Gv w) : Calls Tryd.prog 30 #[.string s] w fun e w' => ∃ x N, e = .returned (.tuple #[.int .i64 x, .iface 84 (.pointer (some ⟨N, 0, none⟩))]) ∧ Below w.heap.size w w' := by
  rcases hc : Lib.atoiAll s.data.toList with v | _ | _
  · exact absurd hc (h v)
  · obtain ⟨a, b, he⟩ := hG.es
    refine (Any.strconv_Atoi_syntax Tryd.laysC172 s hs hc _ w he (.inr ⟨a, b, rfl⟩)).mono ?_
    rintro e w' ⟨N, rfl, -, -, hb⟩
    exact ⟨_, N, rfl, hb⟩
  · obtain ⟨a, b, he⟩ := hG.er
    refine (Any.strconv_Atoi_range Tryd.laysC172 s hs hc _ w he (.inr ⟨a, b, rfl⟩)).mono ?_
    rintro e w' ⟨N, rfl, -, -, hb⟩
    exact ⟨_, N, rfl, hb⟩
/-- What a cut hands back. -/
def cutV (o : Option (List UInt8 × List UInt8)) : Value :=
  match o with
  | none => .tuple #[.string ⟨#[]⟩, .string ⟨#[]⟩, .bool false]
  | some (p, r) => .tuple #[.string ⟨p.toArray⟩, .string ⟨r.toArray⟩, .bool true]
theorem strcut_any (s : ByteArray) (w : World) (hG : Gv w) (hs : s.size < 4294967281) (d a : List UInt8) (b : Bool) (h : Lib.cut s.data.toList [58] = (d, a, b)) :
    Calls Tryd.prog 29 #[.string s, .string ⟨#[58]⟩] w fun e w' => e = .returned (.tuple #[.string ⟨d.toArray⟩, .string ⟨a.toArray⟩, .bool b]) ∧ Below w.heap.size w w' := by
  obtain ⟨m, hm⟩ := hG.mx
  refine (Tryd.strings_Cut s ⟨#[58]⟩ m w hs hm).mono ?_
  rintro e w' ⟨rfl, k, rfl⟩
  refine ⟨?_, below_drewN _ _⟩
  show Ending.returned (.tuple #[.string ⟨(Lib.cut s.data.toList [58]).1.toArray⟩, .string ⟨(Lib.cut s.data.toList [58]).2.1.toArray⟩, .bool (Lib.cut s.data.toList [58]).2.2]) = _
  rw [h]
set_option maxHeartbeats 2000000 in
theorem cut_miss (s d : ByteArray) (a : List UInt8) (w : World) (hG : Gv w) (hs : s.size < 4294967281) (h : Lib.cut s.data.toList [58] = (d.data.toList, a, false)) :
    Calls Tryd.prog 25 #[.string s] w fun e w' => e = .returned (cutV none) ∧ Below w.heap.size w w' := by
  have hc := strcut_any s w hG hs _ _ _ h
  go_enter Tryd.func25, Tryd.ntmps25
  go_wp2_with (go_at_call 29; refine hc.mono ?_; rintro e w1 ⟨rfl, hb1⟩)
  go_ret3
  exact ⟨rfl, hb1⟩
set_option maxHeartbeats 2000000 in
theorem cut_bad (s d a : ByteArray) (w : World) (hG : Gv w) (hs : s.size < 4294967281) (hd : d.size ≤ 281474976710656) (h : Lib.cut s.data.toList [58] = (d.data.toList, a.data.toList, true)) (hbad : ∀ v, Lib.atoiAll d.data.toList ≠ .ok v) :
    Calls Tryd.prog 25 #[.string s] w fun e w' => e = .returned (cutV none) ∧ Below w.heap.size w w' := by
  have hc : Calls Tryd.prog 29 #[.string s, .string ⟨#[58]⟩] w fun e w' => e = .returned (.tuple #[.string d, .string a, .bool true]) ∧ Below w.heap.size w w' := strcut_any s w hG hs _ _ _ h
  go_enter Tryd.func25, Tryd.ntmps25
  go_wp2_with (first
    | (go_at_call 29; refine hc.mono ?_; rintro e w1 ⟨rfl, hb1⟩)
    | (go_at_call 30; refine (atoi_bad d hd hbad _ (hG.on hb1)).mono ?_; rintro e w2 ⟨x, N, rfl, hb2⟩))
  go_ret3
  exact ⟨rfl, hb1.trans (hb2.mono hb1.size)⟩
set_option maxHeartbeats 2000000 in
theorem cut_out (s d a : ByteArray) (n : Int) (w : World) (hG : Gv w) (hs : s.size < 4294967281) (hd : d.size ≤ 281474976710656) (h : Lib.cut s.data.toList [58] = (d.data.toList, a.data.toList, true)) (hn : Lib.atoiAll d.data.toList = .ok n) (ha : n < 0 ∨ (a.size : Int) < n) :
    Calls Tryd.prog 25 #[.string s] w fun e w' => e = .returned (cutV none) ∧ Below w.heap.size w w' := by
  have hc : Calls Tryd.prog 29 #[.string s, .string ⟨#[58]⟩] w fun e w' => e = .returned (.tuple #[.string d, .string a, .bool true]) ∧ Below w.heap.size w w' := strcut_any s w hG hs _ _ _ h
  have HA := Lib.hid ha
  clear ha
  go_enter Tryd.func25, Tryd.ntmps25
  go_wp2_with (first
    | (go_at_call 29; refine hc.mono ?_; rintro e w1 ⟨rfl, hb1⟩)
    | (go_at_call 30; refine (atoi_ok d hd n hn _).mono ?_; rintro e w2 ⟨rfl, hb2⟩)
    | (go_at_call 24; refine Hid.out ?_))
  · go_ret3
    exact ⟨rfl, hb1.trans (hb2.mono hb1.size)⟩
  · have := HA.out
    exfalso; omega
  · go_ret3
    exact ⟨rfl, hb1.trans (hb2.mono hb1.size)⟩
set_option maxHeartbeats 2000000 in
theorem cut_other (s d a : ByteArray) (n : Nat) (w : World) (hG : Gv w) (hs : s.size < 4294967281) (hd : d.size ≤ 281474976710656) (h : Lib.cut s.data.toList [58] = (d.data.toList, a.data.toList, true)) (hn : Lib.atoiAll d.data.toList = .ok (n : Int)) (hm : n ≤ 9223372036854775807) (ha : n ≤ a.size)
    (he : ((⟨(Lib.decDigits n).toArray⟩ : ByteArray).toList == d.toList) = false) :
    Calls Tryd.prog 25 #[.string s] w fun e w' => e = .returned (cutV none) ∧ Below w.heap.size w w' := by
  have hc : Calls Tryd.prog 29 #[.string s, .string ⟨#[58]⟩] w fun e w' => e = .returned (.tuple #[.string d, .string a, .bool true]) ∧ Below w.heap.size w w' := strcut_any s w hG hs _ _ _ h
  have hi := fun w => itoa_nat n hm w
  generalize (⟨(Lib.decDigits n).toArray⟩ : ByteArray) = t at *
  go_enter Tryd.func25, Tryd.ntmps25
  go_wp2_with (first
    | (go_at_call 29; refine hc.mono ?_; rintro e w1 ⟨rfl, hb1⟩)
    | (go_at_call 30; refine (atoi_ok d hd n hn _).mono ?_; rintro e w2 ⟨rfl, hb2⟩)
    | (go_at_call 24; refine (hi _ ((hG.on hb1).on hb2)).mono ?_; rintro e w3 ⟨rfl, hb3⟩))
  go_ret3
  exact ⟨rfl, (hb1.trans (hb2.mono hb1.size)).trans (hb3.mono (Nat.le_trans hb1.size hb2.size))⟩
set_option maxHeartbeats 2000000 in
theorem cut_hits (s d a : ByteArray) (n : Nat) (w : World) (hG : Gv w) (hs : s.size < 4294967281) (hd : d.size ≤ 281474976710656) (h : Lib.cut s.data.toList [58] = (d.data.toList, a.data.toList, true)) (hn : Lib.atoiAll d.data.toList = .ok (n : Int)) (hm : n ≤ 9223372036854775807) (ha : n ≤ a.size)
    (he : (⟨(Lib.decDigits n).toArray⟩ : ByteArray) = d) :
    Calls Tryd.prog 25 #[.string s] w fun e w' => e = .returned (.tuple #[.string (a.extract 0 n), .string (a.extract n a.size), .bool true]) ∧ Below w.heap.size w w' := by
  have hc : Calls Tryd.prog 29 #[.string s, .string ⟨#[58]⟩] w fun e w' => e = .returned (.tuple #[.string d, .string a, .bool true]) ∧ Below w.heap.size w w' := strcut_any s w hG hs _ _ _ h
  have hi := fun w => itoa_nat n hm w
  rw [he] at hi
  go_enter Tryd.func25, Tryd.ntmps25
  go_wp2_with (first
    | (go_at_call 29; refine hc.mono ?_; rintro e w1 ⟨rfl, hb1⟩)
    | (go_at_call 30; refine (atoi_ok d hd n hn _).mono ?_; rintro e w2 ⟨rfl, hb2⟩)
    | (go_at_call 24; refine (hi _ ((hG.on hb1).on hb2)).mono ?_; rintro e w3 ⟨rfl, hb3⟩))
  go_region
  go_wp2
  go_ret3
  exact ⟨rfl, ((hb1.trans (hb2.mono hb1.size)).trans (hb3.mono (Nat.le_trans hb1.size hb2.size))).drew⟩
theorem cut_len (s : List UInt8) : (Lib.cut s [58]).1.length ≤ s.length ∧ (Lib.cut s [58]).2.1.length ≤ s.length := by
  unfold Lib.cut
  split
  · simp
    omega
  · simp
/-- The first part of a text, and what follows: whatever the text. -/
theorem cut_any (s : ByteArray) (w : World) (hG : Gv w) (hs : s.size < 4294967281) :
    Calls Tryd.prog 25 #[.string s] w fun e w' => e = .returned (cutV (Mk.cut s.data.toList)) ∧ Below w.heap.size w w' := by
  have hsz : s.size = s.data.toList.length := by rw [Array.length_toList]; rfl
  obtain ⟨hl1, hl2⟩ := cut_len s.data.toList
  have hx : ∃ d a : ByteArray, ∃ b, Lib.cut s.data.toList [58] = (d.data.toList, a.data.toList, b) := ⟨⟨(Lib.cut s.data.toList [58]).1.toArray⟩, ⟨(Lib.cut s.data.toList [58]).2.1.toArray⟩, (Lib.cut s.data.toList [58]).2.2, rfl⟩
  obtain ⟨d, a, b, h⟩ := hx
  unfold Mk.cut
  rw [h] at hl1 hl2 ⊢
  have hd : d.size = d.data.toList.length := by rw [Array.length_toList]; rfl
  have ha : a.size = a.data.toList.length := by rw [Array.length_toList]; rfl
  simp only at hl1 hl2
  cases b with
  | false => exact cut_miss s d _ w hG hs h
  | true =>
    simp only [Bool.true_eq_false, if_false]
    rcases hn : Lib.atoiAll d.data.toList with n | _ | _
    rotate_left
    · exact cut_bad s d a w hG hs (by omega) h (fun v hv => by rw [hn] at hv; cases hv)
    · exact cut_bad s d a w hG hs (by omega) h (fun v hv => by rw [hn] at hv; cases hv)
    · skip
      simp only
      by_cases h1 : n < 0 ∨ (a.data.toList.length : Int) < n
      · rw [if_pos h1]
        exact cut_out s d a n w hG hs (by omega) h hn (by rw [ha]; exact h1)
      · rw [if_neg h1]
        obtain ⟨k, rfl⟩ : ∃ k : Nat, n = k := ⟨n.toNat, by omega⟩
        rw [Int.toNat_natCast]
        by_cases h2 : Lib.decDigits k = d.data.toList
        · rw [if_pos h2]
          refine (cut_hits s d a k w hG hs (by omega) h hn (by omega) (by omega) (by rw [h2])).mono fun e w' ⟨he, hb⟩ => ⟨he.trans ?_, hb⟩
          rw [Lib.extract_eq, Lib.extract_eq]
          simp only [cutV, List.drop_zero, Nat.sub_zero]
          rw [List.take_of_length_le (l := a.data.toList.drop k) (by rw [List.length_drop]; omega)]
        · rw [if_neg h2]
          refine cut_other s d a k w hG hs (by omega) h hn (by omega) (by omega) ?_
          rw [ByteArray.toList_mk, ByteArray.toList_eq]
          simpa using h2
end Go.Proofs.YtghaknienffmjaaDoor
