/- All parts of a text, for every text. -/
import Derived.Test.YtghaknienffmjaaDoorLb
import Derived.Test.YtghaknienffmjaaDoorC
namespace Go.Proofs.YtghaknienffmjaaDoor
open Go.RowKit
def strV (p : List UInt8) : Value := .string ⟨p.toArray⟩
def strLen : Value → Nat
  | .string b => b.size
  | _ => 0
/-- What the parts hand back. -/
def PartsR (w : World) (o : Option (List (List UInt8))) (e : Ending) (w' : World) : Prop :=
  Below w.heap.size w w' ∧ match o with
    | none => e = .returned (.tuple #[.slice none 0 0, .int .i64 4])
    | some l => ∃ v, e = .returned (.tuple #[v, .int .i64 0]) ∧ w'.ownsRow w.heap.size 9 1 v l.length (l.map strV)
theorem size_list (s : ByteArray) : s.size = s.data.toList.length := by rw [Array.length_toList]; rfl
theorem cut_shorter {s p r : List UInt8} (h : Mk.cut s = some (p, r)) : 2 + p.length + r.length ≤ s.length := by
  have h1 := congrArg List.length (Mk.cut_some h)
  have h2 := Mk.mk_len p
  simp only [List.length_append] at h1
  omega
set_option maxHeartbeats 4000000 in
theorem parts_any (s : ByteArray) (w : World) (hG : Gv w) (hs : s.size < 4294967281) :
    Calls Tryd.prog 20 #[.string s] w fun e w' => PartsR w (Mk.parts s.data.toList) e w' := by
  obtain ⟨i0, hi, hz0, hz1, hz2⟩ := info_parts info9
  go_enter Tryd.func20, Tryd.ntmps20
  go_wp2
  go_loopw [0, 4] (fun a v wr => ∃ (t : ByteArray) (xs : List (List UInt8)), a = .string t ∧ Hid (xs.length + t.size ≤ s.size) ∧ Hid (Mk.parts s.data.toList = (Mk.parts t.data.toList).map (xs ++ ·)) ∧ wr.ownsRow w.heap.size 9 1 v xs.length (xs.map strV) ∧ Below w.heap.size w wr)
    (fun a _ _ => strLen a)
  case atStart => exact ⟨s, [], rfl, by show 0 + _ ≤ _; omega, by show _ = _; simp, World.ownsRow_nil _ _ _ _, Below.refl _ _⟩
  case round =>
    obtain ⟨t, xs, rfl, HL, HP, hown, hb⟩ := hrel
    have hsz := size_list t
    by_cases ht : t.data.toList = []
    · obtain rfl : t = ByteArray.empty := Go.WideShapes.bytes_inj (by rw [ht]; rfl)
      clear hsz ht
      go_wp2
      go_ret2
      refine ⟨hb, ?_⟩
      have h := HP.out
      rw [show ByteArray.empty.data.toList = ([] : List UInt8) from rfl, Mk.parts_nil] at h
      rw [h]
      exact ⟨_, rfl, by simpa using hown⟩
    · have hne : (t.toList == ([] : List UInt8)) = false := by
        rw [ByteArray.toList_eq]; simpa using ht
      have hGr := hG.on hb
      have hc := cut_any t wr hGr (by have := HL.out; omega)
      have hst := Mk.parts_step ht
      cases hx : Mk.cut t.data.toList with
      | none =>
        have hc2 : Calls Tryd.prog 25 #[.string t] wr fun e w' => e = .returned (.tuple #[.string ⟨#[]⟩, .string ⟨#[]⟩, .bool false]) ∧ Below wr.heap.size wr w' := by
          have h := hc
          simp only [hx, cutV] at h
          exact h
        rw [hx] at hst
        have HS := Lib.hid hst
        clear hc hx hst ht hsz
        go_wp2_with (go_at_call 25; refine hc2.mono ?_; rintro e w1 ⟨rfl, hb1⟩)
        go_ret2
        refine ⟨hb.trans (hb1.mono hb.size), ?_⟩
        have h := HP.out
        rw [HS.out] at h
        rw [h]
        rfl
      | some x =>
        obtain ⟨p, r⟩ := x
        obtain ⟨P, rfl⟩ : ∃ P : ByteArray, p = P.data.toList := ⟨⟨p.toArray⟩, rfl⟩
        obtain ⟨R, rfl⟩ : ∃ R : ByteArray, r = R.data.toList := ⟨⟨r.toArray⟩, rfl⟩
        have hc2 : Calls Tryd.prog 25 #[.string t] wr fun e w' => e = .returned (.tuple #[.string P, .string R, .bool true]) ∧ Below wr.heap.size wr w' := by
          have h := hc
          simp only [hx, cutV] at h
          exact h
        have hsh := cut_shorter hx
        have HN : Hid (2 + P.size + R.size ≤ t.size) := by
          show _ ≤ _
          rw [hsz, size_list P, size_list R]; exact hsh
        have hP : P.size ≤ 281474976710656 := by have := HL.out; have := HN.out; omega
        rw [hx] at hst
        have HS := Lib.hid hst
        have HB := Lib.hid hb
        clear hc hx hst ht hsz hsh
        go_wp2_with (first
          | (go_at_call 25; refine hc2.mono ?_; rintro e w1 ⟨rfl, hb1⟩; have HB1 := Lib.hid hb1; have hown1 := owns_below hown hb1; clear hb1 hown hc2)
          | (go_at_call 26; refine (clone_any P _ hP).mono ?_; rintro e w2 ⟨rfl, hb2⟩; have HB2 := Lib.hid hb2; have hown2 := owns_below hown1 hb2; clear hb2 hown1)
          | (at_builtin; refine wpList_append_own _ rfl _ _ 48 rfl w.heap.size 9 i0 (.string ByteArray.empty) 1 16 Tryd.underlying48 hi hz0 hz1 hz2 rfl (by decide) _ _ _ rfl (hown2.alloc _) ⟨w2.heap.size, 0, none⟩ 1 1 [.string P] rfl rfl (cell_one_new _ _ _) (fun x hx => by simp at hx; subst hx; rfl) (by have := HL.out; have := HN.out; unfold maxLen; omega) (by have := HL.out; have := HN.out; omega) (by have := HB.out.size; have := HB1.out.size; have := HB2.out.size; simp; omega) ?_; intro v' w3 hown3 hgrow3 hnil3; clear hnil3))
        go_roundw
        case rel =>
          have hb3 : Below w.heap.size w w3 := Below.grown (((HB.out.trans (HB1.out.mono HB.out.size)).trans (HB2.out.mono (Nat.le_trans HB.out.size HB1.out.size))).alloc (by have := HB.out.size; have := HB1.out.size; have := HB2.out.size; omega) _) hgrow3 (by have := HB.out.size; have := HB1.out.size; have := HB2.out.size; simp; omega) (fun k hk => (hown2.lt k hk).1)
          have hh := HP.out
          rw [HS.out] at hh
          refine ⟨R, xs ++ [P.data.toList], rfl, ?_, ?_, ?_, hb3⟩
          · have := HL.out; have := HN.out
            show _ ≤ _
            rw [List.length_append]
            show xs.length + 1 + _ ≤ _
            omega
          · show _ = _
            rw [hh]
            cases Mk.parts R.data.toList <;> simp
          · rw [List.length_append, List.map_append]
            exact hown3
        case measure => have := HN.out; show R.size < t.size; omega
end Go.Proofs.YtghaknienffmjaaDoor
