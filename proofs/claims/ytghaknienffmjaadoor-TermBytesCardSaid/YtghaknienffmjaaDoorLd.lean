/- A part behind its length: what Mark returns, for every part. -/
import Derived.Test.YtghaknienffmjaaDoorLc
import Derived.Deep.RegionWith
import Derived.Laws.BytesArg
import Derived.Laws.Concat
import Derived.Lib.ItoaLen
namespace Go.Proofs.YtghaknienffmjaaDoor
open Go.RowKit
/-- A slice of bytes that lies there. -/
structure Byt (w : World) (ao : Option Addr) (P : List Int) : Prop where
  at_ : P = [] ∨ ∃ b off, ao = some ⟨b, off, none⟩ ∧ b < w.heap.size ∧ ∀ j, j < P.length → w.cell? ⟨b, off + j, none⟩ = some (.int .u8 (P.getD j 0))
theorem Byt.on {w w' : World} {ao : Option Addr} {P : List Int} (h : Byt w ao P) (hb : Below w.heap.size w w') : Byt w' ao P := by
  obtain ⟨h⟩ := h
  refine ⟨h.imp id ?_⟩
  rintro ⟨b, off, h1, h2, h3⟩
  exact ⟨b, off, h1, Nat.lt_of_lt_of_le h2 hb.size, fun j hj => (hb.cell (p := ⟨b, off + j, none⟩) h2).trans (h3 j hj)⟩
theorem conv_bytes {w : World} {ao : Option Addr} {P : List Int} (h : Byt w ao P) (cap : Nat) : (convert 37 9 (.slice ao P.length cap)).run Tryd.prog w = .ok (.string (strOfNums P)) w := by
  rcases h.at_ with rfl | ⟨b, off, rfl, -, h3⟩
  · cases ao with
    | none => exact run_convert_bytes_nil w 37 5 Tryd.underlying37 Tryd.underlying5 _ cap 9 Tryd.underlying9
    | some a =>
      rw [run_convert_bytes_string w 37 9 5 (some a) _ cap Tryd.underlying37 Tryd.underlying5 Tryd.underlying9, run_bytesToString w a _ cap [] (by simp [loadCells, loadCellsFrom])]
      rfl
  · exact run_convert_bytes_arg w 37 5 Tryd.underlying37 Tryd.underlying5 b off P.length cap P rfl h3 9 Tryd.underlying9
set_option maxHeartbeats 2000000 in
theorem mark_gen (w : World) (ao : Option Addr) (n cap : Nat) (t x u y : ByteArray) (ha : ∀ w, (Op.stringOp .add t ⟨#[58]⟩).run Tryd.prog w = .ok (.string u) w) (hb : ∀ w, (Op.stringOp .add u x).run Tryd.prog w = .ok (.string y) w) (hi : Calls Tryd.prog 24 #[.int .i64 n] w.drew fun e w' => e = .returned (.string t) ∧ Below w.heap.size w w')
    (hv0 : (convert 37 9 (.slice ao n cap)).run Tryd.prog w.drew = .ok (.string x) w.drew) (hv : ∀ w', Below w.heap.size w w' → (convert 37 9 (.slice ao n cap)).run Tryd.prog w' = .ok (.string x) w') :
    Calls Tryd.prog 19 #[.slice ao n cap] w fun e w' => e = .returned (.string y) ∧ Below w.heap.size w w' := by
  have HV := Lib.hid hv
  clear hv
  go_enter Tryd.func19, Tryd.ntmps19
  go_wp2
  go_region_with (go_at_call 24; refine hi.mono ?_; rintro e w1 ⟨rfl, hb1⟩; have hv1 := HV.out w1 hb1)
  all_goals (go_wp2; go_ret; exact ⟨rfl, hb1⟩)
/-- Mark, for every part. -/
theorem mark_any (w : World) (hG : Gv w) (ao : Option Addr) (cap : Nat) (P : List Int) (hP : P.length ≤ 281474976710656) (h : Byt w ao P) :
    Calls Tryd.prog 19 #[.slice ao P.length cap] w fun e w' => e = .returned (.string ⟨(Mk.mk (strOfNums P).data.toList).toArray⟩) ∧ Below w.heap.size w w' := by
  have hl : (strOfNums P).data.toList.length = P.length := by rw [← size_list, strOfNums_size]
  have hd : (Lib.decDigits P.length).length ≤ 20 := by rw [Lib.decDigits_length]; exact Lib.nDigits_le20 _ (by omega)
  refine mark_gen w ao P.length cap ⟨(Lib.decDigits P.length).toArray⟩ (strOfNums P) ⟨(Lib.decDigits P.length ++ [58]).toArray⟩ ⟨(Mk.mk (strOfNums P).data.toList).toArray⟩ (fun w => ?_) (fun w => ?_) ?_ (conv_bytes (h.on (Below.refl _ _).drew) cap) (fun w' hb => conv_bytes (h.on hb) cap)
  · rw [run_string_add_sum w _ _ (by rw [ByteArray.size_mk', ByteArray.size_mk']; simp; omega)]
    rw [show (⟨#[58]⟩ : ByteArray) = ⟨[(58 : UInt8)].toArray⟩ from rfl, ByteArray.mk_append_mk]
  · rw [run_string_add_sum w _ _ (by rw [ByteArray.size_mk', strOfNums_size]; simp; omega)]
    rw [show (strOfNums P) = ⟨(strOfNums P).data.toList.toArray⟩ from rfl, ByteArray.mk_append_mk]
    unfold Mk.mk
    rw [hl]
    simp
  · exact (itoa_nat P.length (by omega) w.drew (hG.on (Below.refl _ _).drew)).mono fun e w' ⟨h1, h2⟩ => ⟨h1, (Below.refl w.heap.size w).drew.trans h2⟩
end Go.Proofs.YtghaknienffmjaaDoor
