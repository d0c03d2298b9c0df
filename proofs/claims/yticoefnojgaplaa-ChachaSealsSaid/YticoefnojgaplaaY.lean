/- The document's example of a tag. -/
import Derived.Test.YticoefnojgaplaaGa
import Derived.Lib.SlBytesConst
import Derived.Lib.ConvBytes
namespace Go.Proofs.Yticoefnojgaplaa
open Go.RowKit

def docK : List Int := [133, 214, 190, 120, 87, 85, 109, 51, 127, 68, 82, 254, 66, 213, 6, 168, 1, 3, 128, 138, 251, 13, 178, 253, 74, 191, 246, 175, 65, 73, 245, 27]
def docP : List Int := [67, 114, 121, 112, 116, 111, 103, 114, 97, 112, 104, 105, 99, 32, 70, 111, 114, 117, 109, 32, 82, 101, 115, 101, 97, 114, 99, 104, 32, 71, 114, 111, 117, 112]
theorem tag_doc : Po.tag (fit docK 32) docP = [168, 6, 29, 193, 48, 81, 54, 198, 194, 43, 139, 175, 12, 1, 39, 169] := by decide +kernel
theorem conv_at {w : World} {go off n c : Nat} {l : List Int} (h : At w .u8 go off l) (hl : l.length = n) : (convert 22 9 (.slice (some ⟨go, off, none⟩) n c)).run Try.prog w = .ok (.string (strOfNums l)) w :=
  run_convert_bytes_arg w 22 5 Try.underlying22 Try.underlying5 go off n c l hl (fun i hi => h i (by omega)) 9 Try.underlying9
theorem conv_slc {w : World} {v : Value} {l : List Int} (h : Slc w v l) : (convert 22 9 v).run Try.prog w = .ok (.string (strOfNums l)) w := by
  obtain ⟨a, cap, rfl, hc, h8, hm⟩ := h
  rcases hm with rfl | ⟨b, off, rfl, h2, h3⟩
  · cases a with
    | none => exact run_convert_bytes_nil w 22 5 Try.underlying22 Try.underlying5 0 cap 9 Try.underlying9
    | some ad =>
      have hl : (loadCells ad 0).run Try.prog w = .ok ([] : List Value).toArray w := run_loadCells_list (P := Try.prog) w ad [] (fun j v hj => by simp at hj)
      rw [List.length_nil, run_convert_bytes_string w 22 9 5 _ 0 cap Try.underlying22 Try.underlying5 Try.underlying9, run_bytesToString w _ 0 cap [] hl]
      rfl
  · exact conv_at h3 rfl
theorem kconst (w : World) (C : Array Value) (n c g : Nat) (hg : g = w.heap.size) :
    (convert 22 22 (.slice (some ⟨g, 0, none⟩) n c)).run Try.prog (w.alloc (.cells C 5)) = .ok (.slice (some ⟨g, 0, none⟩) n c) (w.alloc (.cells C 5 (C.size, C.size + 1))) := by
  subst hg; exact Lib.run_convert_bytes_const w 22 5 C n c Try.underlying22 Try.underlying5
theorem at_row {w : World} {g : Nat} {t : TypeId} {fr : Nat × Nat} {l : List Int} (h : w.heap[g]? = some (.cells (l.map (Value.int .u8)).toArray t fr)) : At w .u8 g 0 l := by
  intro j hj
  rw [Nat.zero_add, cell_of_row w g j _ t fr h]
  simp [hj]
def docS : ByteArray := ⟨#[133, 214, 190, 120, 87, 85, 109, 51, 127, 68, 82, 254, 66, 213, 6, 168, 1, 3, 128, 138, 251, 13, 178, 253, 74, 191, 246, 175, 65, 73, 245, 27]⟩
theorem docS_get : ∀ j, j < 32 → ((docS.data.toList.getD j 0).toNat : Int) = docK.getD j 0 := by decide
theorem conv_str (w : World) : ∃ c w1, (convert 9 22 (.string ⟨#[133, 214, 190, 120, 87, 85, 109, 51, 127, 68, 82, 254, 66, 213, 6, 168, 1, 3, 128, 138, 251, 13, 178, 253, 74, 191, 246, 175, 65, 73, 245, 27]⟩)).run Try.prog w = .ok (.slice (some ⟨w.heap.size, 0, none⟩) 32 c) w1 ∧ Slc w1 (.slice (some ⟨w.heap.size, 0, none⟩) 32 c) docK ∧ Below w.heap.size w w1 := by
  have h := Lib.run_convert_string_bytes w 9 22 5 docS Try.underlying9 Try.underlying22 Try.underlying5
  refine ⟨_, _, h, ⟨_, _, rfl, ?_, ?_, Or.inr ⟨_, 0, rfl, ?_, ?_⟩⟩, ?_⟩
  · exact grownCap_ge w 32 0 5
  · unfold docK W8; decide
  · rw [Lib.bytesWorld_size]; exact Nat.lt_succ_self _
  · intro j hj
    rw [Nat.zero_add, Lib.bytesWorld_cell w 5 docS j hj, docS_get j hj]
  · exact ⟨rfl, rfl, rfl, by rw [Lib.bytesWorld_size]; exact Nat.le_succ _, fun i hi => Lib.bytesWorld_at_old w 5 docS i hi⟩
def docR : Array Value := #[.int .u8 67, .int .u8 114, .int .u8 121, .int .u8 112, .int .u8 116, .int .u8 111, .int .u8 103, .int .u8 114, .int .u8 97, .int .u8 112, .int .u8 104, .int .u8 105, .int .u8 99, .int .u8 32, .int .u8 70, .int .u8 111, .int .u8 114, .int .u8 117, .int .u8 109, .int .u8 32, .int .u8 82, .int .u8 101, .int .u8 115, .int .u8 101, .int .u8 97, .int .u8 114, .int .u8 99, .int .u8 104, .int .u8 32, .int .u8 71, .int .u8 114, .int .u8 111, .int .u8 117, .int .u8 112]
theorem docR_eq : docR = (docP.map (Value.int .u8)).toArray := rfl
theorem str_doc : (⟨#[168, 6, 29, 193, 48, 81, 54, 198, 194, 43, 139, 175, 12, 1, 39, 169]⟩ : ByteArray) = strOfNums [168, 6, 29, 193, 48, 81, 54, 198, 194, 43, 139, 175, 12, 1, 39, 169] := by decide +kernel
/-- The example's call. -/
theorem awake_tag (w w1 : World) (c : Nat) (hK : Slc w1 (.slice (some ⟨w.heap.size, 0, none⟩) 32 c) docK) (hb : Below w.heap.size w w1) :
    Calls Try.prog 13 #[.slice (some ⟨w.heap.size, 0, none⟩) 32 c, .slice (some ⟨w1.heap.size, 0, none⟩) 34 34] (w1.alloc (.cells docR 5 (34, 35))) fun e w' => ∃ v, e = .returned v ∧ (convert 22 9 v).run Try.prog w' = .ok (.string ⟨#[168, 6, 29, 193, 48, 81, 54, 198, 194, 43, 139, 175, 12, 1, 39, 169]⟩) w' ∧ Below w.heap.size w w' := by
  have hba : Below w.heap.size w (w1.alloc (.cells docR 5 (34, 35))) := hb.alloc hb.size _
  have h1 : Slc (w1.alloc (.cells docR 5 (34, 35))) (.slice (some ⟨w.heap.size, 0, none⟩) docK.length c) docK := hK.below ((Below.refl _ _).alloc (Nat.le_refl _) _) (Nat.le_refl _)
  have h2 : Slc (w1.alloc (.cells docR 5 (34, 35))) (.slice (some ⟨w1.heap.size, 0, none⟩) docP.length 34) docP := by
    have hn := heap_alloc_new w1 (.cells docR 5 (34, 35))
    rw [docR_eq] at hn ⊢
    exact ⟨_, 34, rfl, Nat.le_refl _, by unfold docP W8; decide, Or.inr ⟨w1.heap.size, 0, rfl, lt_of_block hn, at_row hn⟩⟩
  refine (tag_any _ _ _ docK h1 _ _ docP h2).mono ?_
  rintro e w' ⟨v, rfl, hv, hb2⟩
  rw [tag_doc] at hv
  refine ⟨v, rfl, ?_, hba.trans (hb2.mono hba.size)⟩
  rw [str_doc]
  exact conv_slc hv.slc
set_option maxRecDepth 100000 in
theorem awake_any (w : World) : Calls Try.prog 8 #[] w fun e w' => e = .returned (.bool true) ∧ Below w.heap.size w w' := by
  obtain ⟨c, w1, kc, hK, hb⟩ := conv_str w
  have kc2 : (convert 22 22 (.slice (some ⟨w1.heap.size, 0, none⟩) 34 34)).run Try.prog (w1.alloc (.cells #[.int .u8 67, .int .u8 114, .int .u8 121, .int .u8 112, .int .u8 116, .int .u8 111, .int .u8 103, .int .u8 114, .int .u8 97, .int .u8 112, .int .u8 104, .int .u8 105, .int .u8 99, .int .u8 32, .int .u8 70, .int .u8 111, .int .u8 114, .int .u8 117, .int .u8 109, .int .u8 32, .int .u8 82, .int .u8 101, .int .u8 115, .int .u8 101, .int .u8 97, .int .u8 114, .int .u8 99, .int .u8 104, .int .u8 32, .int .u8 71, .int .u8 114, .int .u8 111, .int .u8 117, .int .u8 112] 5)) = .ok (.slice (some ⟨w1.heap.size, 0, none⟩) 34 34) (w1.alloc (.cells docR 5 (34, 35))) := kconst w1 docR 34 34 w1.heap.size rfl
  have HT := Lib.hid (awake_tag w w1 c hK hb)
  clear hK hb
  go_enter Try.func8, Try.ntmps8
  go_wp2_with (go_at_call 13; refine HT.out.mono ?_; rintro e w3 ⟨v, rfl, hcv, hb3⟩; have HB3 := Lib.hid hb3; clear hb3)
  go_ret
  exact ⟨rfl, HB3.out⟩
end Go.Proofs.Yticoefnojgaplaa
