/- A slice of slices of bytes that came in. -/
import Derived.Test.YtghaknienffmjaaDoorLe
import Derived.Test.YtghaknienffmjaaDoorI
import Derived.Deep.Slices
import Derived.Stop.LaidErr
namespace Go.Proofs.YtghaknienffmjaaDoor
open Go.ChangeShapes Go.WideShapes Go.ChangeAt Go.RowKit
set_option linter.unusedVariables false
theorem addr_mid (b off j : Nat) : (⟨b, off, none⟩ : Addr).add j = ⟨b, off + j, none⟩ := by
  unfold Addr.add
  split
  · rename_i h; subst h; rfl
  · rfl
theorem addr_zero (a : Addr) : a.add 0 = a := if_pos rfl
theorem addr_spot {a : Addr} {i : Nat} (h0 : i = 0 → a.spot = none) : a.add i = ⟨a.block, a.off + i, none⟩ := by
  unfold Addr.add
  split
  · rename_i h
    subst h
    obtain ⟨b, off, s⟩ := a
    obtain rfl : s = none := h0 rfl
    rfl
  · rfl
theorem cells5 : Tryd.prog.cellsOf 5 = 1 := by kernel_rfl
theorem cells37 : Tryd.prog.cellsOf 37 = 1 := by kernel_rfl
theorem byt_of {w : World} {x : Addr} {l c : Nat} {zs : List Int} (hl : l ≤ c) (hz : l ≤ zs.length) (hcell : ∀ i, i < zs.length → w.cell? (x.add i) = some (.int .u8 (zs.getD i 0))) : Byt w (some x) (zs.take l) := by
  refine ⟨?_⟩
  by_cases h0 : l = 0
  · left; rw [h0]; rfl
  · right
    have h1 := hcell 0 (by omega)
    have hs := World.cell?_spot h1
    have hb := World.block_lt_of_cell? _ _ h1
    rw [Addr.add, if_pos rfl] at hs hb
    refine ⟨x.block, x.off, ?_, hb, fun j hj => ?_⟩
    · cases x; simp_all
    · have hj' : j < l := by simp at hj; omega
      have hc := hcell j (by omega)
      obtain ⟨b, off, s⟩ := x
      obtain rfl : s = none := hs
      rw [addr_mid] at hc
      rw [hc]
      simp [hj']
/-- A slice of slices of bytes, opened. -/
theorem rows2_open {H : Type} {enc : TypeId × Value → H} {W : World} {spare : Nat → Bool} {held : Bool} {v : Value} {d : DataW H} {p : List MemPlace} (h : DataW.Trod enc Tryd.prog W 0 spare held 45 v d p) (hv : ∃ la len cap, v = .slice la len cap) :
    ∃ la cap Ps, v = .slice la (Ps : List (List Int)).length cap ∧ Rows2 W la Ps := by
  obtain ⟨la, len, cap, rfl⟩ := hv
  obtain ⟨fuel, hf⟩ := h
  rcases Go.Deep.open_slice Tryd.underlying45 hf with ⟨hcs, _⟩ | ⟨a, len', cap', m, n, D, Pl, hcs, hb, hl, hm, hmm, hx, hi⟩
  · simp [Value.cells] at hcs
    obtain ⟨rfl, rfl, rfl⟩ := hcs
    exact ⟨none, 0, [], rfl, ⟨fun j hj => absurd hj (Nat.not_lt_zero _)⟩⟩
  · simp [Value.cells] at hcs
    obtain ⟨rfl, rfl, rfl⟩ := hcs
    have hlm : len ≤ m := by rw [hmm]; split <;> omega
    have hone : ∀ i, i < len → ∃ P : List Int, ∃ ao c, W.cell? (a.add i) = some (.slice ao P.length c) ∧ Byt W ao P := by
      intro i hil
      obtain ⟨cs', hc, ht⟩ := hi i (by omega)
      rw [cells37, Nat.mul_one] at hc
      obtain ⟨_, hcl, hat⟩ := World.cells?_some hc
      have h0 := hat 0 (by omega)
      rw [addr_zero] at h0
      rcases open_ints Tryd.underlying37 Tryd.underlying5 cells5 ht with ⟨rfl, _⟩ | ⟨x, l, c, zs, rfl, _, hl2, hm2, hz, _, hcell, hwz⟩
      · exact ⟨[], none, 0, h0, ⟨.inl rfl⟩⟩
      · have hz2 : l ≤ zs.length := by rw [hz]; split <;> omega
        refine ⟨zs.take l, some x, c, ?_, byt_of hl2 hz2 hcell⟩
        rw [h0, List.length_take, Nat.min_eq_left hz2]
        rfl
    obtain ⟨F, hF⟩ : ∃ F : Nat → List Int, ∀ i, i < len → ∃ ao c, W.cell? (a.add i) = some (.slice ao (F i).length c) ∧ Byt W ao (F i) :=
      ⟨fun i => if hi : i < len then (hone i hi).choose else [], fun i hi => by simp only [dif_pos hi]; exact (hone i hi).choose_spec⟩
    refine ⟨some a, cap, (List.range len).map F, by simp, ⟨fun j hj => ?_⟩⟩
    rw [List.length_map, List.length_range] at hj
    obtain ⟨ao, c, h1, h2⟩ := hF j hj
    have e : ((List.range len).map F).getD j [] = F j := by
      rw [List.getD_eq_getElem?_getD, List.getElem?_map, List.getElem?_range hj]
      rfl
    rw [e]
    have hbl := World.block_lt_of_cell? _ _ h1
    have hz := hone 0 (by omega)
    obtain ⟨P0, ao0, c0, h01, -⟩ := hz
    rw [addr_zero] at h01
    have hs := World.cell?_spot h01
    rw [addr_spot (fun _ => hs)] at h1 hbl
    obtain ⟨b, off, s⟩ := a
    obtain rfl : s = none := hs
    exact ⟨b, off, rfl, hbl, ao, c, h1, h2⟩
theorem gTab : Tryd.prog.globalNamed "internal/strconv.uint64pow10" = some 0 := by kernel_rfl
theorem gTabType : (Tryd.prog.globals[0]?).map (·.type) = some 89 := by kernel_rfl
theorem cells89 : Tryd.prog.cellsOf 89 = 20 := by kernel_rfl
theorem cells60 : Tryd.prog.cellsOf 60 = 1 := by kernel_rfl
theorem gES : Tryd.prog.globalNamed "strconv.ErrSyntax" = some 2 := by kernel_rfl
theorem gESType : (Tryd.prog.globals[2]?).map (·.type) = some 68 := by kernel_rfl
theorem gER : Tryd.prog.globalNamed "strconv.ErrRange" = some 3 := by kernel_rfl
theorem gERType : (Tryd.prog.globals[3]?).map (·.type) = some 68 := by kernel_rfl
theorem cells108 : Tryd.prog.cellsOf 108 = 1 := by kernel_rfl
theorem cells9 : Tryd.prog.cellsOf 9 = 1 := by kernel_rfl
theorem star : "*" ++ "errors.errorString" = "*errors.errorString" := by decide
theorem row106 (u : TypeId) (h : Tryd.prog.typeName? 3 u = some "*errors.errorString") : u = 106 :=
  typeName_ptr_named (nm := "errors.errorString") (by rw [star]; kernel_rfl) (by kernel_rfl) (by decide) u (by rw [star]; exact h)
theorem pow10_data : (Rows.laid_internal_strconv_uint64pow10 : DataW Unit) = Lib.tabData .u64 Lib.pow10Tab := by rfl
/-- What the library's variables hold, where start-up laid them. -/
theorem gv_of {W : World} (hS : W.ShapedOpen Tryd.prog) (hL : laidMetH Tryd.prog [("math/bits.deBruijn32tab", Rows.laid_math_bits_deBruijn32tab), ("math/bits.deBruijn64tab", Rows.laid_math_bits_deBruijn64tab), ("internal/strconv.uint64pow10", Rows.laid_internal_strconv_uint64pow10), ("strconv.ErrRange", Rows.laid_strconv_ErrRange), ("strconv.ErrSyntax", Rows.laid_strconv_ErrSyntax)] W) : Gv W := by
  have h1 : laidMet Tryd.prog _ W := hL
  have h2 := h1.tail.tail
  have h3 := h2
  rw [pow10_data] at h3
  have t1 : Lib.TabIs Tryd.prog W "internal/strconv.uint64pow10" .u64 Lib.pow10Tab := Lib.tabIs_of_head gTab gTabType Tryd.underlying89 Tryd.underlying60 cells60 cells89 h3
  obtain ⟨a0, s0, hv0, -, -, -⟩ := laid_sentinel h2.tail gER gERType Tryd.underlying68 row106 Tryd.underlying106 Tryd.underlying108 rfl rfl Tryd.underlying9 cells108 cells9
  obtain ⟨a1, s1, hv1, -, -, -⟩ := laid_sentinel h2.tail.tail gES gESType Tryd.underlying68 row106 Tryd.underlying106 Tryd.underlying108 rfl rfl Tryd.underlying9 cells108 cells9
  have c2 : W.cell? ⟨2, 0, none⟩ = some (.iface 106 (.pointer (some a1))) := by simpa using World.var?_cell gES hv1 0
  have c3 : W.cell? ⟨3, 0, none⟩ = some (.iface 106 (.pointer (some a0))) := by simpa using World.var?_cell gER hv0 0
  refine ⟨?_, maxLen_some hS, ⟨_, _, c2⟩, ⟨_, _, c3⟩, t1⟩
  have := World.block_lt_of_cell? _ _ c3
  simp only at this
  omega
end Go.Proofs.YtghaknienffmjaaDoor
