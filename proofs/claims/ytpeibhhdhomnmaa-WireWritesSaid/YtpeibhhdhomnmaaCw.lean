/- The statement WireWrites of layer 9, proved: numbers, bytes and truths, laid one behind the other, are the document's bytes; and are read back; for every input it returns true, and changes nothing that was there. No condition. -/
import Derived.Test.YtpeibhhdhomnmaaCa
import Derived.Test.YtpeibhhdhomnmaaOa
import Derived.Test.YtpeibhhdhomnmaaOb
import Derived.WalkKit
import Derived.ProofKit
import Derived.OpenShut
import Derived.ShutString
import Derived.ChangeOld
import Derived.Below
import Derived.Deep.Slices
namespace Go.Proofs.Ytpeibhhdhomnmaa
open Go.ChangeShapes Go.WideShapes Go.ChangeAt Go.RowKit
/-- The law, for every input. -/
theorem writes_walk (w : World) (an as_ la : Option Addr) (cn cs cl : Nat) (NS : List Nat) (SS : List UInt8) (Ps : List (List UInt8)) (t : Bool) (hN : N64 w an NS) (hn : ∀ x ∈ NS, x < 18446744073709551616) (hS : Byt w as_ SS) (hR : Rows2 w la Ps) :
    Calls Try.prog 3 #[.slice an NS.length cn, .slice as_ SS.length cs, .slice la Ps.length cl, .bool t] w fun e w' => e = .returned (.bool true) ∧ Below w.heap.size w w' := by
  by_cases h : NS.length ≤ SS.length
  · exact writes_walk_a w an as_ la cn cs cl NS SS Ps t hN hn hS hR h
  · exact writes_walk_b w an as_ la cn cs cl NS SS Ps t hN hn hS hR (by omega)
theorem row_n64 {w : World} {a : Option Addr} {len cap : Nat} {zs : List Int} (h : IsRow .u64 w a len cap zs) : ∃ P : List Nat, P.length = len ∧ N64 w a P ∧ ∀ x ∈ P, x < 18446744073709551616 := by
  obtain ⟨P, hl, -, hw, hm⟩ := row_cells h
  have e1 : IntKind.u64.min = 0 := rfl
  have e2 : IntKind.u64.max = 18446744073709551615 := rfl
  have hb : ∀ x ∈ P, 0 ≤ x ∧ x ≤ 18446744073709551615 := fun x hx => by
    have := hw x hx
    simp only [Lit.wf, Bool.and_eq_true, decide_eq_true_eq] at this
    omega
  refine ⟨P.map Int.toNat, by rw [List.length_map]; exact hl, ⟨fun j hj => ?_⟩, fun x hx => ?_⟩
  · rw [List.length_map] at hj
    rcases hm with rfl | ⟨b, off, h1, h2, h3⟩
    · exact absurd hj (Nat.not_lt_zero _)
    · refine ⟨b, off, h1, h2, ?_⟩
      rw [h3 j hj, List.getD_eq_getElem?_getD, List.getD_eq_getElem?_getD, List.getElem?_map, List.getElem?_eq_getElem hj]
      simp only [Option.getD_some, Option.map_some]
      rw [Int.toNat_of_nonneg (hb _ (List.getElem_mem hj)).1]
  · obtain ⟨y, hy, rfl⟩ := List.mem_map.1 hx
    have := hb y hy
    omega
theorem cells23 : Try.prog.cellsOf 23 = 1 := by kernel_rfl
theorem cells5 : Try.prog.cellsOf 5 = 1 := by kernel_rfl
theorem addr_zero (a : Addr) : a.add 0 = a := if_pos rfl
theorem addr_spot {a : Addr} {i : Nat} (h0 : i = 0 → a.spot = none) : a.add i = ⟨a.block, a.off + i, none⟩ := by
  unfold Addr.add
  split
  · rename_i h
    subst h
    obtain ⟨b, off, s⟩ := a
    obtain rfl : s = none := h0 rfl
    rfl
  · rfl
/-- A slice of slices of bytes, opened. -/
theorem rows2_open {H : Type} {enc : TypeId × Value → H} {W : World} {spare : Nat → Bool} {held : Bool} {v : Value} {d : DataW H} {p : List MemPlace} (h : DataW.Trod enc Try.prog W 0 spare held 24 v d p) (hv : ∃ la len cap, v = .slice la len cap) :
    ∃ la cap Ps, v = .slice la (Ps : List (List UInt8)).length cap ∧ Rows2 W la Ps := by
  obtain ⟨la, len, cap, rfl⟩ := hv
  obtain ⟨fuel, hf⟩ := h
  rcases Go.Deep.open_slice Try.underlying24 hf with ⟨hcs, _⟩ | ⟨a, len', cap', m, n, D, Pl, hcs, hb, hl, hm, hmm, hx, hi⟩
  · simp [Value.cells] at hcs
    obtain ⟨rfl, rfl, rfl⟩ := hcs
    exact ⟨none, 0, [], rfl, ⟨fun j hj => absurd hj (Nat.not_lt_zero _)⟩⟩
  · simp [Value.cells] at hcs
    obtain ⟨rfl, rfl, rfl⟩ := hcs
    have hlm : len ≤ m := by rw [hmm]; split <;> omega
    have hone : ∀ i, i < len → ∃ P : List UInt8, ∃ ao c, W.cell? (a.add i) = some (.slice ao P.length c) ∧ Byt W ao P := by
      intro i hil
      obtain ⟨cs', hc, ht⟩ := hi i (by omega)
      rw [cells23, Nat.mul_one] at hc
      obtain ⟨_, hcl, hat⟩ := World.cells?_some hc
      have h0 := hat 0 (by omega)
      rw [addr_zero] at h0
      rcases open_ints Try.underlying23 Try.underlying5 cells5 ht with ⟨rfl, _⟩ | ⟨x, l, c, zs, rfl, _, hl2, hm2, hz, _, hcell, hwz⟩
      · exact ⟨[], none, 0, h0, ⟨.inl rfl⟩⟩
      · have hz2 : l ≤ zs.length := by rw [hz]; split <;> omega
        have hbb : Byt W (some x) ((zs.take l).map fun x => UInt8.ofNat x.toNat) := by
          refine byt_ints (fun y hy => hwz y (List.mem_of_mem_take hy)) ?_
          by_cases h0 : l = 0
          · exact .inl (by rw [h0]; rfl)
          · right
            have h1 := hcell 0 (by omega)
            have hs := World.cell?_spot h1
            have hbl := World.block_lt_of_cell? _ _ h1
            rw [Addr.add, if_pos rfl] at hs hbl
            refine ⟨x.block, x.off, ?_, hbl, fun j hj => ?_⟩
            · cases x; simp_all
            · have hj' : j < l := by simp at hj; omega
              have hc := hcell j (by omega)
              obtain ⟨b, off, s⟩ := x
              obtain rfl : s = none := hs
              rw [addr_mid] at hc
              rw [hc]
              simp [hj']
        refine ⟨_, some x, c, ?_, hbb⟩
        rw [h0, List.length_map, List.length_take, Nat.min_eq_left hz2]
        rfl
    obtain ⟨F, hF⟩ : ∃ F : Nat → List UInt8, ∀ i, i < len → ∃ ao c, W.cell? (a.add i) = some (.slice ao (F i).length c) ∧ Byt W ao (F i) :=
      ⟨fun i => if hi : i < len then (hone i hi).choose else [], fun i hi => by simp only [dif_pos hi]; exact (hone i hi).choose_spec⟩
    refine ⟨some a, cap, (List.range len).map F, by simp, ⟨fun j hj => ?_⟩⟩
    rw [List.length_map, List.length_range] at hj
    obtain ⟨ao, c, h1, h2⟩ := hF j hj
    have e : ((List.range len).map F).getD j [] = F j := by
      rw [List.getD_eq_getElem?_getD, List.getElem?_map, List.getElem?_range hj]
      rfl
    rw [e]
    have hbl := World.block_lt_of_cell? _ _ h1
    have hz := hone 0 (by omega)
    obtain ⟨P0, ao0, c0, h01, -⟩ := hz
    rw [addr_zero] at h01
    have hs := World.cell?_spot h01
    rw [addr_spot (fun _ => hs)] at h1 hbl
    obtain ⟨b, off, s⟩ := a
    obtain rfl : s = none := hs
    exact ⟨b, off, rfl, hbl, ao, c, h1, h2⟩
end Go.Proofs.Ytpeibhhdhomnmaa
namespace Go.Proofs.Ytpeibhhdhomnmaa.wireWrites
open Go.ChangeShapes Go.WideShapes Go.ChangeAt Go.RowKit
open Go.ChangeMaps (open_string shut_string)
set_option linter.unusedVariables false

set_option maxRecDepth 100000 in
theorem lifted (os : Os) (started : os.Started) (H : Type) (enc : TypeId × Value → H) :
    ReturnsInHanded {} Try.checked os 3 .any (Rows.wireWritesSpec.pre6 enc Try.prog Try.f3 Rows.wireWritesRow.domain false) (Rows.wireWritesSpec.post enc Try.prog Try.f3 false true false false) := by
  refine returnsInHanded_of_change (C := Try.checked) own started (by kernel_rfl) Try.func3
    (ChangeSpec.witness6 (enc := enc) (C := Try.checked) false ⟨#[], #[.slice none 0 0, .slice none 0 0, .slice none 0 0, .bool false], []⟩ 8 (by kernel_rfl) (by kernel_rfl) (by kernel_rfl) (by kernel_rfl)) ?_
  intro W base args ds gs before hval0 hW hcnd _
  have hval : ∀ (j : Nat) t v, Try.f3.params[j]? = some t → args[j]? = some v → Value.okWide Try.prog W .any base t v := hval0
  have hW' := hW
  obtain ⟨p, q, hA0, hV, rfl, hfz, hnd⟩ := hW
  have hA : DataW.TrodAll enc Try.prog W 0 (fun _ => true) true Try.f3.params.toList args.toList ds p := hA0
  rw [Try.params3] at hA hval
  obtain ⟨v0, vs0, d0, ds0, p0, q0, hargs, rfl, rfl, h0, r0⟩ := trodAll_cons hA
  obtain ⟨v1, vs1, d1, ds1, p1, q1, rfl, rfl, rfl, h1, r1⟩ := trodAll_cons r0
  obtain ⟨v2, vs2, d2, ds2, p2, q2, rfl, rfl, rfl, h2, r2⟩ := trodAll_cons r1
  obtain ⟨v3, vs3, d3, ds3, p3, q3, rfl, rfl, rfl, h3, r3⟩ := trodAll_cons r2
  obtain ⟨rfl, rfl, rfl⟩ := trodAll_nil r3
  obtain rfl : args = #[v0, v1, v2, v3] := by cases args; simp_all
  obtain ⟨rfl, rfl⟩ := trodVars_none hV
  obtain ⟨a0, len0, cap0, rfl⟩ := okWide_slice Try.underlying22 (hval 0 22 v0 rfl rfl)
  have k0 := h0
  have lt0 : ∀ x ∈ p0, x.block < W.heap.size := by obtain ⟨m, hm⟩ := k0; exact DataW.trod_lt m _ _ _ hm
  obtain ⟨z0, w0⟩ : ∃ zs, IsRow .u64 W a0 len0 cap0 zs := by
    obtain ⟨fuel, hf⟩ := h0
    rcases open_ints Try.underlying22 Try.underlying30 (by kernel_rfl) hf with ⟨hcs, _⟩ | ⟨x, l, c, zs, hcs, _, hl, hm, hz, _, hcell, hwz⟩
    · simp [Value.cells] at hcs
      obtain ⟨rfl, rfl, rfl⟩ := hcs
      exact ⟨[], .inl ⟨rfl, rfl, rfl, rfl⟩⟩
    · simp [Value.cells] at hcs
      obtain ⟨rfl, rfl, rfl⟩ := hcs
      exact ⟨zs, .inr ⟨_, rfl, hl, hm, by simpa using hz, hcell, hwz⟩⟩
  obtain ⟨a1, len1, cap1, rfl⟩ := okWide_slice Try.underlying23 (hval 1 23 v1 rfl rfl)
  have k1 := h1
  have lt1 : ∀ x ∈ p1, x.block < W.heap.size := by obtain ⟨m, hm⟩ := k1; exact DataW.trod_lt m _ _ _ hm
  obtain ⟨z1, w1⟩ : ∃ zs, IsRow .u8 W a1 len1 cap1 zs := by
    obtain ⟨fuel, hf⟩ := h1
    rcases open_ints Try.underlying23 Try.underlying5 (by kernel_rfl) hf with ⟨hcs, _⟩ | ⟨x, l, c, zs, hcs, _, hl, hm, hz, _, hcell, hwz⟩
    · simp [Value.cells] at hcs
      obtain ⟨rfl, rfl, rfl⟩ := hcs
      exact ⟨[], .inl ⟨rfl, rfl, rfl, rfl⟩⟩
    · simp [Value.cells] at hcs
      obtain ⟨rfl, rfl, rfl⟩ := hcs
      exact ⟨zs, .inr ⟨_, rfl, hl, hm, by simpa using hz, hcell, hwz⟩⟩
  have k2 := h2
  have lt2 : ∀ x ∈ p2, x.block < W.heap.size := by obtain ⟨m, hm⟩ := k2; exact DataW.trod_lt m _ _ _ hm
  obtain ⟨la, cl, Ps, rfl, hR⟩ := rows2_open h2 (okWide_slice Try.underlying24 (hval 2 24 v2 rfl rfl))
  obtain ⟨a3, rfl, rfl, rfl⟩ := open_bool Try.underlying4 (hval 3 4 v3 rfl rfl) h3
  clear hA0 hval0
  obtain ⟨NS, rfl, hN, hn⟩ := row_n64 w0
  obtain ⟨SS, rfl, hS⟩ := row_byt w1
  refine (writes_walk W a0 a1 la cap0 cap1 cl NS SS Ps a3 hN hn hS hR).mono fun e W' ⟨he, bel⟩ => ?_
  subst he
  exact ⟨_, rfl, _, _, _, [], _, [], hW', trodAll_mk1 (shut_bool Try.underlying4 _), (trodAll_cons_mk (Below.trod laidOut (by kernel_rfl) (of_decide_eq_true (by kernel_rfl)) k0 bel lt0) (trodAll_cons_mk (Below.trod laidOut (by kernel_rfl) (of_decide_eq_true (by kernel_rfl)) k1 bel lt1) (trodAll_cons_mk (Below.trod laidOut (by kernel_rfl) (of_decide_eq_true (by kernel_rfl)) k2 bel lt2) (trodAll_cons_mk (shut_bool Try.underlying4 _) trodAll_mk0)))), rfl, bel.frame _, fun h => by cases h⟩

theorem over : Rows.wireWritesRow.holds Try.pinned (OpenSpec.ofChange Rows.wireWritesSpec) :=
  OpenClaim.holds_of_wide 3 Try.f3 rfl rfl rfl rfl rfl rfl rfl ⟨rfl, rfl, rfl, rfl, rfl⟩ rfl rfl rfl rfl rfl (by kernel_rfl) Try.func3 (by kernel_rfl)
    (of_decide_eq_true (by kernel_rfl)) (by unfold Func.isWrapper; first | (rw [if_pos (by decide +kernel)]; kernel_rfl) | (rw [if_neg (by decide +kernel)]; exact ⟨rfl, rfl⟩))
    (fun os started H enc _ => lifted os started H enc)

/-- ████ THE STATEMENT ████ -/
theorem proved : Rows.WireWritesSaid := over
end Go.Proofs.Ytpeibhhdhomnmaa.wireWrites
namespace Go.Proofs.Ytpeibhhdhomnmaa
theorem wireWrites_proved : Rows.WireWritesSaid := wireWrites.proved
end Go.Proofs.Ytpeibhhdhomnmaa
