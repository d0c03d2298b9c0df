/- Terms that came in. -/
import Derived.Test.YtghaknienffmjaaDoorLf
import Derived.Test.YtghaknienffmjaaDoorMn
namespace Go.Proofs.YtghaknienffmjaaDoor
open Go.ChangeShapes Go.WideShapes Go.ChangeAt Go.RowKit Go.Joins
set_option linter.unusedVariables false
theorem cells23 : Tryd.prog.cellsOf 23 = 1 := by kernel_rfl
theorem cells3o : Tryd.prog.cellsOf 3 = 1 := by kernel_rfl
theorem nums_of {w : World} {x : Addr} {l c : Nat} {zs : List Int} (hl : l ≤ c) (hz : l ≤ zs.length) (hcell : ∀ i, i < zs.length → w.cell? (x.add i) = some (.int .i64 (zs.getD i 0))) : Nums w (some x) (zs.take l) := by
  refine ⟨fun j hj => ?_⟩
  have hj' : j < l := by simp at hj; omega
  have h0 := hcell 0 (by omega)
  have hs := World.cell?_spot h0
  have hb := World.block_lt_of_cell? _ _ h0
  rw [addr_zero] at hs hb
  refine ⟨x.block, x.off, ?_, hb, ?_⟩
  · cases x; simp_all
  · have hc := hcell j (by omega)
    obtain ⟨b, off, s⟩ := x
    obtain rfl : s = none := hs
    rw [addr_mid] at hc
    rw [hc]
    simp [hj']
/-- Four cells that read as a term. -/
theorem cells_term {H : Type} {enc : TypeId × Value → H} {w : World} {base : Nat} {spare : Nat → Bool} {held : Bool} {fuel : Nat} {cs : List Value} {x : DataW H × List MemPlace} (hl : cs.length = 4)
    (h : DataW.trod enc Tryd.prog w base spare held fuel 25 cs = some x) :
    ∃ (k n : Int) (ao : Option Addr) (of : List Int) (cap : Nat) (s : ByteArray), cs = [.int .u8 k, .slice ao of.length cap, .string s, .int .i64 n] ∧ 0 ≤ k ∧ k ≤ 255 ∧ Tm.I64 n ∧ (∀ i ∈ of, Tm.I64 i) ∧ Nums w ao of := by
  match cs, hl with
  | [c0, c1, c2, c3], _ =>
    obtain ⟨y0, y1, y2, y3, n, hx, _, h0, h1, h2, h3⟩ := trod_struct4 Tryd.underlying25 h
    simp only [cells5, cells9, cells3o, cells23, List.drop_zero, List.drop_succ_cons, List.take_succ_cons, List.take_zero] at h0 h1 h2 h3
    obtain ⟨k, hk, -, wk⟩ := DataW.trod_int Tryd.underlying5 h0
    obtain ⟨s, hs, -, -⟩ := DataW.trod_string Tryd.underlying9 h2
    obtain ⟨m, hm, -, wm⟩ := DataW.trod_int Tryd.underlying3 h3
    obtain rfl : c0 = .int .u8 k := by simpa using hk
    obtain rfl : c2 = .string s := by simpa using hs
    obtain rfl : c3 = .int .i64 m := by simpa using hm
    simp only [Lit.wf, Bool.and_eq_true, decide_eq_true_eq] at wk wm
    have e1 : IntKind.u8.min = 0 := rfl
    have e2 : IntKind.u8.max = 255 := rfl
    have e3 : IntKind.i64.min = -9223372036854775808 := rfl
    have e4 : IntKind.i64.max = 9223372036854775807 := rfl
    rw [e1, e2] at wk
    rw [e3, e4] at wm
    rcases open_ints Tryd.underlying23 Tryd.underlying3 cells3o h1 with ⟨hcs, _⟩ | ⟨x, l, c, zs, hcs, _, hl2, hm2, hz, _, hcell, hwz⟩
    · obtain rfl : c1 = .slice none 0 0 := by simpa using hcs
      exact ⟨k, m, none, [], 0, s, rfl, wk.1, wk.2, wm, fun i hi => absurd hi (List.not_mem_nil), ⟨fun j hj => absurd hj (Nat.not_lt_zero _)⟩⟩
    · obtain rfl : c1 = .slice (some x) l c := by simpa using hcs
      have hz2 : l ≤ zs.length := by rw [hz]; split <;> omega
      refine ⟨k, m, some x, zs.take l, c, s, by rw [List.length_take, Nat.min_eq_left hz2], wk.1, wk.2, wm, fun i hi => ?_, nums_of hl2 hz2 hcell⟩
      have := hwz i (List.mem_of_mem_take hi)
      simp only [Lit.wf, Bool.and_eq_true, decide_eq_true_eq] at this
      rw [e3, e4] at this
      exact this
/-- Terms in a row. -/
structure Terms (w : World) (la : Option Addr) (Ts : List (Tm × Option Addr × Nat)) : Prop where
  at_ : ∀ j (h : j < Ts.length), ∃ b off, la = some ⟨b, off, none⟩ ∧ b < w.heap.size ∧ (∀ r, r < 4 → w.cell? ⟨b, off + (j * 4 + r), none⟩ = (enV Ts[j])[r]?) ∧ Nums w Ts[j].2.1 Ts[j].1.of ∧ Ts[j].1.Ok
theorem terms_open {H : Type} {enc : TypeId × Value → H} {W : World} {spare : Nat → Bool} {held : Bool} {v : Value} {d : DataW H} {p : List MemPlace} (h : DataW.Trod enc Tryd.prog W 0 spare held 22 v d p) (hv : ∃ la len cap, v = .slice la len cap) :
    ∃ la cap Ts, v = .slice la (Ts : List (Tm × Option Addr × Nat)).length cap ∧ Terms W la Ts := by
  obtain ⟨la, len, cap, rfl⟩ := hv
  obtain ⟨fuel, hf⟩ := h
  rcases Go.Deep.open_slice Tryd.underlying22 hf with ⟨hcs, _⟩ | ⟨a, len', cap', m, n, D, Pl, hcs, hb, hl, hm, hmm, hx, hi⟩
  · simp [Value.cells] at hcs
    obtain ⟨rfl, rfl, rfl⟩ := hcs
    exact ⟨none, 0, [], rfl, ⟨fun j hj => absurd hj (Nat.not_lt_zero _)⟩⟩
  · simp [Value.cells] at hcs
    obtain ⟨rfl, rfl, rfl⟩ := hcs
    have hlm : len ≤ m := by rw [hmm]; split <;> omega
    have hone : ∀ i, i < len → ∃ T : Tm × Option Addr × Nat, (∀ r, r < 4 → W.cell? ((a.add (i * 4)).add r) = (enV T)[r]?) ∧ Nums W T.2.1 T.1.of ∧ T.1.Ok := by
      intro i hil
      obtain ⟨cs', hc, ht⟩ := hi i (by omega)
      rw [cells25] at hc
      obtain ⟨_, hcl, hat⟩ := World.cells?_some hc
      obtain ⟨k, n, ao, of, c, s, rfl, k0, k1, hn, hof, hN⟩ := cells_term hcl ht
      refine ⟨(⟨k, of, s.data.toList, n⟩, ao, c), fun r hr => ?_, hN, ⟨k0, k1, hn, hof⟩⟩
      rw [hat r (by omega)]
      rfl
    obtain ⟨F, hF⟩ : ∃ F : Nat → Tm × Option Addr × Nat, ∀ i, i < len → (∀ r, r < 4 → W.cell? ((a.add (i * 4)).add r) = (enV (F i))[r]?) ∧ Nums W (F i).2.1 (F i).1.of ∧ (F i).1.Ok :=
      ⟨fun i => if hi : i < len then (hone i hi).choose else (⟨0, [], [], 0⟩, none, 0), fun i hi => by simp only [dif_pos hi]; exact (hone i hi).choose_spec⟩
    refine ⟨some a, cap, (List.range len).map F, by simp, ⟨fun j hj => ?_⟩⟩
    have hj2 : j < len := by simpa using hj
    have e : ((List.range len).map F)[j] = F j := by simp
    rw [e]
    obtain ⟨h1, h2, h3⟩ := hF j hj2
    have h00 := (hF 0 (by omega)).1 0 (by omega)
    rw [Nat.zero_mul, addr_zero, addr_zero] at h00
    have h00 : W.cell? a = some _ := h00
    have hs := World.cell?_spot h00
    have hbl := World.block_lt_of_cell? _ _ h00
    obtain ⟨b, off, s⟩ := a
    obtain rfl : s = none := hs
    refine ⟨b, off, rfl, hbl, fun r hr => ?_, h2, h3⟩
    rw [← h1 r hr, addr_mid, addr_mid, Nat.add_assoc]
end Go.Proofs.YtghaknienffmjaaDoor
