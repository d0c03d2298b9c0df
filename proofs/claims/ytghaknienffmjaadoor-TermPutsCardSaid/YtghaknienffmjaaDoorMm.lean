/- A term looked up in a table. -/
import Derived.Test.YtghaknienffmjaaDoorMf
import Derived.Deep.RegionWith
namespace Go.Proofs.YtghaknienffmjaaDoor
open Go.RowKit Go.Maps
theorem tab_look {w : World} {B tb : Nat} {tv mv : Value} {E : List En} (h : Tab w B tb tv mv E) (t : Tm) (hf : Fit t) :
    ∃ c : Int, (Instr.lookup 54 mv (.string (nmB t)) true).run Tryd.prog w = .ok (.tuple #[.int .i64 c, .bool (decide (t ∈ E.map (·.1)))]) w ∧ (t ∉ E.map (·.1) → c = 0) ∧ ∀ j (hj : j < E.length), E[j].1 = t → c = j := by
  have hkey := nm_key t hf
  rcases h.mp with ⟨rfl, rfl⟩ | ⟨mb, D, rfl, -, -, -, h5, hK⟩
  · exact ⟨0, by rw [Maps.look_nil true law Tryd.underlying54 (zero3 w) hkey]; rfl, fun _ => rfl, fun j hj => absurd hj (Nat.not_lt_zero _)⟩
  · obtain ⟨v, ps, hrun, hv⟩ := h5.look_ok law Tryd.underlying54 (zero3 w) (plainElem_int Tryd.underlying3 (a := 0) (by decide)) hkey
    obtain ⟨c, rfl, hc, -⟩ := plainElem_int_inv Tryd.underlying3 hv
    have hc := congrArg Prod.fst hc
    simp only at hc
    have hh := hK.has t hf.ok
    refine ⟨c, by rw [hrun, hh], fun hn => ?_, fun j hj hjt => ?_⟩
    · rw [decide_eq_false hn] at hh
      rw [atKey_of_not_has hh] at hc
      exact (lit_int_inj hc).symm
    · have h1 := hK.at_ j hj (.lit (.int .i64 0))
      rw [hjt, hc] at h1
      exact lit_int_inj h1
set_option maxRecDepth 20000 in
set_option maxHeartbeats 4000000 in
theorem find_any (t : Tm) (hf : Fit t) (ao : Option Addr) (cap : Nat) (w : World) (hG : Gv w) (hN : Nums w ao t.of) (B tb : Nat) (tv mv : Value) (E : List En) (hT : Tab w B tb tv mv E) :
    Calls Tryd.prog 14 #[.pointer (some ⟨tb, 0, none⟩), .agg #[.int .u8 t.k, .slice ao t.of.length cap, .string ⟨t.tx.toArray⟩, .int .i64 t.n]] w fun e w' => ∃ c : Int, e = .returned (.tuple #[.int .i64 c, .bool (decide (t ∈ E.map (·.1)))]) ∧ (t ∉ E.map (·.1) → c = 0) ∧ (∀ j (hj : j < E.length), E[j].1 = t → c = j) ∧ Below w.heap.size w w' := by
  have hb0 := Joins.below_alloc1 w (.cells #[.int .u8 t.k, .slice ao t.of.length cap, .string ⟨t.tx.toArray⟩, .int .i64 t.n] 25)
  have hx0 := Boxed.new w (.int .u8 t.k) (.slice ao t.of.length cap) (.string ⟨t.tx.toArray⟩) (.int .i64 t.n)
  have hb0d := hb0.drew
  have hnm := name_of t hf ao cap _ (hG.on hb0d) (hN.on hb0d (Nat.le_refl _))
  have hT0 := hT.on hb0d
  obtain ⟨bb, hbb⟩ : ∃ bb, bb = decide (t ∈ E.map (·.1)) := ⟨_, rfl⟩
  have HLK : Hid (∀ w1, Below (w.alloc (.cells #[.int .u8 t.k, .slice ao t.of.length cap, .string ⟨t.tx.toArray⟩, .int .i64 t.n] 25)).drew.heap.size (w.alloc (.cells #[.int .u8 t.k, .slice ao t.of.length cap, .string ⟨t.tx.toArray⟩, .int .i64 t.n] 25)).drew w1 → ∃ c : Int, (Instr.lookup 54 mv (.string (nmB t)) true).run Tryd.prog w1 = .ok (.tuple #[.int .i64 c, .bool bb]) w1 ∧ (t ∉ E.map (·.1) → c = 0) ∧ ∀ j (hj : j < E.length), E[j].1 = t → c = j) := fun w1 hb1 => by
    rw [hbb]
    exact tab_look (hT0.on hb1) t hf
  have HBB := Lib.hid hbb
  have a0 := hx0.c0
  have a1 := hx0.c1
  have a2 := hx0.c2
  have a3 := hx0.c3
  have t1 : (w.alloc (.cells #[.int .u8 t.k, .slice ao t.of.length cap, .string ⟨t.tx.toArray⟩, .int .i64 t.n] 25)).cell? ⟨tb, 1, none⟩ = some mv := by rw [cell_of_row _ _ _ _ _ _ (hT.on hb0).row]; rfl
  have hT1 : Hid (∀ w1, Below (w.alloc (.cells #[.int .u8 t.k, .slice ao t.of.length cap, .string ⟨t.tx.toArray⟩, .int .i64 t.n] 25)).drew.heap.size (w.alloc (.cells #[.int .u8 t.k, .slice ao t.of.length cap, .string ⟨t.tx.toArray⟩, .int .i64 t.n] 25)).drew w1 → w1.cell? ⟨tb, 1, none⟩ = some mv) := fun w1 hb1 => by rw [cell_of_row _ _ _ _ _ _ (hT0.on hb1).row]; rfl
  have HB := Lib.hid hb0d
  clear hx0 hb0 hb0d hT0 hbb
  go_enter Tryd.func14, Tryd.ntmps14
  go_wp2
  go_region_with (go_at_call 21; refine hnm.mono ?_; rintro e w1 ⟨rfl, hb1⟩; obtain ⟨c, hlk, hc0, hcj⟩ := HLK.out w1 hb1; have t2 := hT1.out w1 hb1; have HC := Lib.hid (And.intro hc0 (And.intro hcj (HB.out.trans (hb1.mono HB.out.size)))); clear hc0 hcj hb1)
  all_goals (go_wp2; go_ret2; exact ⟨c, congrArg (fun b => Ending.returned (Value.tuple #[Value.int IntKind.i64 c, Value.bool b])) HBB.out, HC.out.1, HC.out.2.1, HC.out.2.2⟩)
end Go.Proofs.YtghaknienffmjaaDoor
