/- A term put into a table. -/
import Derived.Test.YteojlnbonhipbaaDoorMd
namespace Go.Proofs.YteojlnbonhipbaaDoor
open Go.RowKit Go.Maps
theorem lit_int_inj {a b : Int} (h : (DataW.lit (.int .i64 a) : DataW Unit) = .lit (.int .i64 b)) : a = b := by
  injection h with h
  injection h
/-- The name of a term, as the code returns it. -/
theorem name_of (t : Tm) (hf : Fit t) (ao : Option Addr) (cap : Nat) (w : World) (hG : Gv w) (hN : Nums w ao t.of) :
    Calls Tryd.prog 95 #[.agg #[.int .u8 t.k, .slice ao t.of.length cap, .string ⟨t.tx.toArray⟩, .int .i64 t.n]] w fun e w' => e = .returned (.string (nmB t)) ∧ Below w.heap.size w w' := by
  refine (name_any t.k t.n t.of ⟨t.tx.toArray⟩ ao cap w hG hf.ok.k0 hf.ok.k1 hf.ok.n hf.ok.of hN hf.of (by rw [ByteArray.size_mk', List.size_toArray]; exact hf.tx)).mono fun e w' ⟨h1, h2⟩ => ⟨h1.trans ?_, h2⟩
  congr 2
  show (⟨(_ ++ t.tx.toArray.toList).toArray⟩ : ByteArray) = _
  rw [List.toList_toArray, Tm.hd_all]
  rfl
set_option maxHeartbeats 8000000 in
theorem put_old (t : Tm) (hf : Fit t) (ao : Option Addr) (cap : Nat) (w : World) (hG : Gv w) (hN : Nums w ao t.of) (B tb : Nat) (tv mv : Value) (E : List En) (hT : Tab w B tb tv mv E) (j : Nat) (hj : j < E.length) (hjt : E[j].1 = t) :
    Calls Tryd.prog 93 #[.pointer (some ⟨tb, 0, none⟩), .agg #[.int .u8 t.k, .slice ao t.of.length cap, .string ⟨t.tx.toArray⟩, .int .i64 t.n]] w fun e w' => e = .returned (.int .i64 j) ∧ Below w.heap.size w w' := by
  obtain ⟨v, hv⟩ : ∃ v, v = Value.agg #[.int .u8 t.k, .slice ao t.of.length cap, .string ⟨t.tx.toArray⟩, .int .i64 t.n] := ⟨_, rfl⟩
  have hb0 := Joins.below_alloc1 w (.cells #[.int .u8 t.k, .slice ao t.of.length cap, .string ⟨t.tx.toArray⟩, .int .i64 t.n] 130)
  have hx0 := Boxed.new w (.int .u8 t.k) (.slice ao t.of.length cap) (.string ⟨t.tx.toArray⟩) (.int .i64 t.n)
  have hnm := name_of t hf ao cap _ (hG.on hb0) (hN.on hb0 (Nat.le_refl _))
  have hT0 := hT.on hb0
  have hkey := nm_key t hf
  rcases hT.mp with ⟨-, rfl⟩ | ⟨mb, D, rfl, h2, h3, h4, h5, hK⟩
  · exact absurd hj (Nat.not_lt_zero _)
  have hown0 := h5.kept (row := none) (w' := w.alloc (.cells #[.int .u8 t.k, .slice ao t.of.length cap, .string ⟨t.tx.toArray⟩, .int .i64 t.n] 130)) ⟨hb0.os, hb0.tape, hb0.output, hb0.size, fun k hk _ => hb0.block k hk⟩ (by simp)
  have hhas : Maps.has D (.string (nmB t).data.toList) = true := by
    rw [hK.has t hf.ok]
    simp only [decide_eq_true_eq]
    rw [← hjt]
    exact List.mem_map_of_mem (List.getElem_mem hj)
  have hat := hK.at_ j hj
  rw [hjt] at hat
  have a0 := hx0.c0
  have a1 := hx0.c1
  have a2 := hx0.c2
  have a3 := hx0.c3
  generalize nmB t = nm at *
  generalize ht1 : (⟨t.tx.toArray⟩ : ByteArray) = tx at *
  generalize t.k = k at *
  generalize t.n = n at *
  generalize t.of.length = L at *
  generalize hw0 : w.alloc (.cells #[.int .u8 k, .slice ao L cap, .string tx, .int .i64 n] 130) = w0 at *
  have HX := Lib.hid hx0
  have HB := Lib.hid hb0
  have HT0 := Lib.hid hT0
  have HK := Lib.hid hkey
  have HH := Lib.hid hhas
  have HA := Lib.hid hat
  clear hx0 hb0 hT0 hkey hhas hat h5 hK hT hv ht1 h2 h3 h4
  go_enter Tryd.func93, Tryd.ntmps93
  go_wp2_with (go_at_call 95; refine hnm.mono ?_; rintro e w1 ⟨rfl, hb1⟩; refine Hid.out ?_)
  refine Lib.hid ?_
  have hT1 := HT0.out.on hb1
  have t0 : w1.cell? ⟨tb, 0, none⟩ = some tv := by rw [cell_of_row _ _ _ _ _ _ hT1.row]; rfl
  have t1 : w1.cell? ⟨tb, 1, none⟩ = some (.map (some mb)) := by rw [cell_of_row _ _ _ _ _ _ hT1.row]; rfl
  have hown1 := hown0.kept (row := none) (w' := w1) ⟨hb1.os, hb1.tape, hb1.output, hb1.size, fun k hk _ => hb1.block k hk⟩ (by simp)
  go_wp2_with (at_lookup; refine wpList_lookup_own_ok_int _ rfl _ _ 81 rfl 9 3 .i64 law Tryd.underlying81 Tryd.underlying3 (zero3 _) mb _ D rfl hown1 _ _ rfl HK.out ?_; intro c hat hwc; have hcj := HA.out (.lit (.int .i64 0)); rw [hat] at hcj; obtain rfl := lit_int_inj hcj; rw [HH.out]; clear hat hwc hcj)
  go_ret
  exact ⟨rfl, HB.out.trans (hb1.mono HB.out.size)⟩
end Go.Proofs.YteojlnbonhipbaaDoor
