/- Layer 2, the walks: the end of a digest. -/
import Derived.Test.YtiodmmjjoodmoaaDoorH
import Derived.OwnWalk
namespace Go.Proofs.YtiodmmjjoodmoaaDoor
open Go.RowKit

namespace Sh
def outW (x : Int) : List Int := [x / 16777216, x / 65536 % 256, x / 256 % 256, x % 256]
def out (s : S) : List Int := s.cells.flatMap outW
/-- A byte of the length in bits. -/
def lbyte (len : Int) (i : Nat) : Int := len / 2 ^ (56 - 8 * i) % 256
def lbytes (len : Int) (n : Nat) : List Int := (List.range n).map (lbyte len)
def pad (n : Nat) : List Int := 128 :: (List.replicate ((119 - n % 64) % 64) 0 ++ lbytes ((n : Int) * 8) 8)
/-- SHA-256. -/
def sha (l : List Int) : List Int := out (stOf (l ++ pad l.length))
end Sh

/-- A block that is known whole: numbers of one kind. -/
def Blk (w : World) (g : Nat) (k : IntKind) (t : TypeId) (l : List Int) : Prop := w.heap[g]? = some (.cells (l.map (Value.int k)).toArray t (0, 0))
theorem Blk.at {w : World} {g : Nat} {k : IntKind} {t : TypeId} {l : List Int} (h : Blk w g k t l) : At w k g 0 l := by
  intro j hj
  rw [Nat.zero_add, cell_of_row w g j _ t (0, 0) h]
  simp [hj]
theorem Blk.cell {w : World} {g : Nat} {k : IntKind} {t : TypeId} {l : List Int} (h : Blk w g k t l) (j : Nat) (hj : j < l.length) : w.cell? ⟨g, j, none⟩ = some (.int k (l.getD j 0)) := by
  have := h.at j hj
  rwa [Nat.zero_add] at this
theorem Blk.free {w : World} {g : Nat} {k : IntKind} {t : TypeId} {l : List Int} (h : Blk w g k t l) (j : Nat) : w.frozen? ⟨g, j, none⟩ = false := frozen_of_row w g j _ t h
theorem Blk.set {w : World} {g : Nat} {k : IntKind} {t : TypeId} {l : List Int} (h : Blk w g k t l) (j : Nat) (x : Int) : Blk (w.setCell ⟨g, j, none⟩ (.int k x)) g k t (l.set j x) := by
  unfold Blk
  rw [heap_setCell_same w g j _ t _ h]
  simp [List.map_set]
theorem Blk.other {w w' : World} {g : Nat} {k : IntKind} {t : TypeId} {l : List Int} (h : Blk w g k t l) (hb : w'.heap[g]? = w.heap[g]?) : Blk w' g k t l := hb.trans h
theorem Blk.lt {w : World} {g : Nat} {k : IntKind} {t : TypeId} {l : List Int} (h : Blk w g k t l) : g < w.heap.size := lt_of_block h
theorem Only.blk {g b : Nat} {w w' : World} {k : IntKind} {t : TypeId} {l : List Int} (h : Only g w w') (hb : Blk w b k t l) (hg : b ≠ g) : Blk w' b k t l :=
  hb.other (h.block b hb.lt (fun e => hg (by cases e; rfl)))

theorem set_in (A Z : List Int) (x z : Int) (j : Nat) (hj : A.length = j) : (A ++ (z :: Z)).set j x = A ++ [x] ++ Z := by
  subst hj; simp

/-- The tail so far. -/
def tailAt (z : Nat) (len : Int) (i : Nat) : List Int := (128 :: List.replicate z 0) ++ Sh.lbytes len i ++ List.replicate (72 - (1 + z + i)) 0
theorem length_tailAt (z : Nat) (len : Int) (i : Nat) (h : 1 + z + i ≤ 72) : (tailAt z len i).length = 72 := by
  simp [tailAt, Sh.lbytes]; omega
theorem tailAt_succ (z : Nat) (len : Int) (i : Nat) (h : 1 + z + (i + 1) ≤ 72) : (tailAt z len i).set (1 + z + i) (Sh.lbyte len i) = tailAt z len (i + 1) := by
  unfold tailAt
  rw [show 72 - (1 + z + i) = (72 - (1 + z + (i + 1))) + 1 by omega, zeros_succ]
  rw [set_in _ _ _ _ _ (by simp [Sh.lbytes]; omega)]
  simp [Sh.lbytes, List.range_succ]

def z72 : List Int := List.replicate 72 0
def c72 : Array Value := (z72.map (Value.int .u8)).toArray
theorem zero58 (w : World) : (zeroValue 58).run Tryd.prog w = .ok (.agg c72) w := by kernel_rfl

theorem run_index_arr8 (arr : Array Value) (v : Value) (j : Nat) (hj : j < 8) (h : arr[j]? = some v) (w : World) : (Instr.index 44 (.agg arr) (.int .i64 (j : Int))).run Tryd.prog w = .ok v w := by
  have h1 := run_underlying (P := Tryd.prog) Tryd.underlying44
  have h2 := Tryd.sizeOf39
  have h3 := Tryd.isAgg39
  simp [Instr.index, asIntOf, h1, h2, h3, part, hj, h]
theorem st_get (s : Sh.S) (j : Nat) (hj : j < 8) : (#[Value.int .u32 s.a, .int .u32 s.b, .int .u32 s.c, .int .u32 s.d, .int .u32 s.e, .int .u32 s.f, .int .u32 s.g, .int .u32 s.h] : Array Value)[j]? = some (.int .u32 (s.cells.getD j 0)) := by
  match j, hj with
  | 0, _ => rfl
  | 1, _ => rfl
  | 2, _ => rfl
  | 3, _ => rfl
  | 4, _ => rfl
  | 5, _ => rfl
  | 6, _ => rfl
  | 7, _ => rfl

theorem run_slice72 (T n : Nat) (hn : n ≤ 72) (i : Int) (hi : i = n) (w : World) : (Instr.sliceAt 58 (.pointer (some ⟨T, 0, none⟩)) none (some (.int .i64 i)) none).run Tryd.prog w = .ok (.slice (some ⟨T, 0, none⟩) n 72) w := by
  subst hi
  have hl : Tryd.prog.arrayLen 58 = 72 := by kernel_rfl
  have he : Tryd.prog.elem 58 = 5 := by kernel_rfl
  have hu : Tryd.prog.underlying 58 = some (.array (Tryd.prog.arrayLen 58) (Tryd.prog.elem 58)) := by rw [hl, he]; exact Tryd.underlying58
  rw [run_sliceAt_array_h w 58 ⟨T, 0, none⟩ hu .i64 (n : Int) (by omega) (by rw [hl]; omega), he, Tryd.sizeOf5, hl]
  simp only [Result.andThen_ok, Int.toNat_natCast, slicedAt, Addr.add_mid, Nat.zero_mul, Nat.add_zero, Nat.sub_zero, ite_self]
def c32 : Array Value := ((List.replicate 32 (0 : Int)).map (Value.int .u8)).toArray
theorem run_mk32 (w : World) : (Instr.makeSlice 22 (.int .i64 0) (.int .i64 32)).run Tryd.prog w = .ok (.slice (some ⟨w.heap.size, 0, none⟩) 0 32) (w.alloc (.cells c32 5)) := by kernel_rfl

theorem Rep.stAlloc {w : World} {g : Nat} {l : List Int} (h : Rep w g l) (o : Obj) (hg : g < w.heap.size) : ∃ r h c, Dig (w.alloc o) g (Sh.stOf l) r h c := by
  obtain ⟨r, hd, _, _⟩ := h.dig
  exact ⟨r, _, _, hd.other (Below.heap_alloc w o g hg)⟩

theorem info5 : (Tryd.prog.info? 5).map (fun i => (i.zero, i.size, i.bytes)) = some (some (.int .u8 0), 1, 1) := by kernel_rfl
theorem cells_W (s : Sh.S) (h : s.ok) (k : Nat) : Sh.W32 (s.cells.getD k 0) := by
  obtain ⟨ha, hb, hc, hd, he, hf, hg, hh⟩ := h
  refine W32_getD ?_ k
  intro x hx
  simp only [Sh.S.cells, List.mem_cons, List.not_mem_nil, or_false] at hx
  rcases hx with rfl | rfl | rfl | rfl | rfl | rfl | rfl | rfl <;> assumption
theorem take_out (s : Sh.S) (k : Nat) (h : k < 8) : (s.cells.take (k + 1)).flatMap Sh.outW = (s.cells.take k).flatMap Sh.outW ++ Sh.outW (s.cells.getD k 0) := by
  have hl : k < s.cells.length := by simp [Sh.S.cells]; omega
  rw [List.take_succ_eq_append_getElem hl, List.flatMap_append]
  simp [hl]
/-- What is owned whole, up to its room: the block. -/
theorem blk_of_own {w : World} {base go : Nat} {l : List Int} {n : Nat} (h : w.ownsRow base 5 1 (.slice (some ⟨go, 0, none⟩) n n) n (l.map (Value.int .u8))) : Blk w go .u8 5 l := by
  obtain ⟨_, h2⟩ := h
  rcases h2 with ⟨h, _⟩ | ⟨g, cap, cur, hv, _, hg, _, _, hc, ht⟩
  · cases h
  · cases hv
    have e : cur = (l.map (Value.int .u8)).toArray := by
      rw [Nat.mul_one] at hc ht
      rw [List.take_of_length_le (by simp [hc])] at ht
      rw [← ht]
    rw [e] at hg
    exact hg

theorem tail_zero (z : Nat) (len : Int) (h : z ≤ 63) : (c72.setIfInBounds 0 (Value.int .u8 128)) = ((tailAt z len 0).map (Value.int .u8)).toArray := by
  have e : tailAt z len 0 = z72.set 0 128 := by
    have : (List.replicate z (0 : Int)) ++ List.replicate (72 - (1 + z + 0)) 0 = List.replicate 71 0 := by
      rw [List.replicate_append_replicate]; congr 1; omega
    unfold tailAt
    simp only [Sh.lbytes, List.range_zero, List.map_nil, List.append_nil, List.cons_append]
    rw [this]; rfl
  rw [e]
  unfold c72
  simp [List.map_set]

set_option maxRecDepth 100000 in
set_option maxHeartbeats 2000000 in
theorem end_any (g : Nat) (w : World) (L : List Int) (hR : Rep w g L) (hlen : L.length ≤ 1125899906842624) (ht : Tab w) (hg : g ≠ 0) (hgs : g < w.heap.size) :
    Calls Tryd.prog 23 #[.pointer (some ⟨g, 0, none⟩)] w fun e w' => ∃ go, e = .returned (.slice (some ⟨go, 0, none⟩) 32 32) ∧ Blk w' go .u8 5 (Sh.sha L) ∧ w.heap.size ≤ go ∧ Only g w w' := by
  obtain ⟨r, hd, hr8, hrt⟩ := hR.dig
  have h72 := hd.held
  have h73 := hd.count
  have hz58 := zero58
  have hB0 : Blk (w.alloc (.cells c72 58)) w.heap.size .u8 58 z72 := heap_alloc_new w _
  have hc0 := hB0.cell 0 (by decide)
  have hf0 := hB0.free 0
  obtain ⟨z, hz⟩ : ∃ z : Nat, z = (119 - L.length % 64) % 64 := ⟨_, rfl⟩
  have hz63 : z ≤ 63 := by omega
  have hze : (119 - (L.length : Int)) % 64 = (z : Int) := by omega
  have HZ := Lib.hid hz
  have HD := Lib.hid hd
  have HR := Lib.hid hR
  have HRT := Lib.hid hrt
  clear hd hrt hB0 hz hR
  go_enter Tryd.func23, Tryd.ntmps23
  go_wp2_with fail
  clear hze h72 h73 hc0 hf0 hz58
  have hT : Hid (Blk (w.alloc (.cells (c72.setIfInBounds 0 (Value.int .u8 128)) 58)) w.heap.size .u8 58 (tailAt z ((L.length : Int) * 8) 0)) := by
    rw [tail_zero z ((L.length : Int) * 8) hz63]; exact heap_alloc_new w _
  have hO : Hid (Below w.heap.size w (w.alloc (.cells (c72.setIfInBounds 0 (Value.int .u8 128)) 58))) := (Below.refl _ _).alloc (Nat.le_refl _) _
  generalize w.alloc (.cells (c72.setIfInBounds 0 (Value.int .u8 128)) 58) = wo at *
  obtain ⟨len, hln⟩ : ∃ len : Int, len = (L.length : Int) * 8 := ⟨_, rfl⟩
  have hln0 : 0 ≤ len := by omega
  have hln1 : len ≤ 9007199254740992 := by omega
  rw [← hln] at hT ⊢
  have HLN := Lib.hid hln
  clear hln
  go_loopw [23] (fun i wr => ∃ k : Nat, k ≤ 8 ∧ i = .int .i64 k ∧ Hid (Blk wr w.heap.size .u8 58 (tailAt z len k)) ∧ Hid (Below w.heap.size w wr)) (fun i _ => 8 - (intOf i).toNat)
  case atStart => exact ⟨0, by omega, rfl, hT, hO⟩
  case round =>
    obtain ⟨k, hk, rfl, B, O⟩ := hrel
    by_cases hlt : k < 8
    · have hl72 := length_tailAt z len k (by omega)
      have hc := B.out.cell (1 + z + k) (by omega)
      have hf := B.out.free (1 + z + k)
      have hset := B.out.set (1 + z + k) (Sh.lbyte len k)
      rw [tailAt_succ z len k (by omega)] at hset
      have HS := Lib.hid hset
      generalize (tailAt z len k).getD (1 + z + k) 0 = old at *
      clear hset hl72 hT hO
      go_wp2
      go_roundw
      case rel => exact ⟨k + 1, by omega, by go_num, HS.out, O.out.setCell (Nat.le_refl _) _⟩
      case measure => simp [intOf]; omega
    · have hk8 : ((k : Nat) : Int) = 8 := by omega
      rw [hk8]
      obtain rfl : k = 8 := by omega
      clear hk8 hT hO
      have hpl : (tailAt z len 8).take (1 + z + 8) = Sh.pad L.length := by
        unfold tailAt Sh.pad
        rw [List.take_append_of_le_length (by simp [Sh.lbytes]; omega), List.take_of_length_le (by simp [Sh.lbytes]; omega), HZ.out, HLN.out]
        simp
      have hlp : (Sh.pad L.length).length = 1 + z + 8 := by rw [← hpl]; simp [length_tailAt z len 8 (by omega)]; omega
      have hlb : ∀ x ∈ Sh.pad L.length, Sh.W8 x := by
        intro x hx
        unfold Sh.pad at hx
        simp only [List.mem_cons, List.mem_append, List.mem_replicate, Sh.lbytes, List.mem_map] at hx
        unfold Sh.W8
        rcases hx with rfl | ⟨_, rfl⟩ | ⟨i, _, rfl⟩
        · omega
        · omega
        · unfold Sh.lbyte; omega
      have hRw : Rep wr g L := ⟨HR.out.bytes, r, HD.out.other (O.out.block g hgs), hr8, HRT.out⟩
      have hBy : Bytes wr g (some ⟨w.heap.size, 0, none⟩) (Sh.pad L.length) := ⟨hlb, Or.inr ⟨w.heap.size, 0, rfl, B.out.lt, by omega, by
        have := B.out.at.sub 0 (1 + z + 8) (by rw [length_tailAt z len 8 (by omega)]; omega)
        rw [List.drop_zero, hpl] at this
        exact this⟩⟩
      have htk := take_any g 72 wr L (Sh.pad L.length) (some ⟨w.heap.size, 0, none⟩) hRw (by omega) hBy (by omega) (ht.below O.out ht.1) hg (by have := O.out.size; omega)
      rw [hlp] at htk
      have HTK := Lib.hid htk
      have hsl := run_slice72 w.heap.size (1 + z + 8) (by omega) (1 + (z : Int) + 8) (by omega)
      have hmk := run_mk32
      clear hBy hRw htk hlb hlp hpl HD HRT
      have hgw : g < wr.heap.size := Nat.lt_of_lt_of_le hgs O.out.size
      go_wp2_with ((go_at_call 22; refine HTK.out.mono ?_; rintro e w1 ⟨rfl, hR1, hO1⟩; obtain ⟨r2, h2, c2, hd2⟩ := hR1.stAlloc (.cells c32 5) (Nat.lt_of_lt_of_le hgw hO1.size); obtain ⟨c0, c1, c2, c3, c4, c5, c6, c7⟩ := hd2.st; have HD2 := Lib.hid hd2; have HR1 := Lib.hid hR1; have HO1 := Lib.hid hO1; clear hR1 hO1 hd2))
      clear c0 c1 c2 c3 c4 c5 c6 c7 hmk hsl HD2 HTK
      have hst : Sh.sha L = Sh.out (Sh.stOf (L ++ Sh.pad L.length)) := rfl
      have HST := Lib.hid hst
      have hstok : (Sh.stOf (L ++ Sh.pad L.length)).ok := Sh.blocks_ok _ _ _ Sh.H0_ok
      have hown : Hid ((w1.alloc (.cells c32 5)).ownsRow w.heap.size 5 1 (.slice (some ⟨w1.heap.size, 0, none⟩) 0 32) 0 []) := World.ownsRow_made w1 c32 32 (Nat.le_trans O.out.size HO1.out.size) (by unfold maxLen; omega) (by rfl)
      have hO2 : Hid (Only g w (w1.alloc (.cells c32 5))) := ((Only.below O.out).trans HO1.out).trans (Only.below ((Below.refl _ _).alloc (Nat.le_refl _) _))
      have hgo : g < w1.heap.size := Nat.lt_of_lt_of_le hgw HO1.out.size
      have hwo : w.heap.size ≤ w1.heap.size := Nat.le_trans O.out.size HO1.out.size
      generalize Sh.stOf (L ++ Sh.pad L.length) = st at *
      generalize w1.alloc (.cells c32 5) = w2 at *
      generalize w1.heap.size = go at *
      clear hst HR HR1 HO1 O B
      go_loopw [7, 47] (fun v i wr => ∃ k : Nat, k ≤ 8 ∧ i = .int .i64 k ∧ v = .slice (some ⟨go, 0, none⟩) (4 * k) 32 ∧ Hid (wr.ownsRow w.heap.size 5 1 (.slice (some ⟨go, 0, none⟩) (4 * k) 32) (4 * k) (((st.cells.take k).flatMap Sh.outW).map (Value.int .u8))) ∧ Hid (Only g w wr)) (fun _ i _ => 8 - (intOf i).toNat)
      case atStart => exact ⟨0, by omega, rfl, rfl, hown, hO2⟩
      case round =>
        clear hown hO2
        obtain ⟨k, hk, rfl, rfl, OW, O⟩ := hrel
        by_cases hlt : k < 8
        · have hix := run_index_arr8 _ _ k hlt (st_get st k hlt)
          have hxW := cells_W st hstok k
          obtain ⟨x0, x1⟩ := hxW
          have htk := take_out st k hlt
          have HTO := Lib.hid htk
          clear htk
          generalize st.cells.getD k 0 = x at *
          obtain ⟨i0, hi, hz0, hz1, hz2⟩ := info_parts info5
          have hnew : Hid (∀ o, (wr.alloc o).ownsRow w.heap.size 5 1 (.slice (some ⟨go, 0, none⟩) (4 * k) 32) (4 * k) (((st.cells.take k).flatMap Sh.outW).map (Value.int .u8))) := fun o => OW.out.alloc o
          go_wp2_with ((with_reducible refine wpList_append_fits _ (o := ⟨some 63, _, _, _, _, _⟩) rfl (.tmp 50) (.tmp 62) 22 rfl w.heap.size 5 i0 1 Tryd.underlying22 hi hz1 go (4 * k) 32 (((st.cells.take k).flatMap Sh.outW).map (Value.int .u8)) rfl (hnew.out _) ⟨wr.heap.size, 0, none⟩ 4 4 ((Sh.outW x).map (Value.int .u8)) rfl rfl ?_ ?_ ?_ ?_); exact (fun j u hu => by rw [Addr.add_mid, Nat.zero_add, cell_of_row _ _ _ _ 5 (0, 0) (heap_alloc_new wr _)]; simpa [Sh.outW] using hu); exact ints_oneCell _ _; exact (by omega); intro w3 hown3 hgr3; have HW3 := Lib.hid hown3; have HG3 := Lib.hid hgr3; clear hown3 hgr3)
          go_roundw
          case rel =>
            refine ⟨k + 1, by omega, by go_num, by rw [show 4 * (k + 1) = 4 * k + 4 by omega], ?_, ?_⟩
            · have := HW3.out
              rw [← List.map_append, ← HTO.out] at this
              exact this
            · have hsz := O.out.size
              have hsz3 := HG3.out.size
              simp at hsz3
              exact ⟨HG3.out.os.trans O.out.os, HG3.out.tape.trans O.out.tape, HG3.out.output.trans O.out.output, by omega, fun i hi hn => (HG3.out.block i (by simp; omega) (by intro e; cases e; omega)).trans ((Below.heap_alloc wr _ i (by omega)).trans (O.out.block i hi hn))⟩
          case measure => simp [intOf]; omega
        · obtain rfl : k = 8 := by omega
          go_wp2
          go_ret
          exact ⟨go, rfl, by
            have := blk_of_own OW.out (l := (st.cells.take 8).flatMap Sh.outW)
            rw [HST.out]
            simpa [Sh.S.cells, Sh.out] using this, hwo, O.out⟩
end Go.Proofs.YtiodmmjjoodmoaaDoor
