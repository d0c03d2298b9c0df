/- Layer 2, the walks: the digest of parts. -/
import Derived.Test.YtiodmmjjoodmoaaDoorI
namespace Go.Proofs.YtiodmmjjoodmoaaDoor
open Go.RowKit

/-- A slice of bytes, by its value. -/
def Slc (w : World) (v : Value) (P : List Int) : Prop := ∃ a cap, v = .slice a P.length cap ∧ P.length ≤ cap ∧ (∀ x ∈ P, Sh.W8 x) ∧ (P = [] ∨ ∃ b off, a = some ⟨b, off, none⟩ ∧ b < w.heap.size ∧ At w .u8 b off P)
theorem Slc.below {w w' : World} {v : Value} {P : List Int} {B : Nat} (h : Slc w v P) (hb : Below B w w') (hB : w.heap.size ≤ B) : Slc w' v P := by
  obtain ⟨a, cap, h1, h2, h3, h4⟩ := h
  refine ⟨a, cap, h1, h2, h3, ?_⟩
  rcases h4 with h4 | ⟨b, off, h5, h6, h7⟩
  · exact Or.inl h4
  · exact Or.inr ⟨b, off, h5, Nat.lt_of_lt_of_le h6 hb.size, h7.below hb (by omega)⟩
theorem Slc.nil (w : World) : Slc w (.slice none 0 0) [] := ⟨none, 0, rfl, Nat.le_refl _, by simp, Or.inl rfl⟩
theorem slc_of_blk {w : World} {go : Nat} {l : List Int} {n c : Nat} (h : Blk w go .u8 5 l) (hl : l.length = n) (hc : n ≤ c) (h8 : ∀ x ∈ l, Sh.W8 x) : Slc w (.slice (some ⟨go, 0, none⟩) n c) l :=
  ⟨_, c, by rw [hl], by omega, h8, Or.inr ⟨go, 0, rfl, h.lt, h.at⟩⟩

/-- Parts of bytes, by the value of the slice of them. -/
def Parts (w : World) (v : Value) (ls : List (List Int)) : Prop := ∃ a cap, v = .slice a ls.length cap ∧ ls.length ≤ 1152921504606846976 ∧ (ls = [] ∨ ∃ b off, a = some ⟨b, off, none⟩ ∧ b < w.heap.size ∧ ∀ j, j < ls.length → ∃ u, w.cell? ⟨b, off + j, none⟩ = some u ∧ Slc w u (ls.getD j []))
theorem Parts.below {w w' : World} {v : Value} {ls : List (List Int)} {B : Nat} (h : Parts w v ls) (hb : Below B w w') (hB : w.heap.size ≤ B) : Parts w' v ls := by
  obtain ⟨a, cap, h1, h2, h4⟩ := h
  refine ⟨a, cap, h1, h2, ?_⟩
  rcases h4 with h4 | ⟨b, off, h5, h6, h7⟩
  · exact Or.inl h4
  · refine Or.inr ⟨b, off, h5, Nat.lt_of_lt_of_le h6 hb.size, fun j hj => ?_⟩
    obtain ⟨u, hu, hs⟩ := h7 j hj
    exact ⟨u, (hb.cell (p := ⟨b, off + j, none⟩) (show b < B by omega)).trans hu, hs.below hb hB⟩

set_option maxHeartbeats 400000 in
theorem start_val (w : World) : Calls Tryd.prog 21 #[] w fun e w' => e = .returned (.agg (stCells Sh.H0)) ∧ Below w.heap.size w w' := by
  go_enter Tryd.func21, Tryd.ntmps21
  go_wp2
  exact bodyPost_ret (results_cell_row Tryd.results21 _ _ w.heap.size 44 (stCells Sh.H0) (0, 0) _ rfl (heap_alloc_new w _) Tryd.underlying44 rfl h8) rfl ⟨rfl, (Below.refl _ _).alloc (Nat.le_refl _) _⟩

def z64c : Array Value := (dg z8 (List.replicate 64 0) 0 0).toArray
theorem zero48 (w : World) : (zeroValue 48).run Tryd.prog w = .ok (.agg z64c) w := by kernel_rfl
theorem build48 (w : World) : (Instr.build 48 #[(0, .agg (stCells Sh.H0))]).run Tryd.prog w = .ok (.agg (dg Sh.H0 (List.replicate 64 0) 0 0).toArray) w := by kernel_rfl

theorem rep_start (w : World) (g : Nat) (h : w.heap[g]? = some (.cells (dg Sh.H0 (List.replicate 64 0) 0 0).toArray 48 (0, 0))) : Rep w g [] :=
  ⟨by simp, List.replicate 64 0, ⟨by simp, h⟩, by intro x hx; simp at hx; unfold Sh.W8; omega, by simp⟩
theorem size48 : (Tryd.prog.info? 48).map (·.size) = some 74 := by kernel_rfl
theorem dg74 : (dg Sh.H0 (List.replicate 64 0) 0 0).toArray.size = 74 := by rfl
theorem one74 : (dg Sh.H0 (List.replicate 64 0) 0 0).toArray.all (·.oneCell') = true := by
  refine Array.all_eq_true_iff_forall_mem.2 fun x hx => ?_
  simp only [dg, stCells, List.mem_toArray, List.mem_append, List.mem_cons, List.mem_map, List.mem_replicate, List.not_mem_nil, or_false] at hx
  rcases hx with (rfl | rfl | rfl | rfl | rfl | rfl | rfl | rfl) | ⟨y, _, rfl⟩ | rfl | rfl <;> rfl

theorem bytes_of_slc {w : World} {a : Option Addr} {n cap : Nat} {P : List Int} (h : Slc w (.slice a n cap) P) (g : Nat) (hg : w.heap.size ≤ g) (w' : World) (hb : Below w.heap.size w w') : n = P.length ∧ P.length ≤ cap ∧ Bytes w' g a P := by
  obtain ⟨a', cap', hv, hc, h8, hm⟩ := h
  simp only [Value.slice.injEq] at hv
  obtain ⟨rfl, rfl, rfl⟩ := hv
  refine ⟨rfl, hc, h8, ?_⟩
  rcases hm with hm | ⟨b, off, h1, h2, h3⟩
  · exact Or.inl hm
  · exact Or.inr ⟨b, off, h1, Nat.lt_of_lt_of_le h2 hb.size, by omega, h3.below hb h2⟩

theorem below_of_only {B g : Nat} {w w1 w2 : World} (h : Below B w w1) (ho : Only g w1 w2) (hB : B ≤ g) (hs : B ≤ w1.heap.size) : Below B w w2 :=
  h.trans ⟨ho.os, ho.tape, ho.output, ho.size, fun k hk => ho.block k (by omega) (by intro e; cases e; omega)⟩
theorem built48 : (Array.foldl (fun (cs : Array Value) (x : Value × Nat) => cs.setIfInBounds x.snd x.fst) z64c (stCells Sh.H0).zipIdx 0 (stCells Sh.H0).size) = (dg Sh.H0 (List.replicate 64 0) 0 0).toArray := by kernel_rfl
theorem flatten_take_succ (ls : List (List Int)) (k : Nat) (h : k < ls.length) : (ls.take (k + 1)).flatten = (ls.take k).flatten ++ ls.getD k [] := by
  rw [List.take_succ_eq_append_getElem h, List.flatten_append]
  simp [h]
theorem flatten_take_le (ls : List (List Int)) (k : Nat) : (ls.take k).flatten.length + (ls.getD k []).length ≤ ls.flatten.length := by
  by_cases h : k < ls.length
  · have e : ls.flatten = (ls.take (k + 1)).flatten ++ (ls.drop (k + 1)).flatten := by rw [← List.flatten_append, List.take_append_drop]
    rw [e, List.length_append, flatten_take_succ ls k h, List.length_append]; omega
  · rw [List.take_of_length_le (by omega)]
    simp [List.getElem?_eq_none (show ls.length ≤ k by omega)]

set_option maxRecDepth 100000 in
set_option maxHeartbeats 400000 in
theorem sumAfter_any (w : World) (vh vp : Value) (H : List Int) (ls : List (List Int)) (hH : Slc w vh H) (hP : Parts w vp ls) (hlen : H.length + ls.flatten.length ≤ 281474976710656) (ht : Tab w) :
    Calls Tryd.prog 17 #[vh, vp] w fun e w' => ∃ go, e = .returned (.slice (some ⟨go, 0, none⟩) 32 32) ∧ Blk w' go .u8 5 (Sh.sha (H ++ ls.flatten)) ∧ w.heap.size ≤ go ∧ Below w.heap.size w w' := by
  obtain ⟨ah, caph, rfl, hch, hh8, hhm⟩ := hH
  obtain ⟨ap, capp, rfl, hpl, hpm⟩ := hP
  have hSH : Slc w (.slice ah H.length caph) H := ⟨ah, caph, rfl, hch, hh8, hhm⟩
  have hz := zero48
  have hb := build48
  have h74 := size48
  have hz74 : z64c.size = 74 := by rfl
  have HSH := Lib.hid hSH
  have HT := Lib.hid ht
  have HPM := Lib.hid hpm
  have H74 := Lib.hid h74
  have HZ74 := Lib.hid hz74
  clear hSH hpm hhm hh8 h74 hz74
  go_enter Tryd.func17, Tryd.ntmps17
  go_wp2_with (first | (go_at_call 21; refine (start_val _).mono ?_; rintro e w1 ⟨rfl, hb1⟩; have HB1 := Lib.hid hb1; clear hb1) | ((with_reducible refine wpList_store_row (o := ⟨none, _, _, _, _, _⟩) rfl 48 (.tmp 5) (.tmp 9) rfl w1.heap.size _ rfl rfl 48 _ (heap_alloc_new w1 _) ?_ ?_ ?_ ?_); exact H74.out.trans (congrArg some dg74.symm); exact HZ74.out.trans dg74.symm; exact one74; generalize hw2 : World.setRow _ _ _ = w2; have HW2 := Lib.hid hw2; clear hw2))
  have hsz1 := HB1.out.size
  have hbw2 : Below w.heap.size w w2 := by rw [← HW2.out]; exact below_setRow (HB1.out.alloc hsz1 _) hsz1 _
  have hgs : w1.heap.size < w2.heap.size := by rw [← HW2.out]; simp
  have hrep : Rep w2 w1.heap.size [] := rep_start w2 _ (by rw [← HW2.out, built48]; exact setRow_heap _ _ _ _ 48 _ (heap_alloc_new w1 _))
  have h0 := ht.1
  have htab := ht.below hbw2 h0
  obtain ⟨-, hc2, hby⟩ := bytes_of_slc HSH.out w1.heap.size hsz1 w2 hbw2
  have htk := take_any w1.heap.size caph w2 [] H ah hrep (by simp; omega) hby hc2 htab (by omega) hgs
  rw [List.nil_append] at htk
  have HTK := Lib.hid htk
  have HBW := Lib.hid hbw2
  clear htk hby hrep HW2 HB1 hbw2 htab hc2 hz hb HZ74 H74 ht
  generalize w1.heap.size = g at *
  go_wp2_with ((go_at_call 22; refine HTK.out.mono ?_; rintro e w3 ⟨rfl, hR3, hO3⟩; have HR3 := Lib.hid hR3; have HO3 := Lib.hid hO3; clear hR3 hO3))
  have hB3 : Hid (Below w.heap.size w w3) := below_of_only HBW.out HO3.out hsz1 (by omega)
  have hg3 : g < w3.heap.size := Nat.lt_of_lt_of_le hgs HO3.out.size
  clear HTK HBW HO3
  go_loopw [14] (fun i wr => ∃ k : Nat, k ≤ ls.length ∧ i = .int .i64 k ∧ Hid (Rep wr g (H ++ (ls.take k).flatten)) ∧ Hid (Below w.heap.size w wr) ∧ g < wr.heap.size) (fun i _ => ls.length - (intOf i).toNat)
  case atStart => exact ⟨0, by omega, rfl, by simpa using HR3, hB3, hg3⟩
  case round =>
    clear HR3 hB3 hg3
    obtain ⟨k, hk, rfl, R, B, hgw⟩ := hrel
    by_cases hlt : k < ls.length
    · obtain ⟨b, off, rfl, hbw, hcells⟩ : ∃ b off, ap = some ⟨b, off, none⟩ ∧ b < w.heap.size ∧ ∀ (j : Nat), j < ls.length → ∃ u, w.cell? ⟨b, off + j, none⟩ = some u ∧ Slc w u (ls.getD j []) := by
        rcases HPM.out with h | h
        · rw [h] at hlt; simp at hlt
        · exact h
      obtain ⟨u, hu, hsl⟩ := hcells k hlt
      have hu' : wr.cell? ⟨b, off + k, none⟩ = some u := (B.out.cell (p := ⟨b, off + k, none⟩) hbw).trans hu
      obtain ⟨ak, ck, rfl, -⟩ := id hsl
      obtain ⟨-, hck, hby⟩ := bytes_of_slc hsl g hsz1 wr B.out
      have hfl := flatten_take_le ls k
      have htk := take_any g ck wr (H ++ (ls.take k).flatten) (ls.getD k []) ak R.out (by rw [List.length_append]; omega) hby hck (HT.out.below B.out h0) (by omega) hgw
      rw [List.append_assoc, ← flatten_take_succ ls k hlt] at htk
      have HTK := Lib.hid htk
      clear htk hby hsl hcells hfl HPM hu hck
      generalize (ls.getD k []).length = nk at *
      go_wp2_with ((go_at_call 22; refine HTK.out.mono ?_; rintro e w4 ⟨rfl, hR4, hO4⟩; have HR4 := Lib.hid hR4; have HO4 := Lib.hid hO4; clear hR4 hO4))
      go_roundw
      case rel => exact ⟨k + 1, by omega, by go_num, HR4, below_of_only B.out HO4.out hsz1 B.out.size, Nat.lt_of_lt_of_le hgw HO4.out.size⟩
      case measure => simp [intOf]; omega
    · obtain rfl : k = ls.length := by omega
      have hR : Rep wr g (H ++ ls.flatten) := by have := R.out; rwa [List.take_of_length_le (Nat.le_refl _)] at this
      have hen := end_any g wr (H ++ ls.flatten) hR (by rw [List.length_append]; omega) (HT.out.below B.out h0) (by omega) hgw
      have HEN := Lib.hid hen
      clear hen hR R HPM HSH
      go_wp2_with ((go_at_call 23; refine HEN.out.mono ?_; rintro e w4 ⟨go, rfl, hb4, hgo4, ho4⟩; have HB4 := Lib.hid hb4; have HGO := Lib.hid hgo4; have HO4 := Lib.hid ho4; clear hb4 hgo4 ho4))
      go_ret
      exact ⟨go, rfl, HB4.out, Nat.le_trans B.out.size HGO.out, below_of_only B.out HO4.out hsz1 B.out.size⟩
end Go.Proofs.YtiodmmjjoodmoaaDoor
