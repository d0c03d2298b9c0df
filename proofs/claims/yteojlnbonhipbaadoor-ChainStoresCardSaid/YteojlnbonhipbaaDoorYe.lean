/- A store by its keys alone. -/
import Derived.Test.YteojlnbonhipbaaDoorYd
namespace Go.Proofs.YteojlnbonhipbaaDoor
open Go.RowKit Go.Maps
/-- A store of these keys. -/
def St (w : World) (B sb : Nat) (S : List Sk) : Prop := ∃ v E, Sto w B sb v E ∧ E.map (·.1) = S
theorem St.on {w w' : World} {B sb : Nat} {S : List Sk} (h : St w B sb S) (hb : Below w.heap.size w w') : St w' B sb S := by
  obtain ⟨v, E, h1, h2⟩ := h
  exact ⟨v, E, h1.on hb, h2⟩
theorem St.kp {ts : List (Option TypeId)} {w w' : World} {B sb : Nat} {S : List Sk} (h : St w B sb S) (k : Kp ts w w') (hs : some 38 ∉ ts ∧ some 47 ∉ ts ∧ some 5 ∉ ts) : St w' B sb S := by
  obtain ⟨v, E, h1, h2⟩ := h
  exact ⟨v, E, h1.kp k hs, h2⟩
def ridS (S : List Sk) (P : List UInt8) (n : Nat) : List Sk := S.eraseIdx (S.findIdx (hit P n))
def putS (S : List Sk) (x : Sk) : List Sk := if 32 < (ridS S x.of x.n).length + 1 then (ridS S x.of x.n ++ [x]).drop 1 else ridS S x.of x.n ++ [x]
def idxS (S : List Sk) (P : List UInt8) (n : Nat) : Int := if S.findIdx (hit P n) < S.length then (S.findIdx (hit P n) : Nat) else -1
theorem findIdx_map (E : List Se) (P : List UInt8) (n : Nat) : (E.map (·.1)).findIdx (hit P n) = E.findIdx (fun e => hit P n e.1) := by
  rw [List.findIdx_map]
  rfl
theorem idx_map (E : List Se) (P : List UInt8) (n : Nat) : idxS (E.map (·.1)) P n = idx E P n := by
  unfold idxS idx
  rw [findIdx_map, List.length_map]
theorem rid_map (E : List Se) (P : List UInt8) (n : Nat) : (rid E P n).map (·.1) = ridS (E.map (·.1)) P n := by
  unfold rid ridS
  rw [findIdx_map, List.eraseIdx_eq_take_drop_succ, List.eraseIdx_eq_take_drop_succ, List.map_append, List.map_take, List.map_drop]
theorem put_map (E : List Se) (x : Sk) (s : Sl) : (putE E x s).map (·.1) = putS (E.map (·.1)) x := by
  unfold putE putS
  rw [← rid_map, List.length_map]
  split
  · rw [List.map_drop, List.map_append]; rfl
  · rw [List.map_append]; rfl
theorem ridS_len (S : List Sk) (P : List UInt8) (n : Nat) : (ridS S P n).length ≤ S.length := List.length_eraseIdx_le _ _
theorem putS_len (S : List Sk) (x : Sk) (h : S.length ≤ 32) : (putS S x).length ≤ 32 := by
  have := ridS_len S x.of x.n
  unfold putS
  split
  · rw [List.length_drop, List.length_append, List.length_singleton]; omega
  · rw [List.length_append, List.length_singleton]; omega
theorem put_st (w : World) (B sb : Nat) (S : List Sk) (x : Sk) (s : Sl) (hS : St w B sb S) (h1 : By w s.oa x.of) (h2 : By w s.ka x.key) (l1 : x.of.length ≤ 1048576) (l2 : x.key.length ≤ 1048576) (hl : S.length ≤ 32) (hB : B ≤ w.heap.size) :
    Calls Tryd.prog 15 #[.pointer (some ⟨sb, 0, none⟩), .agg #[.slice s.oa x.of.length s.oc, .int .u32 x.n, .slice s.ka x.key.length s.kc]] w fun e w' => e = .returned (.tuple #[]) ∧ St w' B sb (putS S x) ∧ Below B w w' ∧ Kp SK w w' := by
  obtain ⟨v, E, hE, rfl⟩ := hS
  rw [List.length_map] at hl
  refine (put_any' w B sb v E x s hE h1 h2 l1 l2 (by omega) hB).mono ?_
  rintro e w' ⟨rfl, t, hs⟩
  obtain ⟨v', h3, -⟩ := hs.sto
  exact ⟨rfl, ⟨v', _, h3, put_map E x t⟩, hs.below, hs.kp⟩
theorem drop_st (w : World) (B sb : Nat) (S : List Sk) (P : List UInt8) (fo : Option Addr) (fc n : Nat) (hS : St w B sb S) (hP : Byt w fo P) (hl : S.length ≤ 32) (hB : B ≤ w.heap.size) :
    Calls Tryd.prog 14 #[.pointer (some ⟨sb, 0, none⟩), .slice fo P.length fc, .int .u32 n] w fun e w' => e = .returned (.bool (decide (0 ≤ idxS S P n))) ∧ St w' B sb (ridS S P n) ∧ Below B w w' ∧ Kp SK w w' := by
  obtain ⟨v, E, hE, rfl⟩ := hS
  rw [List.length_map] at hl
  rw [idx_map]
  refine (drop_any w B sb v E P fo fc n hE hP (by omega) hB).mono ?_
  rintro e w' ⟨rfl, hs⟩
  obtain ⟨v', h3, -⟩ := hs.sto
  exact ⟨rfl, ⟨v', _, h3, rid_map E P n⟩, hs.below, hs.kp⟩
theorem len_st (w : World) (B sb : Nat) (S : List Sk) (hS : St w B sb S) : Calls Tryd.prog 12 #[.pointer (some ⟨sb, 0, none⟩)] w fun e w' => e = .returned (.int .i64 S.length) ∧ w' = w := by
  obtain ⟨v, E, hE, rfl⟩ := hS
  rw [List.length_map]
  exact slen_any w B sb v E hE
theorem get_st_none (w : World) (B sb : Nat) (S : List Sk) (P : List UInt8) (fo : Option Addr) (fc n : Nat) (hS : St w B sb S) (hP : Byt w fo P) (hl : S.length ≤ 32) (hi : idxS S P n = -1) :
    Calls Tryd.prog 13 #[.pointer (some ⟨sb, 0, none⟩), .slice fo P.length fc, .int .u32 n] w fun x w' => x = .returned (.tuple #[.slice none 0 0, .bool false]) ∧ Below w.heap.size w w' := by
  obtain ⟨v, E, hE, rfl⟩ := hS
  rw [List.length_map] at hl
  rw [idx_map] at hi
  exact get_none w B sb v E P fo fc n hE hP (by omega) hi
theorem get_st_some (w : World) (B sb : Nat) (S : List Sk) (P : List UInt8) (fo : Option Addr) (fc n k : Nat) (hS : St w B sb S) (hP : Byt w fo P) (hl : S.length ≤ 32) (hk : k < S.length) (hi : idxS S P n = k) (hkl : S[k].key.length ≤ 1048576) :
    Calls Tryd.prog 13 #[.pointer (some ⟨sb, 0, none⟩), .slice fo P.length fc, .int .u32 n] w fun x w' => ∃ ao cap, x = .returned (.tuple #[.slice ao S[k].key.length cap, .bool true]) ∧ By w' ao S[k].key ∧ S[k].key.length ≤ cap ∧ Below w.heap.size w w' := by
  obtain ⟨v, E, hE, rfl⟩ := hS
  rw [List.length_map] at hl hk
  rw [idx_map] at hi
  have e : (E.map (·.1))[k]'(by rw [List.length_map]; exact hk) = E[k].1 := by simp
  rw [e] at hkl ⊢
  exact get_some w B sb v E P fo fc n k hE hP (by omega) hk hi hkl
end Go.Proofs.YteojlnbonhipbaaDoor
