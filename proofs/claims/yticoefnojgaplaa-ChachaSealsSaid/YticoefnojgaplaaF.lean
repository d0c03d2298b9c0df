/- The walks of split and joined: three words as a number; 128 bits of a number. -/
import Derived.Test.YticoefnojgaplaaE
namespace Go.Proofs.Yticoefnojgaplaa
open Go.RowKit

theorem below_drewN {B : Nat} {w w' : World} (h : Below B w w') (n : Nat) : Below B w (w'.drewN n) := ⟨h.os, h.tape, h.output, h.size, h.block⟩
/-- A number as a value. -/
def ec (x : Po.E) : Array Value := #[.int .u64 x.a, .int .u64 x.b, .int .u64 x.c, .int .u64 x.d, .int .u64 x.e]
theorem ec_cells (x : Po.E) : ec x = (x.cells.map (Value.int .u64)).toArray := rfl
theorem ec_one (x : Po.E) : (ec x).all (·.oneCell') = true := by simp [ec, Value.oneCell']
theorem i48 : (Try.prog.info? 48).map (·.size) = some 5 := by kernel_rfl
theorem mask26 (v : Int) (h0 : 0 ≤ v) (h1 : v ≤ 18446744073709551615) : bits BinOp.and IntKind.u64 v 67108863 = v % 67108864 := by
  obtain ⟨n, rfl⟩ := Int.eq_ofNat_of_zero_le h0
  have h := u64_and_nat n 67108863 (by omega) (by decide)
  have h2 : n &&& 67108863 = n % 67108864 := Nat.and_two_pow_sub_one_eq_mod n 26
  rw [h2] at h
  rw [Int.natCast_emod] at h
  exact h
/-- Words that don't meet. -/
theorem or_join (s : Nat) (x y : Int) (h0 : 0 ≤ x) (h1 : x < 2 ^ s) (h2 : 0 ≤ y) (h3 : y ≤ 18446744073709551615) (h4 : y % 2 ^ s = 0) (hs : s ≤ 60) : bits BinOp.or IntKind.u64 x y = x + y := by
  obtain ⟨X, rfl⟩ := Int.eq_ofNat_of_zero_le h0
  obtain ⟨Y, rfl⟩ := Int.eq_ofNat_of_zero_le h2
  have hp : 2 ^ s ≤ 2 ^ 60 := Nat.pow_le_pow_right (by decide) hs
  have g1 : X < 2 ^ s := by exact_mod_cast h1
  have g4 : Y % 2 ^ s = 0 := by exact_mod_cast h4
  simp only [Nat.reducePow] at hp
  rw [u64_or_nat _ _ (by omega) (by omega), Nat.or_comm, nat_join s _ _ g4 g1]
  omega

set_option maxRecDepth 100000 in
set_option maxHeartbeats 400000 in
theorem split_any (w : World) (lo hi top : Int) (l0 : 0 ≤ lo) (l1 : lo ≤ 18446744073709551615) (h0 : 0 ≤ hi) (h1 : hi ≤ 18446744073709551615) (t0 : 0 ≤ top) (t1 : top ≤ 1) :
    Calls Try.prog 24 #[.int .u64 lo, .int .u64 hi, .int .u64 top] w fun e w' => e = .returned (.agg (ec (Po.split lo hi top))) ∧ Below w.heap.size w w' := by
  have ma := mask26 lo l0 l1
  have mb := mask26 (lo / 67108864) (by omega) (by omega)
  have hw : IntKind.u64.wrap (hi * 4096) = hi * 4096 % 18446744073709551616 := IntKind.wrap_u64 _
  have oc := or_join 12 (lo / 4503599627370496) (hi * 4096 % 18446744073709551616) (by omega) (by omega) (by omega) (by omega) (by omega) (by decide)
  have mc := mask26 (lo / 4503599627370496 + hi * 4096 % 18446744073709551616) (by omega) (by omega)
  have md := mask26 (hi / 16384) (by omega) (by omega)
  have oe := or_join 24 (hi / 1099511627776) (top * 16777216) (by omega) (by omega) (by omega) (by omega) (by omega) (by decide)
  have HS : Hid (#[Value.int .u64 (lo % 67108864), Value.int .u64 (lo / 67108864 % 67108864), Value.int .u64 ((lo / 4503599627370496 + hi * 4096 % 18446744073709551616) % 67108864), Value.int .u64 (hi / 16384 % 67108864), Value.int .u64 (hi / 1099511627776 + top * 16777216)] = ec (Po.split lo hi top)) := by
    show _ = _
    unfold ec Po.split Po.M
    rw [show (lo / 4503599627370496 + hi * 4096 % 18446744073709551616) % 67108864 = (lo / 4503599627370496 + hi % 16384 * 4096) % 67108864 by omega]
  rw [← hw] at mc oc HS
  clear hw
  go_enter Try.func24, Try.ntmps24
  go_wp2
  exact bodyPost_ret (results_cell_row Try.results24 _ _ w.heap.size 48 _ (0, 0) _ rfl (heap_alloc_new w (.cells _ 48)) Try.underlying48 rfl i48) rfl ⟨congrArg (fun c => Ending.returned (.agg c)) HS.out, (Below.refl _ _).alloc (Nat.le_refl _) _⟩

set_option maxRecDepth 100000 in
set_option maxHeartbeats 400000 in
theorem joined_any (w : World) (x : Po.E) (hx : Po.Can x) :
    Calls Try.prog 29 #[.agg (ec x)] w fun e w' => e = .returned (.tuple #[.int .u64 (Po.joinLo x), .int .u64 (Po.joinHi x)]) ∧ Below w.heap.size w w' := by
  unfold Po.Can Po.Le at hx
  obtain ⟨⟨a0, a1⟩, ⟨b0, b1⟩, ⟨c0, c1⟩, ⟨d0, d1⟩, ⟨e0, e1⟩⟩ := hx
  have o1 := or_join 26 x.a (x.b * 67108864) (by omega) (by omega) (by omega) (by omega) (by omega) (by decide)
  have o2 := or_join 52 (x.a + x.b * 67108864) (x.c * 4503599627370496 % 18446744073709551616) (by omega) (by omega) (by omega) (by omega) (by omega) (by decide)
  have o3 := or_join 14 (x.c / 4096) (x.d * 16384) (by omega) (by omega) (by omega) (by omega) (by omega) (by decide)
  have o4 := or_join 40 (x.c / 4096 + x.d * 16384) (x.e * 1099511627776 % 18446744073709551616) (by omega) (by omega) (by omega) (by omega) (by omega) (by decide)
  have HL : Hid (x.a + x.b * 67108864 + x.c * 4503599627370496 % 18446744073709551616 = Po.joinLo x) := by show _ = _; unfold Po.joinLo; omega
  have HH : Hid (x.c / 4096 + x.d * 16384 + x.e * 1099511627776 % 18446744073709551616 = Po.joinHi x) := by show _ = _; unfold Po.joinHi; omega
  have w1 : IntKind.u64.wrap (x.c * 4503599627370496) = x.c * 4503599627370496 % 18446744073709551616 := IntKind.wrap_u64 _
  have w2 : IntKind.u64.wrap (x.e * 1099511627776) = x.e * 1099511627776 % 18446744073709551616 := IntKind.wrap_u64 _
  rw [← w1] at o2 HL
  rw [← w2] at o4 HH
  clear w1 w2
  obtain ⟨a, b, c, d, e⟩ := x
  simp only at *
  unfold ec
  simp only
  go_enter Try.func29, Try.ntmps29
  go_wp2
  go_quiet (fail)
  go_wp2
  refine bodyPost_ret (results_tmp2 Try.results29 _ _ _) rfl ⟨?_, below_drewN ((Below.refl _ _).alloc (Nat.le_refl _) _) _⟩
  show Ending.returned (.tuple #[_, _]) = _
  rw [← HL.out, ← HH.out]
  rfl
end Go.Proofs.Yticoefnojgaplaa
