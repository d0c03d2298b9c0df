/- Layer 2's reference, the walks: numbers. -/
import Derived.Test.YticoefnojgaplaaM
namespace Go.Proofs.Yticoefnojgaplaa
open Go.RowKit

theorem num_sliced {w : World} {a : Option Addr} {n cap : Nat} {l : List Int} (hS : Num w (.slice a n cap) l) (m : Nat) (hm : m ≤ n) : Num w (sliced a 0 m cap 1) (l.take m) := by
  obtain ⟨a', cap', hv, hc, h8, hmm⟩ := hS
  simp only [Value.slice.injEq] at hv
  obtain ⟨rfl, rfl, rfl⟩ := hv
  have hlen : (l.take m).length = m := by simp; omega
  refine ⟨_, cap - 0, by rw [hlen]; rfl, by rw [hlen]; omega, Nt.Ws.take h8 m, ?_⟩
  by_cases h0 : m = 0
  · exact Or.inl (by rw [h0]; rfl)
  · rcases hmm with h | ⟨b, off, rfl, h2, h3⟩
    · rw [h] at hm; simp at hm; omega
    · refine Or.inr ⟨b, off, ?_, h2, ?_⟩
      · rw [if_neg (by omega)]; rfl
      · have := h3.sub 0 m (by omega)
        rwa [List.drop_zero] at this
theorem run_cut58 (a : Option Addr) (n cap m : Nat) (hm : m ≤ cap) (i : Int) (hi : i = m) (w : World) : (Instr.slice 58 (.slice a n cap) none (some (.int .i64 i)) none).run Try.prog w = .ok (sliced a 0 m cap 1) w := by
  subst hi
  have he : Try.prog.elem 58 = 23 := by kernel_rfl
  have hu : Try.prog.underlying 58 = some (.slice (Try.prog.elem 58)) := by rw [he]; exact Try.underlying58
  rw [run_slice_h w 58 a n cap hu .i64 m (by omega) (by omega), he, Try.sizeOf23]
  rfl

set_option maxRecDepth 100000 in
set_option maxHeartbeats 400000 in
theorem trim_any (w : World) (v : Value) (l : List Int) (h : Num w v l) (hl : l.length ≤ 1000000) :
    Calls Try.prog 46 #[v] w fun e w' => ∃ v', e = .returned v' ∧ Num w' v' (Nt.trim l) ∧ Below w.heap.size w w' := by
  obtain ⟨a, cap, rfl, hc, hw, hm⟩ := id h
  have H := Lib.hid h
  have HM := Lib.hid hm
  have HC := Lib.hid (show Nt.trim l = l.take (Nt.cut l l.length) from rfl)
  clear h hm hw
  go_enter Try.func46, Try.ntmps46
  go_wp2_with fail
  go_loopw [3] (fun i wr => ∃ n : Nat, n ≤ l.length ∧ i = .int .i64 n ∧ Hid (Nt.cut l n = Nt.cut l l.length) ∧ Hid (Below w.heap.size w wr)) (fun i _ => (intOf i).toNat)
  case atStart => exact ⟨l.length, Nat.le_refl _, rfl, rfl, Below.refl _ _⟩
  case round =>
    obtain ⟨n, hn, rfl, CU, B⟩ := hrel
    cases n with
    | zero =>
      have h0 : Nt.cut l l.length = 0 := CU.out.symm
      have hnum : Num wr (sliced a 0 0 cap 1) (Nt.trim l) := by rw [HC.out, h0]; exact num_sliced (H.out.below B.out (Nat.le_refl _)) 0 (Nat.zero_le _)
      have hcut := run_cut58 a l.length cap 0 (Nat.zero_le _) 0 rfl
      generalize sliced a 0 0 cap 1 = sv at *
      have HN := Lib.hid hnum
      clear hnum h0
      go_wp2
      go_ret
      exact ⟨_, rfl, HN.out, B.out⟩
    | succ n =>
      obtain ⟨b, off, rfl, hbw, hAt⟩ : ∃ b off, a = some ⟨b, off, none⟩ ∧ b < w.heap.size ∧ At w .u32 b off l := by
        rcases HM.out with h | h
        · rw [h] at hn; simp at hn
        · exact h
      have hcell : wr.cell? ⟨b, off + n, none⟩ = some (.int .u32 (l.getD n 0)) := (hAt.below B.out hbw) n (by omega)
      by_cases hz : l.getD n 0 = 0
      · have hcu : Nt.cut l n = Nt.cut l l.length := by rw [← CU.out]; conv => rhs; unfold Nt.cut; rw [if_pos hz]
        have HCU := Lib.hid hcu
        rw [hz] at hcell
        clear hcu CU hAt HM HC H hz
        go_wp2
        go_roundw
        case rel => exact ⟨n, by omega, by go_num, HCU, B⟩
        case measure => simp [intOf]
      · have h1 : Nt.cut l l.length = n + 1 := by rw [← CU.out]; unfold Nt.cut; rw [if_neg hz]
        have hnum : Num wr (sliced (some ⟨b, off, none⟩) 0 (n + 1) cap 1) (Nt.trim l) := by rw [HC.out, h1]; exact num_sliced (H.out.below B.out (Nat.le_refl _)) (n + 1) hn
        have hcut := run_cut58 (some ⟨b, off, none⟩) l.length cap (n + 1) (by omega) ((n : Int) + 1) (by omega)
        generalize sliced (some ⟨b, off, none⟩) 0 (n + 1) cap 1 = sv at *
        have HN := Lib.hid hnum
        clear hnum h1 CU hAt HM HC H
        generalize l.getD n 0 = x at *
        go_wp2
        go_ret
        exact ⟨_, rfl, HN.out, B.out⟩

theorem num_blk {w : World} {g : Nat} {t : TypeId} {l : List Int} {n : Nat} (h : Blk w g .u32 t l) (hl : l.length = n) (hw : Nt.Ws l) : Num w (.slice (some ⟨g, 0, none⟩) n n) l :=
  ⟨_, n, by rw [hl], by omega, hw, Or.inr ⟨g, 0, rfl, h.lt, h.at⟩⟩

end Go.Proofs.Yticoefnojgaplaa
