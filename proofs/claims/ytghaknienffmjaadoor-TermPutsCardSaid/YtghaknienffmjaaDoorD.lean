/- The document's examples: the marks; 'awake'. -/
import Derived.Test.YtghaknienffmjaaDoorC
import Derived.Lib.SlBytesConst
import Derived.Deep.QuietTactic
import Derived.BigQuiet
namespace Go.Proofs.YtghaknienffmjaaDoor
open Go.RowKit
set_option maxHeartbeats 1000000 in
theorem mark_ab (w : World) (g c : Nat) (h0 : w.cell? ⟨g, 0, none⟩ = some (.int .u8 97)) (h1 : w.cell? ⟨g, 1, none⟩ = some (.int .u8 98)) :
    Calls Tryd.prog 19 #[.slice (some ⟨g, 0, none⟩) 2 c] w fun e w' => e = .returned (.string ⟨#[50, 58, 97, 98]⟩) ∧ Below w.heap.size w w' := by
  have hi : ∀ n, Calls Tryd.prog 24 #[.int .i64 2] (w.drewN n) fun e w'' => e = .returned (.string ⟨#[50]⟩) ∧ ∃ m, w'' = w.drewN m := fun n => (itoa_num (s := ⟨#[50]⟩) 2 (by decide) (by simp [Lib.decDigits]) (w.drewN n)).mono fun e w' ⟨h, h'⟩ => ⟨h, n, h'⟩
  have hv : ∀ n, (convert 37 9 (.slice (some ⟨g, 0, none⟩) 2 c)).run Tryd.prog (w.drewN n) = .ok (.string ⟨#[97, 98]⟩) (w.drewN n) := fun n => by
    refine run_convert_bytes_arg (w.drewN n) 37 5 Tryd.underlying37 Tryd.underlying5 g 0 2 c [97, 98] rfl (fun i hi => ?_) 9 Tryd.underlying9
    show w.cell? _ = _
    match i, hi with
    | 0, _ => exact h0
    | 1, _ => exact h1
  go_enter Tryd.func19, Tryd.ntmps19
  go_wp2
  go_quiet (exact hi _)
  go_wp2
  go_ret
  exact ⟨rfl, below_drewN _ _⟩
theorem kconst (w : World) (C : Array Value) (n c g : Nat) (hg : g = w.heap.size) :
    (convert 37 37 (.slice (some ⟨g, 0, none⟩) n c)).run Tryd.prog (w.alloc (.cells C 5)) = .ok (.slice (some ⟨g, 0, none⟩) n c) (w.alloc (.cells C 5 (C.size, C.size + 1))) := by
  subst hg; exact Lib.run_convert_bytes_const w 37 5 C n c Tryd.underlying37 Tryd.underlying5
end Go.Proofs.YtghaknienffmjaaDoor
