/- Reading a table: how many terms, one of them. -/
import Derived.Test.YteojlnbonhipbaaDoorMf
namespace Go.Proofs.YteojlnbonhipbaaDoor
open Go.RowKit Go.Maps
set_option maxHeartbeats 400000 in
theorem len_any {w : World} {B tb : Nat} {tv mv : Value} {E : List En} (h : Tab w B tb tv mv E) : Calls Tryd.prog 60 #[.pointer (some ⟨tb, 0, none⟩)] w fun e w' => e = .returned (.int .i64 E.length) ∧ w' = w := by
  obtain ⟨ao, c, rfl⟩ := own_slice h.own
  have t0 : w.cell? ⟨tb, 0, none⟩ = some (.slice ao E.length c) := by rw [cell_of_row _ _ _ _ _ _ h.row]; rfl
  go_enter Tryd.func60, Tryd.ntmps60
  go_wp2
  go_ret
  exact ⟨rfl, rfl⟩
end Go.Proofs.YteojlnbonhipbaaDoor
