/-
  DERIVED. GIVEN WITH THE SEED: THE CARDS: each row of YteojlnbonhipbaaDoorRows.lean that lists a variable, with what it lists TIED to the program's text (the seventh form; the later family's looks); each row that meets fmt, with fmt's text TOLD by the authors' own Lean function (tested against real Go, not proved from fmt's source: count such statements apart). THE CARD IS WHAT COUNTS. Prove the row's statement (the work); the ties are given (YteojlnbonhipbaaDoorTie.lean); close each card by the builder's one call (the guide's Derived/Test/ToyasCard.lean, 'card_holds'). Laid BY PROGRAM, IN A SANDBOX (cutbox-door.mjs). By AI agents, Wed Nov 11 2026. No macro, syntax, notation, axiom, sorry.
-/
import Derived.Test.YteojlnbonhipbaaDoorRows
import GoSem.ClaimSeven
namespace Go.Proofs.YteojlnbonhipbaaDoor
namespace Rows

/-- THE TIED CARD OF 'pawllaw10.ChainSteps'. -/
def chainStepsCard : Claim7 := { stood := { row := chainStepsRow, standIns := [], harness := (true, "60b2c7bc6e07709ad3017c4fb3246bc28dbc203dbadfeffa134b118e89b7f5cf"), looks := false }, kinds := [], alts := [], laidByText := true, laidKinds := [.data], laidTests := true, laidLooks := .later }
def ChainStepsCardSaid : Prop := Claim7.holds Tryd.pinned (.plain (OpenSpec.ofChange chainStepsSpec)) chainStepsCard

/-- THE TIED CARD OF 'pawllaw10.ChainAhead'. -/
def chainAheadCard : Claim7 := { stood := { row := chainAheadRow, standIns := [], harness := (true, "60b2c7bc6e07709ad3017c4fb3246bc28dbc203dbadfeffa134b118e89b7f5cf"), looks := false }, kinds := [], alts := [], laidByText := true, laidKinds := [.data], laidTests := true, laidLooks := .later }
def ChainAheadCardSaid : Prop := Claim7.holds Tryd.pinned (.plain (OpenSpec.ofChange chainAheadSpec)) chainAheadCard

/-- THE TIED CARD OF 'pawllaw10.ChainStores'. -/
def chainStoresCard : Claim7 := { stood := { row := chainStoresRow, standIns := [], harness := (true, "60b2c7bc6e07709ad3017c4fb3246bc28dbc203dbadfeffa134b118e89b7f5cf"), looks := false }, kinds := [], alts := [], laidByText := true, laidKinds := [.data], laidTests := true, laidLooks := .later }
def ChainStoresCardSaid : Prop := Claim7.holds Tryd.pinned (.plain (OpenSpec.ofChange chainStoresSpec)) chainStoresCard

/-- THE TIED CARD OF 'pawllaw10.ChainNil'. -/
def chainNilCard : Claim7 := { stood := { row := chainNilRow, standIns := [], harness := (true, "60b2c7bc6e07709ad3017c4fb3246bc28dbc203dbadfeffa134b118e89b7f5cf"), looks := false }, kinds := [], alts := [], laidByText := true, laidKinds := [.data], laidTests := true, laidLooks := .later }
def ChainNilCardSaid : Prop := Claim7.holds Tryd.pinned (.plain (OpenSpec.ofChange chainNilSpec)) chainNilCard

/-- THE SECOND FORM's CARD OF 'pawllaw10.ChainSteps'. -/
def chainStepsUptoCard : Claim7 := { stood := { row := chainStepsUptoRow, standIns := [], harness := (true, "60b2c7bc6e07709ad3017c4fb3246bc28dbc203dbadfeffa134b118e89b7f5cf"), looks := false }, kinds := [], alts := [], laidByText := true, laidKinds := [.data], laidTests := true, laidLooks := .later }
def ChainStepsUptoCardSaid : Prop := Claim7.holds Tryd.pinned (.plain (OpenSpec.upto chainStepsSpec)) chainStepsUptoCard

/-- THE SECOND FORM's CARD OF 'pawllaw10.ChainAhead'. -/
def chainAheadUptoCard : Claim7 := { stood := { row := chainAheadUptoRow, standIns := [], harness := (true, "60b2c7bc6e07709ad3017c4fb3246bc28dbc203dbadfeffa134b118e89b7f5cf"), looks := false }, kinds := [], alts := [], laidByText := true, laidKinds := [.data], laidTests := true, laidLooks := .later }
def ChainAheadUptoCardSaid : Prop := Claim7.holds Tryd.pinned (.plain (OpenSpec.upto chainAheadSpec)) chainAheadUptoCard

/-- THE SECOND FORM's CARD OF 'pawllaw10.ChainStores'. -/
def chainStoresUptoCard : Claim7 := { stood := { row := chainStoresUptoRow, standIns := [], harness := (true, "60b2c7bc6e07709ad3017c4fb3246bc28dbc203dbadfeffa134b118e89b7f5cf"), looks := false }, kinds := [], alts := [], laidByText := true, laidKinds := [.data], laidTests := true, laidLooks := .later }
def ChainStoresUptoCardSaid : Prop := Claim7.holds Tryd.pinned (.plain (OpenSpec.upto chainStoresSpec)) chainStoresUptoCard

/-- THE SECOND FORM's CARD OF 'pawllaw10.ChainNil'. -/
def chainNilUptoCard : Claim7 := { stood := { row := chainNilUptoRow, standIns := [], harness := (true, "60b2c7bc6e07709ad3017c4fb3246bc28dbc203dbadfeffa134b118e89b7f5cf"), looks := false }, kinds := [], alts := [], laidByText := true, laidKinds := [.data], laidTests := true, laidLooks := .later }
def ChainNilUptoCardSaid : Prop := Claim7.holds Tryd.pinned (.plain (OpenSpec.upto chainNilSpec)) chainNilUptoCard
end Rows
end Go.Proofs.YteojlnbonhipbaaDoor
