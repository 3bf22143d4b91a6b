/- A server in a variable of the law's: where the rows of its store lie. No statement of the program but its table of types. -/
import Derived.Test.YtogopmngbjkcjauStoMk
namespace Go.Proofs.Ytogopmngbjkcjau
open Go.RowKit
set_option linter.unusedVariables false

/-- A variable that holds a server; hv: what waits. -/
structure VAt (W : World) (lo b : Nat) (a : Option Addr) (n ca : Nat) (X : List ByteArray) (a' : Option Addr) (n' ca' : Nat) (Y : List ByteArray) (ep nx : Int) (ua : Option Addr) (un uc : Nat) (l : List UE) (hv : Value) : Prop where
  box : BoxN W b 46 [.slice a n ca, .slice a' n' ca', .int .i64 ep, .int .i64 nx, .slice ua un uc, hv]
  sto : StoAt W lo a n ca X a' n' ca' Y ua un uc l
  inn : StoIn a a' ua l b
  lob : lo ≤ b

section
variable {W W' : World} {lo b : Nat} {a : Option Addr} {n ca : Nat} {X : List ByteArray} {a' : Option Addr} {n' ca' : Nat} {Y : List ByteArray} {ep nx : Int} {ua : Option Addr} {un uc : Nat} {l : List UE} {hv : Value}

theorem VAt.new (h : StoAt W lo a n ca X a' n' ca' Y ua un uc l) (hl : lo ≤ W.heap.size) : VAt (W.alloc (.cells #[.slice a n ca, .slice a' n' ca', .int .i64 ep, .int .i64 nx, .slice ua un uc, hv] 46)) lo W.heap.size a n ca X a' n' ca' Y ep nx ua un uc l hv :=
  ⟨BoxN.new _ _ _, h.stays ((Below.refl _ _).alloc (Nat.le_refl _) _), h.inn, hl⟩

theorem VAt.stays (h : VAt W lo b a n ca X a' n' ca' Y ep nx ua un uc l hv) (hb : Below W.heap.size W W') : VAt W' lo b a n ca X a' n' ca' Y ep nx ua un uc l hv := ⟨h.box.stays hb, h.sto.stays hb, h.inn, h.lob⟩

theorem VAt.kept {lo2 hi2 : Nat} (h : VAt W lo b a n ca X a' n' ca' Y ep nx ua un uc l hv) (hw : Within W W' lo2 hi2) (ho : b < lo2 ∨ hi2 ≤ lo) : VAt W' lo b a n ca X a' n' ca' Y ep nx ua un uc l hv :=
  ⟨(hw.block b h.box.lt (by have := h.lob; omega)).trans h.box, h.sto.same h.inn (fun q h1 h2 h3 => hw.block q h3 (by omega)), h.inn, h.lob⟩

/-- The marks in the store of a server leave its variable as it was. -/
theorem VAt.marked {k : Nat} (h : VAt W lo b a n ca X a' n' ca' Y ep nx ua un uc l hv) (hm : StoMkd W' lo k a n ca a' n' ca' ua un uc l) (hw : Within W W' lo b) : BoxN W' b 46 [.slice a n ca, .slice a' n' ca', .int .i64 ep, .int .i64 nx, .slice ua un uc, hv] ∧ StoMkd W' lo k a n ca a' n' ca' ua un uc l :=
  ⟨(hw.block b h.box.lt (.inr (Nat.le_refl _))).trans h.box, hm⟩

end

end Go.Proofs.Ytogopmngbjkcjau
