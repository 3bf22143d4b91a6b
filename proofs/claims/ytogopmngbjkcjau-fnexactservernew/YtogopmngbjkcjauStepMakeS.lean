/- A row of texts that is made. No program in it. -/
import Derived.Deep.RegionLaw
import Derived.Laws.MakeOwn
import Derived.Laws.OwnMore
import Derived.Below
import Derived.WalkKit
namespace Go.Proofs.Ytogopmngbjkcjau
open Go.RowKit
set_option linter.unusedVariables false

theorem run_make_str {P : Program} (t e : TypeId) (i : TypeInfo) (z : Value) (h1 : P.underlying t = some (.slice e)) (h2 : P.info? e = some i) (h3 : i.zero = some z) (h4 : i.size = 1) (h5 : i.bytes = 16) (hz : z.cells = #[z])
    (n : Nat) (b2 : n ≤ 2097152) (w : World) : (Instr.makeSlice t (.int .i64 (n : Int)) (.int .i64 (n : Int))).run P w = .ok (.slice (some ⟨w.heap.size, 0, none⟩) n n) (w.alloc (.cells (List.replicate n z).toArray e)) := by
  have hr := run_make (P := P) w t e i z h1 h2 h3 .i64 .i64 n n (by omega) (by omega) (by rw [h5]; omega) (by omega)
  simp only [Int.toNat_natCast, h4, Nat.mul_one, hz] at hr
  rw [hr]
  congr 1
  congr 1
  congr 1
  apply Array.toList_inj.1
  rw [toList_madeCells_one]

end Go.Proofs.Ytogopmngbjkcjau
