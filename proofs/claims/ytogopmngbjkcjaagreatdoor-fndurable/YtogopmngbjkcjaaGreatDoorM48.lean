/- From what the row lists of the program's table of kinds to its cells: no statement of the program but its table of types. From what the row lists of the program's error to the cell that holds it. -/
import Derived.Test.YtogopmngbjkcjaaGreatDoorM36
import Derived.LaidLaws
import Derived.LaidHandle
import Derived.Lib.LaidTab
import Derived.Lib.SmallJoins
import Derived.OpenShut
import Derived.ChangeOld
import Derived.Test.YtogopmngbjkcjaaGreatDoorM32
import Derived.FnData
namespace Go.Proofs.YtogopmngbjkcjaaGreatDoor
open Go.RowKit Go.ChangeShapes Go.WideShapes
set_option linter.unusedVariables false

/-- A row of the table, as it is read. -/
def rcD {H : Type} (k : Nat) : DataW H := .agg [.lit (.int .i64 (rMost k)), .lit (.int .i64 (rLo k)), .lit (.int .i64 (rHi k))]

/-- The table, as it is read. -/
def rcTabD {H : Type} : DataW H := .agg ((List.range 5).map rcD)

theorem rcInt_of {H : Type} {enc : TypeId × Value → H} {w : World} {base fuel : Nat} {sp : Nat → Bool} {held : Bool} {x : Value} {n : Int} {p : List MemPlace}
    (h : DataW.trod enc Tryz.prog w base sp held fuel 3 [x] = some (.lit (.int .i64 n), p)) : x = .int .i64 n := by
  obtain ⟨z, e1, e2, _⟩ := DataW.trod_int Tryz.underlying3 h
  simp only [Prod.mk.injEq, DataW.lit.injEq, Lit.int.injEq] at e2
  rw [e2.1.2]
  simpa using e1

theorem rcCellsE : Tryz.prog.cellsOf 125 = 3 := by kernel_rfl
theorem rcCellsI : Tryz.prog.cellsOf 3 = 1 := by kernel_rfl
theorem rcCellsT : Tryz.prog.cellsOf 126 = 15 := by kernel_rfl

theorem rcThree {l : List Value} (h : l.length = 3) : ∃ a b c, l = [a, b, c] := by
  rcases l with _ | ⟨a, _ | ⟨b, _ | ⟨c, _ | ⟨d, r⟩⟩⟩⟩
  · cases h
  · cases h
  · cases h
  · exact ⟨a, b, c, rfl⟩
  · exact absurd h (by simp)

theorem rcRow_of {H : Type} {enc : TypeId × Value → H} {w : World} {base fuel : Nat} {sp : Nat → Bool} {held : Bool} {cs : List Value} {k : Nat} {p : List MemPlace}
    (h : DataW.trod enc Tryz.prog w base sp held fuel 125 cs = some (rcD k, p)) : cs = [.int .i64 (rMost k), .int .i64 (rLo k), .int .i64 (rHi k)] := by
  cases fuel with
  | zero => simp [DataW.trod] at h
  | succ fuel =>
    simp only [DataW.trod, Tryz.underlying125, rcCellsE] at h
    split at h
    · rename_i hl
      obtain ⟨a, b, c, rfl⟩ := rcThree hl
      simp [rcCellsI, rcD, Option.bind_eq_some_iff] at h
      obtain ⟨r1, p1, h1, l, ⟨r2, p2, h2, l2, ⟨r3, p3, h3, rfl⟩, rfl⟩, ⟨e1, e2⟩, _⟩ := h
      simp at e2
      obtain ⟨e2, e3⟩ := e2
      subst e1 e2 e3
      rw [rcInt_of h1, rcInt_of h2, rcInt_of h3]
    · cases h

theorem rcG : Tryz.prog.globalNamed "loop.example/g00199/impl.recForms" = some 0 := by kernel_rfl
theorem rcGT : (Tryz.prog.globals[0]?).map (·.type) = some 126 := by kernel_rfl

theorem recT_of_laid {W : World} {rest : List (String × DataW Unit)} (h : laidMet Tryz.prog (("loop.example/g00199/impl.recForms", rcTabD) :: rest) W) : RecT W := by
  obtain ⟨ps, ⟨g', t', cs, fuel, p, q, hg', ht', hvar, hd, _, _⟩, _⟩ := h
  obtain rfl := Option.some.inj (rcG.symm.trans hg')
  obtain rfl := Option.some.inj (rcGT.symm.trans ht')
  have hcell := fun i => World.var?_cell rcG hvar i
  have hrow : ∀ k, k < 5 → (cs.toList.drop (k * 3)).take 3 = [.int .i64 (rMost k), .int .i64 (rLo k), .int .i64 (rHi k)] := by
    intro k hk
    cases fuel with
    | zero => simp [DataW.trod] at hd
    | succ fuel =>
      simp only [DataW.trod, Tryz.underlying126, rcCellsE, rcCellsT] at hd
      split at hd
      · obtain ⟨xs, hm, hx⟩ := Option.map_eq_some_iff.1 hd
        have hxs : xs.map (·.1) = (List.range 5).map rcD := by
          have := congrArg Prod.fst hx
          simpa [rcTabD] using this
        obtain ⟨b, hb, hf⟩ := Lib.mapM_at hm k k (by simp [hk])
        have h2 : (xs.map (·.1))[k]? = some b.1 := by simp [hb]
        rw [hxs, List.getElem?_map, List.getElem?_range hk] at h2
        simp only [Option.map_some, Option.some.injEq] at h2
        obtain ⟨b1, b2⟩ := b
        dsimp only at h2
        subst h2
        exact rcRow_of hf
      · cases hd
  refine ⟨?_, fun k hk => ?_⟩
  · have h0 := hrow 0 (by omega)
    have := hcell 0
    have h1 : cs[0]? = some (.int .i64 (rMost 0)) := by
      have := congrArg (·[0]?) h0
      simpa using this
    rw [h1] at this
    exact lt_of_cell this
  · have h0 := hrow k (by omega)
    rw [hcell, hcell, hcell]
    have h1 := congrArg (·[0]?) h0
    have h2 := congrArg (·[1]?) h0
    have h3 := congrArg (·[2]?) h0
    simp only [List.getElem?_take, List.getElem?_drop] at h1 h2 h3
    simp at h1 h2 h3
    exact ⟨h1, h2, h3⟩

end Go.Proofs.YtogopmngbjkcjaaGreatDoor

namespace Go.Proofs.YtogopmngbjkcjaaGreatDoor
open Go.RowKit
set_option linter.unusedVariables false

theorem errG : Tryz.prog.globalNamed "loop.example/g00199/impl.errNoFit" = some 1 := by kernel_rfl

theorem errN_of_var {W : World} (h : ∃ t p, W.var? Tryz.prog "loop.example/g00199/impl.errNoFit" = some #[.iface t p]) : ErrN W := by
  obtain ⟨t, p, h⟩ := h
  have c := World.var?_cell errG h 0
  have c' : W.cell? ⟨1, 0, none⟩ = some (.iface t p) := by rw [c]; rfl
  refine ⟨?_, t, p, c'⟩
  rw [World.var?, errG] at h
  cases hg : W.heap[(1 : Nat)]? with
  | none => simp [hg] at h
  | some o => exact (Array.getElem?_eq_some_iff.1 hg).1

end Go.Proofs.YtogopmngbjkcjaaGreatDoor
