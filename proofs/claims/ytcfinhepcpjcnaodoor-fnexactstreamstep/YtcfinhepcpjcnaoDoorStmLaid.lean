/- From what the row lists of the table to its cells: no statement of the program but its table of types. -/
import Derived.Test.YtcfinhepcpjcnaoDoorStmNum
import Derived.LaidLaws
import Derived.LaidHandle
import Derived.Lib.LaidTab
namespace Go.Proofs.YtcfinhepcpjcnaoDoor
open Go.RowKit
set_option linter.unusedVariables false

/-- An array of arrays of numbers that reads as the table holds the table's numbers, row for row. -/
theorem rows_of_tab {H : Type} {enc : TypeId × Value → H} {P : Program} {w : World} {base : Nat} {sp : Nat → Bool} {held : Bool} {fuel : Nat} {t e i : TypeId} {n m : Nat} {k : IntKind} {cs : List Value} {rows : List (List Int)} {p : List MemPlace}
    (ht : P.underlying t = some (.array n e)) (he : P.underlying e = some (.array m i)) (hi : P.underlying i = some (.int k)) (hci : P.cellsOf i = 1) (hce : P.cellsOf e = m) (hct : P.cellsOf t = n * m)
    (h : DataW.trod enc P w base sp held fuel t cs = some (.agg (rows.map (Lib.tabData k)), p)) (j : Nat) (hj : j < n) : ∃ row, rows[j]? = some row ∧ (cs.drop (j * m)).take m = row.map fun z => Value.int k z := by
  cases fuel with
  | zero => simp [DataW.trod] at h
  | succ fuel =>
    simp only [DataW.trod, ht, hce, hct] at h
    split at h
    · obtain ⟨xs, hm, hx⟩ := Option.map_eq_some_iff.1 h
      have hxs : xs.map (·.1) = rows.map (Lib.tabData k) := by
        have := congrArg Prod.fst hx
        simpa using this
      obtain ⟨b, hb, hf⟩ := Lib.mapM_at hm j j (by simp [hj])
      have h2 : (xs.map (·.1))[j]? = some b.1 := by simp [hb]
      rw [hxs, List.getElem?_map, Option.map_eq_some_iff] at h2
      obtain ⟨row, hr, hb1⟩ := h2
      obtain ⟨b1, b2⟩ := b
      dsimp only at hb1
      subst hb1
      exact ⟨row, hr, Lib.cells_of_tab he hi hci hce hf⟩
    · cases h

theorem stmG : Tryd.prog.globalNamed "loop.example/g00199/impl.streamSteps" = some 0 := by kernel_rfl
theorem stmGT : (Tryd.prog.globals[0]?).map (·.type) = some 69 := by kernel_rfl
theorem stmCellsT : Tryd.prog.cellsOf 69 = 5 * 11 := by kernel_rfl
theorem stmCellsE : Tryd.prog.cellsOf 68 = 11 := by kernel_rfl
theorem stmCellsI : Tryd.prog.cellsOf 3 = 1 := by kernel_rfl

theorem stmT_of_laid {W : World} {rest : List (String × DataW Unit)} (h : laidMet Tryd.prog (("loop.example/g00199/impl.streamSteps", .agg (stmTab.map (Lib.tabData .i64))) :: rest) W) : StmT W := by
  obtain ⟨ps, ⟨g', t', cs, fuel, p, q, hg', ht', hvar, hd, _, _⟩, _⟩ := h
  obtain rfl := Option.some.inj (stmG.symm.trans hg')
  obtain rfl := Option.some.inj (stmGT.symm.trans ht')
  intro j i hj hi
  obtain ⟨row, hr, hc⟩ := rows_of_tab Tryd.underlying69 Tryd.underlying68 Tryd.underlying3 stmCellsI stmCellsE stmCellsT hd j hj
  have hcell := World.var?_cell stmG hvar (j * 11 + i)
  rw [hcell]
  have h1 := congrArg (·[i]?) hc
  simp only [List.getElem?_take, List.getElem?_drop, List.getElem?_map, if_pos hi] at h1
  have hlen : ∀ r ∈ stmTab, r.length = 11 := by decide
  have hrl := hlen row (List.mem_of_getElem? hr)
  have h2 : row[i]? = some (stmCell j i) := by
    unfold stmCell
    rw [List.getD_eq_getElem?_getD (l := stmTab), hr, Option.getD_some, List.getD_eq_getElem?_getD, List.getElem?_eq_getElem (by omega)]
    rfl
  rw [h2] at h1
  simpa using h1

end Go.Proofs.YtcfinhepcpjcnaoDoor
