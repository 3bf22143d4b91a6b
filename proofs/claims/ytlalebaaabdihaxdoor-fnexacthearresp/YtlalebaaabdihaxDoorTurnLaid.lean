/- From what the row lists of the program's table of steps to its cells: no statement of the program but its table of types. -/
import Derived.Test.YtlalebaaabdihaxDoorTurnT
import Derived.LaidLaws
import Derived.LaidHandle
import Derived.Lib.LaidTab
import Derived.Lib.SmallJoins
import Derived.OpenShut
import Derived.ChangeOld
namespace Go.Proofs.YtlalebaaabdihaxDoor
open Go.RowKit Go.ChangeShapes Go.WideShapes
set_option linter.unusedVariables false

/-- A row of the table, as it is read. -/
def trD {H : Type} (k : Nat) : DataW H := .agg [.lit (.int .i64 (turnA k)), .lit (.int .i64 (turnB k)), .lit (.int .i64 (turnC k))]

/-- The table, as it is read. -/
def trTabD {H : Type} : DataW H := .agg ((List.range 13).map trD)

theorem trInt_of {H : Type} {enc : TypeId × Value → H} {w : World} {base fuel : Nat} {sp : Nat → Bool} {held : Bool} {x : Value} {n : Int} {p : List MemPlace}
    (h : DataW.trod enc Tryd.prog w base sp held fuel 3 [x] = some (.lit (.int .i64 n), p)) : x = .int .i64 n := by
  obtain ⟨z, e1, e2, _⟩ := DataW.trod_int Tryd.underlying3 h
  simp only [Prod.mk.injEq, DataW.lit.injEq, Lit.int.injEq] at e2
  rw [e2.1.2]
  simpa using e1

theorem trCellsE : Tryd.prog.cellsOf 47 = 3 := by kernel_rfl
theorem trCellsI : Tryd.prog.cellsOf 3 = 1 := by kernel_rfl
theorem trCellsT : Tryd.prog.cellsOf 48 = 39 := by kernel_rfl

theorem trThree {l : List Value} (h : l.length = 3) : ∃ a b c, l = [a, b, c] := by
  rcases l with _ | ⟨a, _ | ⟨b, _ | ⟨c, _ | ⟨d, r⟩⟩⟩⟩
  · cases h
  · cases h
  · cases h
  · exact ⟨a, b, c, rfl⟩
  · exact absurd h (by simp)

theorem trRow_of {H : Type} {enc : TypeId × Value → H} {w : World} {base fuel : Nat} {sp : Nat → Bool} {held : Bool} {cs : List Value} {k : Nat} {p : List MemPlace}
    (h : DataW.trod enc Tryd.prog w base sp held fuel 47 cs = some (trD k, p)) : cs = [.int .i64 (turnA k), .int .i64 (turnB k), .int .i64 (turnC k)] := by
  cases fuel with
  | zero => simp [DataW.trod] at h
  | succ fuel =>
    simp only [DataW.trod, Tryd.underlying47, trCellsE] at h
    split at h
    · rename_i hl
      obtain ⟨a, b, c, rfl⟩ := trThree hl
      simp [trCellsI, trD, Option.bind_eq_some_iff] at h
      obtain ⟨r1, p1, h1, l, ⟨r2, p2, h2, l2, ⟨r3, p3, h3, rfl⟩, rfl⟩, ⟨e1, e2⟩, _⟩ := h
      simp at e2
      obtain ⟨e2, e3⟩ := e2
      subst e1 e2 e3
      rw [trInt_of h1, trInt_of h2, trInt_of h3]
    · cases h

theorem trG : Tryd.prog.globalNamed "loop.example/g00199/impl.turns" = some 0 := by kernel_rfl
theorem trGT : (Tryd.prog.globals[0]?).map (·.type) = some 48 := by kernel_rfl

theorem turnT_of_laid {W : World} {rest : List (String × DataW Unit)} (h : laidMet Tryd.prog (("loop.example/g00199/impl.turns", trTabD) :: rest) W) : TurnT W := by
  obtain ⟨ps, ⟨g', t', cs, fuel, p, q, hg', ht', hvar, hd, _, _⟩, _⟩ := h
  obtain rfl := Option.some.inj (trG.symm.trans hg')
  obtain rfl := Option.some.inj (trGT.symm.trans ht')
  have hcell := fun i => World.var?_cell trG hvar i
  have hrow : ∀ k, k < 13 → (cs.toList.drop (k * 3)).take 3 = [.int .i64 (turnA k), .int .i64 (turnB k), .int .i64 (turnC k)] := by
    intro k hk
    cases fuel with
    | zero => simp [DataW.trod] at hd
    | succ fuel =>
      simp only [DataW.trod, Tryd.underlying48, trCellsE, trCellsT] at hd
      split at hd
      · obtain ⟨xs, hm, hx⟩ := Option.map_eq_some_iff.1 hd
        have hxs : xs.map (·.1) = (List.range 13).map trD := by
          have := congrArg Prod.fst hx
          simpa [trTabD] using this
        obtain ⟨b, hb, hf⟩ := Lib.mapM_at hm k k (by simp [hk])
        have h2 : (xs.map (·.1))[k]? = some b.1 := by simp [hb]
        rw [hxs, List.getElem?_map, List.getElem?_range hk] at h2
        simp only [Option.map_some, Option.some.injEq] at h2
        obtain ⟨b1, b2⟩ := b
        dsimp only at h2
        subst h2
        exact trRow_of hf
      · cases hd
  refine ⟨?_, fun k hk => ?_⟩
  · have h0 := hrow 0 (by omega)
    have := hcell 0
    have h1 : cs[0]? = some (.int .i64 (turnA 0)) := by
      have := congrArg (·[0]?) h0
      simpa using this
    rw [h1] at this
    exact lt_of_cell this
  · have h0 := hrow k (by omega)
    rw [hcell, hcell, hcell]
    have h1 := congrArg (·[0]?) h0
    have h2 := congrArg (·[1]?) h0
    have h3 := congrArg (·[2]?) h0
    simp only [List.getElem?_take, List.getElem?_drop] at h1 h2 h3
    simp at h1 h2 h3
    exact ⟨h1, h2, h3⟩

end Go.Proofs.YtlalebaaabdihaxDoor
