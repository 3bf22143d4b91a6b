/- From what the row lists of the program's table of methods to its cells: no statement of the program but its table of types. -/
import Derived.Test.YtlalebaaabdihagDoorReqTabI
import Derived.LaidLaws
import Derived.LaidHandle
import Derived.Lib.LaidTab
import Derived.Lib.SmallJoins
import Derived.OpenShut
import Derived.ChangeOld
namespace Go.Proofs.YtlalebaaabdihagDoor
open Go.RowKit Go.ChangeShapes Go.WideShapes
set_option linter.unusedVariables false

/-- A row of the table, as it is read. -/
def rowD {H : Type} (k : Nat) : DataW H := .agg [.lit (.string (methT (k : Int)).data.toList), .lit (.string (nameT (k : Int)).data.toList), .lit (.int .i64 (mostT k))]

/-- The table, as it is read. -/
def methD {H : Type} : DataW H := .agg ((List.range 7).map rowD)

theorem str_of {H : Type} {enc : TypeId × Value → H} {w : World} {base fuel : Nat} {sp : Nat → Bool} {held : Bool} {x : Value} {m : ByteArray} {p : List MemPlace}
    (h : DataW.trod enc Tryd.prog w base sp held fuel 9 [x] = some (.lit (.string m.data.toList), p)) : x = .string m := by
  obtain ⟨s, e1, e2, _⟩ := DataW.trod_string Tryd.underlying9 h
  simp only [Prod.mk.injEq, DataW.lit.injEq, Lit.string.injEq] at e2
  have : s.data = m.data := Array.ext' e2.1.symm
  cases s
  cases m
  simp only at this
  subst this
  simpa using e1

theorem int_of {H : Type} {enc : TypeId × Value → H} {w : World} {base fuel : Nat} {sp : Nat → Bool} {held : Bool} {x : Value} {n : Int} {p : List MemPlace}
    (h : DataW.trod enc Tryd.prog w base sp held fuel 3 [x] = some (.lit (.int .i64 n), p)) : x = .int .i64 n := by
  obtain ⟨z, e1, e2, _⟩ := DataW.trod_int Tryd.underlying3 h
  simp only [Prod.mk.injEq, DataW.lit.injEq, Lit.int.injEq] at e2
  rw [e2.1.2]
  simpa using e1

theorem methCellsE : Tryd.prog.cellsOf 52 = 3 := by kernel_rfl
theorem methCellsS : Tryd.prog.cellsOf 9 = 1 := by kernel_rfl
theorem methCellsI : Tryd.prog.cellsOf 3 = 1 := by kernel_rfl
theorem methCellsT : Tryd.prog.cellsOf 53 = 21 := by kernel_rfl

theorem three_of {l : List Value} (h : l.length = 3) : ∃ a b c, l = [a, b, c] := by
  rcases l with _ | ⟨a, _ | ⟨b, _ | ⟨c, _ | ⟨d, r⟩⟩⟩⟩
  · cases h
  · cases h
  · cases h
  · exact ⟨a, b, c, rfl⟩
  · exact absurd h (by simp)

theorem row_of {H : Type} {enc : TypeId × Value → H} {w : World} {base fuel : Nat} {sp : Nat → Bool} {held : Bool} {cs : List Value} {k : Nat} {p : List MemPlace}
    (h : DataW.trod enc Tryd.prog w base sp held fuel 52 cs = some (rowD k, p)) : cs = [.string (methT (k : Int)), .string (nameT (k : Int)), .int .i64 (mostT k)] := by
  cases fuel with
  | zero => simp [DataW.trod] at h
  | succ fuel =>
    simp only [DataW.trod, Tryd.underlying52, methCellsE] at h
    split at h
    · rename_i hl
      obtain ⟨a, b, c, rfl⟩ := three_of hl
      simp [methCellsS, methCellsI, rowD, Option.bind_eq_some_iff] at h
      obtain ⟨r1, p1, h1, l, ⟨r2, p2, h2, l2, ⟨r3, p3, h3, rfl⟩, rfl⟩, ⟨e1, e2⟩, _⟩ := h
      simp at e2
      obtain ⟨e2, e3⟩ := e2
      subst e1 e2 e3
      rw [str_of h1, str_of h2, int_of h3]
    · cases h

theorem methG : Tryd.prog.globalNamed "loop.example/g00199/impl.methods" = some 0 := by kernel_rfl
theorem methGT : (Tryd.prog.globals[0]?).map (·.type) = some 53 := by kernel_rfl

theorem methT_of_laid {W : World} {rest : List (String × DataW Unit)} (h : laidMet Tryd.prog (("loop.example/g00199/impl.methods", methD) :: rest) W) : MethT W := by
  obtain ⟨ps, ⟨g', t', cs, fuel, p, q, hg', ht', hvar, hd, _, _⟩, _⟩ := h
  obtain rfl := Option.some.inj (methG.symm.trans hg')
  obtain rfl := Option.some.inj (methGT.symm.trans ht')
  have hcell := fun i => World.var?_cell methG hvar i
  have hrow : ∀ k, k < 7 → (cs.toList.drop (k * 3)).take 3 = [.string (methT (k : Int)), .string (nameT (k : Int)), .int .i64 (mostT k)] := by
    intro k hk
    cases fuel with
    | zero => simp [DataW.trod] at hd
    | succ fuel =>
      simp only [DataW.trod, Tryd.underlying53, methCellsE, methCellsT] at hd
      split at hd
      · obtain ⟨xs, hm, hx⟩ := Option.map_eq_some_iff.1 hd
        have hxs : xs.map (·.1) = (List.range 7).map rowD := by
          have := congrArg Prod.fst hx
          simpa [methD] using this
        obtain ⟨b, hb, hf⟩ := Lib.mapM_at hm k k (by simp [hk])
        have h2 : (xs.map (·.1))[k]? = some b.1 := by simp [hb]
        rw [hxs, List.getElem?_map, List.getElem?_range hk] at h2
        simp only [Option.map_some, Option.some.injEq] at h2
        obtain ⟨b1, b2⟩ := b
        dsimp only at h2
        subst h2
        exact row_of hf
      · cases hd
  refine ⟨?_, fun k hk => ?_⟩
  · have h0 := hrow 0 (by omega)
    have := hcell 0
    have h1 : cs[0]? = some (.string (methT 0)) := by
      have := congrArg (·[0]?) h0
      simpa using this
    rw [h1] at this
    exact lt_of_cell this
  · have h0 := hrow k (by omega)
    rw [hcell, hcell, hcell]
    have h1 := congrArg (·[0]?) h0
    have h2 := congrArg (·[1]?) h0
    have h3 := congrArg (·[2]?) h0
    simp only [List.getElem?_take, List.getElem?_drop] at h1 h2 h3
    simp at h1 h2 h3
    exact ⟨h1, h2, h3⟩

end Go.Proofs.YtlalebaaabdihagDoor
