/- From what the row lists of the program's table of kinds to its cells: no statement of the program but its table of types. From what the row lists of the program's error to the cell that holds it. How great the uploads of a store that was handed in are. How great what a function of the store answers may be; no program in it. -/
import Derived.Test.YtenkpgnkkkgdmauGreatDoorM19
import Derived.LaidLaws
import Derived.LaidHandle
import Derived.Lib.LaidTab
import Derived.Lib.SmallJoins
import Derived.OpenShut
import Derived.ChangeOld
import Derived.Test.YtenkpgnkkkgdmauGreatDoorM09
import Derived.FnData
import Derived.Test.YtenkpgnkkkgdmauGreatDoorM06
import Derived.Test.YtenkpgnkkkgdmauGreatDoorM25
import Derived.Test.YtenkpgnkkkgdmauGreatDoorM16
namespace Go.Proofs.YtenkpgnkkkgdmauGreatDoor
open Go.RowKit Go.ChangeShapes Go.WideShapes
set_option linter.unusedVariables false

/-- A row of the table, as it is read. -/
def rcD {H : Type} (k : Nat) : DataW H := .agg [.lit (.int .i64 (rMost k)), .lit (.int .i64 (rLo k)), .lit (.int .i64 (rHi k))]

/-- The table, as it is read. -/
def rcTabD {H : Type} : DataW H := .agg ((List.range 5).map rcD)

theorem rcInt_of {H : Type} {enc : TypeId × Value → H} {w : World} {base fuel : Nat} {sp : Nat → Bool} {held : Bool} {x : Value} {n : Int} {p : List MemPlace}
    (h : DataW.trod enc Tryz.prog w base sp held fuel 3 [x] = some (.lit (.int .i64 n), p)) : x = .int .i64 n := by
  obtain ⟨z, e1, e2, _⟩ := DataW.trod_int Tryz.underlying3 h
  simp only [Prod.mk.injEq, DataW.lit.injEq, Lit.int.injEq] at e2
  rw [e2.1.2]
  simpa using e1

theorem rcCellsE : Tryz.prog.cellsOf 117 = 3 := by kernel_rfl
theorem rcCellsI : Tryz.prog.cellsOf 3 = 1 := by kernel_rfl
theorem rcCellsT : Tryz.prog.cellsOf 118 = 15 := by kernel_rfl

theorem rcThree {l : List Value} (h : l.length = 3) : ∃ a b c, l = [a, b, c] := by
  rcases l with _ | ⟨a, _ | ⟨b, _ | ⟨c, _ | ⟨d, r⟩⟩⟩⟩
  · cases h
  · cases h
  · cases h
  · exact ⟨a, b, c, rfl⟩
  · exact absurd h (by simp)

theorem rcRow_of {H : Type} {enc : TypeId × Value → H} {w : World} {base fuel : Nat} {sp : Nat → Bool} {held : Bool} {cs : List Value} {k : Nat} {p : List MemPlace}
    (h : DataW.trod enc Tryz.prog w base sp held fuel 117 cs = some (rcD k, p)) : cs = [.int .i64 (rMost k), .int .i64 (rLo k), .int .i64 (rHi k)] := by
  cases fuel with
  | zero => simp [DataW.trod] at h
  | succ fuel =>
    simp only [DataW.trod, Tryz.underlying117, rcCellsE] at h
    split at h
    · rename_i hl
      obtain ⟨a, b, c, rfl⟩ := rcThree hl
      simp [rcCellsI, rcD, Option.bind_eq_some_iff] at h
      obtain ⟨r1, p1, h1, l, ⟨r2, p2, h2, l2, ⟨r3, p3, h3, rfl⟩, rfl⟩, ⟨e1, e2⟩, _⟩ := h
      simp at e2
      obtain ⟨e2, e3⟩ := e2
      subst e1 e2 e3
      rw [rcInt_of h1, rcInt_of h2, rcInt_of h3]
    · cases h

theorem rcG : Tryz.prog.globalNamed "loop.example/g00199/impl.recForms" = some 0 := by kernel_rfl
theorem rcGT : (Tryz.prog.globals[0]?).map (·.type) = some 118 := by kernel_rfl

theorem recT_of_laid {W : World} {rest : List (String × DataW Unit)} (h : laidMet Tryz.prog (("loop.example/g00199/impl.recForms", rcTabD) :: rest) W) : RecT W := by
  obtain ⟨ps, ⟨g', t', cs, fuel, p, q, hg', ht', hvar, hd, _, _⟩, _⟩ := h
  obtain rfl := Option.some.inj (rcG.symm.trans hg')
  obtain rfl := Option.some.inj (rcGT.symm.trans ht')
  have hcell := fun i => World.var?_cell rcG hvar i
  have hrow : ∀ k, k < 5 → (cs.toList.drop (k * 3)).take 3 = [.int .i64 (rMost k), .int .i64 (rLo k), .int .i64 (rHi k)] := by
    intro k hk
    cases fuel with
    | zero => simp [DataW.trod] at hd
    | succ fuel =>
      simp only [DataW.trod, Tryz.underlying118, rcCellsE, rcCellsT] at hd
      split at hd
      · obtain ⟨xs, hm, hx⟩ := Option.map_eq_some_iff.1 hd
        have hxs : xs.map (·.1) = (List.range 5).map rcD := by
          have := congrArg Prod.fst hx
          simpa [rcTabD] using this
        obtain ⟨b, hb, hf⟩ := Lib.mapM_at hm k k (by simp [hk])
        have h2 : (xs.map (·.1))[k]? = some b.1 := by simp [hb]
        rw [hxs, List.getElem?_map, List.getElem?_range hk] at h2
        simp only [Option.map_some, Option.some.injEq] at h2
        obtain ⟨b1, b2⟩ := b
        dsimp only at h2
        subst h2
        exact rcRow_of hf
      · cases hd
  refine ⟨?_, fun k hk => ?_⟩
  · have h0 := hrow 0 (by omega)
    have := hcell 0
    have h1 : cs[0]? = some (.int .i64 (rMost 0)) := by
      have := congrArg (·[0]?) h0
      simpa using this
    rw [h1] at this
    exact lt_of_cell this
  · have h0 := hrow k (by omega)
    rw [hcell, hcell, hcell]
    have h1 := congrArg (·[0]?) h0
    have h2 := congrArg (·[1]?) h0
    have h3 := congrArg (·[2]?) h0
    simp only [List.getElem?_take, List.getElem?_drop] at h1 h2 h3
    simp at h1 h2 h3
    exact ⟨h1, h2, h3⟩

end Go.Proofs.YtenkpgnkkkgdmauGreatDoor

namespace Go.Proofs.YtenkpgnkkkgdmauGreatDoor
open Go.RowKit
set_option linter.unusedVariables false

theorem errG : Tryz.prog.globalNamed "loop.example/g00199/impl.errNoFit" = some 1 := by kernel_rfl

theorem errN_of_var {W : World} (h : ∃ t p, W.var? Tryz.prog "loop.example/g00199/impl.errNoFit" = some #[.iface t p]) : ErrN W := by
  obtain ⟨t, p, h⟩ := h
  have c := World.var?_cell errG h 0
  have c' : W.cell? ⟨1, 0, none⟩ = some (.iface t p) := by rw [c]; rfl
  refine ⟨?_, t, p, c'⟩
  rw [World.var?, errG] at h
  cases hg : W.heap[(1 : Nat)]? with
  | none => simp [hg] at h
  | some o => exact (Array.getElem?_eq_some_iff.1 hg).1

end Go.Proofs.YtenkpgnkkkgdmauGreatDoor

namespace Go.Proofs.YtenkpgnkkkgdmauGreatDoor
open Go.RowKit

theorem sz_us {n n' un : Nat} {X Y : List ByteArray} {l : List UE} {w : World} {ua : Option Addr} (h : SzS n X n' Y un l) (hu : UpsI w ua un l) : ∀ u ∈ l.map UE.u, u.zs.length ≤ 1048576 := by
  intro u hm
  obtain ⟨e, he, rfl⟩ := List.mem_map.1 hm
  have h1 := (h.2.2.2.2.2 e he).2
  have h2 := (hu.2.1 e he).2.2.1
  omega

end Go.Proofs.YtenkpgnkkkgdmauGreatDoor

namespace Go.Proofs.YtenkpgnkkkgdmauGreatDoor
open Go.RowKit
set_option linter.unusedVariables false

/-- An answer is no greater than this. -/
def WA.small (a : WA) : Prop := a.X.length ≤ 1048576 ∧ a.us.length ≤ 1048576 ∧ ∀ u ∈ a.us, u.zs.length ≤ 1048576

theorem makeA_sz {X Y : List ByteArray} {ep nx : Int} {us : List U} {id : ByteArray} {want : Int} (h1 : X.length ≤ 1048576) (h2 : us.length ≤ 1048576) (h3 : ∀ u ∈ us, u.zs.length ≤ 1048576) : (makeA X Y ep nx us id want).small := by
  by_cases h : (makeA X Y ep nx us id want).c = 0
  · obtain ⟨hso, _, _, us', hf, hm⟩ := makeA_yes h
    rw [hm]
    refine ⟨by show (wroteX _ _ _ _).length ≤ _; rw [wroteX_len]; exact h1, ?_, ?_⟩
    · have := foldlM_len hso.few hf
      show us'.length ≤ _
      omega
    · rw [List.foldlM_cons] at hf
      cases ho : oneU us (makeR id want) with
      | none => rw [ho] at hf; cases hf
      | some u1 =>
        rw [ho] at hf
        obtain rfl : u1 = us' := by simpa using hf
        intro u hu
        have := oneU_zs ho h3 u hu
        simpa [makeR] using this
  · rw [makeA_no h]
    exact ⟨h1, h2, h3⟩

theorem dropA_sz {X Y : List ByteArray} {ep nx : Int} {us : List U} {id : ByteArray} (h1 : X.length ≤ 1048576) (h2 : us.length ≤ 1048576) (h3 : ∀ u ∈ us, u.zs.length ≤ 1048576) : (dropA X Y ep nx us id).small := by
  by_cases h : (dropA X Y ep nx us id).c = 0
  · obtain ⟨hso, _, _, us', hf, hm⟩ := dropA_yes h
    rw [hm]
    refine ⟨by show (wroteX _ _ _ _).length ≤ _; rw [wroteX_len]; exact h1, ?_, ?_⟩
    · have := foldlM_len hso.few hf
      show us'.length ≤ _
      omega
    · rw [List.foldlM_cons] at hf
      cases ho : oneU us (dropR id) with
      | none => rw [ho] at hf; cases hf
      | some u1 =>
        rw [ho] at hf
        obtain rfl : u1 = us' := by simpa using hf
        intro u hu
        have := oneU_zs ho h3 u hu
        simpa [dropR] using this
  · rw [dropA_no h]
    exact ⟨h1, h2, h3⟩

end Go.Proofs.YtenkpgnkkkgdmauGreatDoor
