/- What the program's fold does: what must fit; the upload that must be there. -/
import Derived.Test.YtenkpgnkkkgdmatDoorM10
import Derived.Test.YtenkpgnkkkgdmatDoorM04
namespace Go.Proofs.YtenkpgnkkkgdmatDoor
open Go.RowKit
set_option linter.unusedVariables false

/-- The variable holds an error. -/
def ErrN (w : World) : Prop := 1 < w.heap.size ∧ ∃ t v, w.cell? ⟨1, 0, none⟩ = some (.iface t v)

theorem ErrN.below {w W : World} (h : ErrN w) (hb : Below w.heap.size w W) : ErrN W := by
  obtain ⟨h1, t, v, h2⟩ := h
  exact ⟨Nat.lt_of_lt_of_le h1 hb.size, t, v, (hb.cell (p := ⟨1, 0, none⟩) h1).trans h2⟩

/-- A call gave up by a panic. -/
def Pan (e : Ending) : Prop := ∃ t v, e = .panicked [{ v := .iface t v, recovered := false }]

theorem mustFit_yes (w : World) : Calls Tryd.prog 66 #[.bool true] w fun e w' => e = .returned (.tuple #[]) ∧ w' = w := by
  go_enter Tryd.func66, Tryd.ntmps66
  go_wp2_with fail
  go_end0
  exact ⟨rfl, rfl⟩

theorem mustFit_no (w : World) (h : ErrN w) : Calls Tryd.prog 66 #[.bool false] w fun e w' => Pan e ∧ w' = w := by
  obtain ⟨_, t, v, hc⟩ := h
  go_enter Tryd.func66, Tryd.ntmps66
  go_wp2_with fail
  exact ⟨rfl, ⟨t, v, rfl⟩, rfl⟩

/-- What must fit does, or it gives up. -/
theorem mustFit_any (b : Bool) (w : World) (h : ErrN w) : Calls Tryd.prog 66 #[.bool b] w fun e w' => ((b = true ∧ e = .returned (.tuple #[])) ∨ (b = false ∧ Pan e)) ∧ w' = w := by
  cases b with
  | true => exact (mustFit_yes w).mono (fun e w' h => ⟨.inl ⟨rfl, h.1⟩, h.2⟩)
  | false => exact (mustFit_no w h).mono (fun e w' h => ⟨.inr ⟨rfl, h.1⟩, h.2⟩)

/-- The upload that must be there is told, or it gave up. -/
def ThereAns (o : Option Nat) (a : Option Addr) (e : Ending) : Prop := (∃ k g, o = some k ∧ a = some ⟨g, 0, none⟩ ∧ e = .returned (.pointer (some ⟨g, k * 4, none⟩))) ∨ (o = none ∧ Pan e)

set_option maxRecDepth 10000 in
set_option maxHeartbeats 800000 in
theorem implThere_any (fb : Nat) (a : Option Addr) (n c lo : Nat) (id : ByteArray) (l : List UE) (w : World) (hf : BoxN w fb 67 [.slice a n c]) (h : UpRow w lo (.slice a n c) l) (hn : n = l.length) (hl : n ≤ 1099511627776) (he : ErrN w) :
    Calls Tryd.prog 85 #[.pointer (some ⟨fb, 0, none⟩), .string id] w fun e w' => ThereAns (atU (l.map UE.u) id) a e ∧ Below w.heap.size w w' := by
  have HE : Hid (ErrN w) := he
  have HR : Hid (Calls Tryd.prog 83 #[.slice a n c, .string id] w fun e w' => e = .returned (.pointer (reachUO a (atU (l.map UE.u) id))) ∧ Below w.heap.size w w') := implReachU_any a n c lo id l w h hn hl
  have f0 := hf.cell 0 rfl
  cases hk : atU (l.map UE.u) id with
  | none =>
    rw [hk, reachUO_none] at HR
    clear hf h hk hn
    go_enter Tryd.func85, Tryd.ntmps85
    go_wp2_with fail
    refine HR.out.mono ?_
    rintro e w1 ⟨rfl, hb1⟩
    have HB1 : Hid (Below w.heap.size w w1) := hb1
    clear hb1
    go_wp2_with fail
    refine (mustFit_no w1 (HE.out.below HB1.out)).mono ?_
    rintro e w2 ⟨⟨t, v, rfl⟩, rfl⟩
    go_wp2_with fail
    exact ⟨rfl, .inr ⟨rfl, t, v, rfl⟩, HB1.out⟩
  | some k =>
    have hkl : k < (l.map UE.u).length := (atU_is hk).1
    obtain ⟨g, hg⟩ : ∃ g, a = some ⟨g, 0, none⟩ := by
      obtain ⟨g, hg, _⟩ := h.at hn (by simpa using hkl)
      exact ⟨g, hg⟩
    rw [hk, hg] at HR
    clear hf h hk hkl hn
    have HR2 : Hid (Calls Tryd.prog 83 #[.slice (some ⟨g, 0, none⟩) n c, .string id] w fun e w' => e = .returned (.pointer (some ⟨g, k * 4, none⟩)) ∧ Below w.heap.size w w') := HR.out
    subst hg
    clear HR
    go_enter Tryd.func85, Tryd.ntmps85
    go_wp2_with fail
    refine HR2.out.mono ?_
    rintro e w1 ⟨rfl, hb1⟩
    have HB1 : Hid (Below w.heap.size w w1) := hb1
    clear hb1
    go_wp2_with fail
    refine (mustFit_yes w1).mono ?_
    rintro e w2 ⟨rfl, rfl⟩
    go_wp2_with fail
    go_ret
    exact ⟨.inl ⟨k, g, rfl, rfl, rfl⟩, HB1.out⟩

end Go.Proofs.YtenkpgnkkkgdmatDoor
