/- What the program's reach answers: where the first upload of this name lies. What the program's fold does: what must fit; the upload that must be there. -/
import Derived.Test.YtpjldfpipchmjavGreatDoorM12
import Derived.Test.YtpjldfpipchmjavGreatDoorM11
import Derived.Test.YtpjldfpipchmjavGreatDoorM03
namespace Go.Proofs.YtpjldfpipchmjavGreatDoor
open Go.RowKit
set_option linter.unusedVariables false

/-- The program's key: an upload's name. -/
theorem implKeyU_any (p : ByteArray) (q : Int) (a : Option Addr) (n c : Nat) (b : Bool) (w : World) : Calls Tryz.prog 201 #[.agg #[.string p, .int .i64 q, .slice a n c, .bool b]] w fun e w' => e = .returned (.string p) ∧ Below w.heap.size w w' := by
  have HB : Hid (Below w.heap.size w (w.alloc (.cells #[.string p, .int .i64 q, .slice a n c, .bool b] 118))) := (Below.refl _ _).alloc (Nat.le_refl _) _
  go_enter Tryz.func201, Tryz.ntmps201
  go_wp2_with fail
  go_ret
  exact ⟨rfl, HB.out⟩

/-- The method by which an upload is asked for its key. -/
theorem keyMU (p : ByteArray) (q : Int) (a : Option Addr) (n c : Nat) (b : Bool) (w : World) : Sem.run Tryz.prog (Go.method 343 118 (.agg #[.string p, .int .i64 q, .slice a n c, .bool b]) "loop.example/g00199/impl.key") w = .ok (201, .agg #[.string p, .int .i64 q, .slice a n c, .bool b]) w := by kernel_rfl

/-- The upload that is reached: its place in memory, or none. -/
def reachUO (a : Option Addr) (k : Option Nat) : Option Addr :=
  match a, k with
  | some ad, some k => some ⟨ad.block, k * 4, none⟩
  | _, _ => none

theorem reachUO_none (a : Option Addr) : reachUO a none = none := by cases a <;> rfl

set_option maxRecDepth 10000 in
set_option maxHeartbeats 800000 in
theorem implReachU_any (a : Option Addr) (n c lo : Nat) (id : ByteArray) (l : List UE) (w : World) (h : UpRow w lo (.slice a n c) l) (hn : n = l.length) (hl : n ≤ 1099511627776) :
    Calls Tryz.prog 167 #[.slice a n c, .string id] w fun e w' => e = .returned (.pointer (reachUO a (atU (l.map UE.u) id))) ∧ Below w.heap.size w w' := by
  have HR : Hid (∀ W, Below w.heap.size w W → UpRow W lo (.slice a n c) l) := fun W hb => h.stays hb
  have HN : Hid (n = l.length) := hn
  clear h hn
  go_enter Tryz.func167, Tryz.ntmps167
  go_wp2_with fail
  go_loopw [8] (fun v wr => ∃ k : Nat, k ≤ n ∧ v = .int .i64 k ∧ Hid (Below w.heap.size w wr) ∧ Hid (∀ j (hj : j < l.length), j < k → (l[j]).u.id ≠ id)) (fun v _ => n - (intOf v).toNat)
  case atStart => exact ⟨0, Nat.zero_le _, rfl, Below.refl _ _, fun j _ hj => absurd hj (Nat.not_lt_zero _)⟩
  case round =>
    obtain ⟨k, hk, rfl, HB, HJ⟩ := hrel
    by_cases hlt : k < n
    · have hkl : k < l.length := by rw [← HN.out]; exact hlt
      have hki : (k : Int) < (n : Int) := by omega
      obtain ⟨g, rfl, g0, g1, g2, g3, _⟩ := (HR.out _ HB.out).at HN.out hkl
      have he := ids_eq (l[k]).u.id id
      by_cases hid : (l[k]).u.id = id
      · rw [decide_eq_true hid] at he
        have HF : Hid (atU (l.map UE.u) id = some k) := atU_some (k := k) (by simpa using hkl) (by simpa using hid) (fun j hj hjk => by simpa using HJ.out j (by simpa using hj) hjk)
        clear hid HJ HR HN
        generalize l[k] = x at *
        have hkm := keyMU x.u.id x.u.want x.a x.n x.c x.u.done
        go_wp2_with fail
        refine (implKeyU_any x.u.id x.u.want x.a x.n x.c x.u.done _).mono ?_
        rintro e w1 ⟨rfl, hb1⟩
        have HB1 : Hid (Below w.heap.size w w1) := HB.out.trans (hb1.mono HB.out.size)
        clear hb1
        go_wp2_with fail
        go_ret
        exact ⟨by rw [HF.out]; simp [reachUO], HB1.out⟩
      · rw [decide_eq_false hid] at he
        have HJ2 : Hid (∀ j (hj : j < l.length), j < k + 1 → (l[j]).u.id ≠ id) := fun j hj hjk => by
          by_cases e : j = k
          · subst e; exact hid
          · exact HJ.out j hj (by omega)
        clear hid HJ
        generalize l[k] = x at *
        have hkm := keyMU x.u.id x.u.want x.a x.n x.c x.u.done
        go_wp2_with fail
        refine (implKeyU_any x.u.id x.u.want x.a x.n x.c x.u.done _).mono ?_
        rintro e w1 ⟨rfl, hb1⟩
        have HB1 : Hid (Below w.heap.size w w1) := HB.out.trans (hb1.mono HB.out.size)
        clear hb1
        go_wp2_with fail
        go_roundw
        case rel => exact ⟨k + 1, by omega, by go_num, HB1, HJ2⟩
        case measure => simp [intOf]; omega
    · have HF : Hid (atU (l.map UE.u) id = none) := atU_none (fun j hj => by simpa using HJ.out j (by simpa using hj) (by have := HN.out; simp at hj; omega))
      have hkl : n = k := by omega
      clear HJ HR HN
      subst hkl
      go_wp2_with fail
      go_ret
      exact ⟨by rw [HF.out, reachUO_none]; rfl, HB.out⟩

end Go.Proofs.YtpjldfpipchmjavGreatDoor

namespace Go.Proofs.YtpjldfpipchmjavGreatDoor
open Go.RowKit
set_option linter.unusedVariables false

/-- The variable holds an error. -/
def ErrN (w : World) : Prop := 3 < w.heap.size ∧ ∃ t v, w.cell? ⟨3, 0, none⟩ = some (.iface t v)

theorem ErrN.below {w W : World} (h : ErrN w) (hb : Below w.heap.size w W) : ErrN W := by
  obtain ⟨h1, t, v, h2⟩ := h
  exact ⟨Nat.lt_of_lt_of_le h1 hb.size, t, v, (hb.cell (p := ⟨3, 0, none⟩) h1).trans h2⟩

/-- A call gave up by a panic. -/
def Pan (e : Ending) : Prop := ∃ t v, e = .panicked [{ v := .iface t v, recovered := false }]

theorem mustFit_yes (w : World) : Calls Tryz.prog 159 #[.bool true] w fun e w' => e = .returned (.tuple #[]) ∧ w' = w := by
  go_enter Tryz.func159, Tryz.ntmps159
  go_wp2_with fail
  go_end0
  exact ⟨rfl, rfl⟩

theorem mustFit_no (w : World) (h : ErrN w) : Calls Tryz.prog 159 #[.bool false] w fun e w' => Pan e ∧ w' = w := by
  obtain ⟨_, t, v, hc⟩ := h
  go_enter Tryz.func159, Tryz.ntmps159
  go_wp2_with fail
  exact ⟨rfl, ⟨t, v, rfl⟩, rfl⟩

/-- What must fit does, or it gives up. -/
theorem mustFit_any (b : Bool) (w : World) (h : ErrN w) : Calls Tryz.prog 159 #[.bool b] w fun e w' => ((b = true ∧ e = .returned (.tuple #[])) ∨ (b = false ∧ Pan e)) ∧ w' = w := by
  cases b with
  | true => exact (mustFit_yes w).mono (fun e w' h => ⟨.inl ⟨rfl, h.1⟩, h.2⟩)
  | false => exact (mustFit_no w h).mono (fun e w' h => ⟨.inr ⟨rfl, h.1⟩, h.2⟩)

/-- The upload that must be there is told, or it gave up. -/
def ThereAns (o : Option Nat) (a : Option Addr) (e : Ending) : Prop := (∃ k g, o = some k ∧ a = some ⟨g, 0, none⟩ ∧ e = .returned (.pointer (some ⟨g, k * 4, none⟩))) ∨ (o = none ∧ Pan e)

set_option maxRecDepth 10000 in
set_option maxHeartbeats 800000 in
theorem implThere_any (fb : Nat) (a : Option Addr) (n c lo : Nat) (id : ByteArray) (l : List UE) (w : World) (hf : BoxN w fb 158 [.slice a n c]) (h : UpRow w lo (.slice a n c) l) (hn : n = l.length) (hl : n ≤ 1099511627776) (he : ErrN w) :
    Calls Tryz.prog 172 #[.pointer (some ⟨fb, 0, none⟩), .string id] w fun e w' => ThereAns (atU (l.map UE.u) id) a e ∧ Below w.heap.size w w' := by
  have HE : Hid (ErrN w) := he
  have HR : Hid (Calls Tryz.prog 167 #[.slice a n c, .string id] w fun e w' => e = .returned (.pointer (reachUO a (atU (l.map UE.u) id))) ∧ Below w.heap.size w w') := implReachU_any a n c lo id l w h hn hl
  have f0 := hf.cell 0 rfl
  cases hk : atU (l.map UE.u) id with
  | none =>
    rw [hk, reachUO_none] at HR
    clear hf h hk hn
    go_enter Tryz.func172, Tryz.ntmps172
    go_wp2_with fail
    refine HR.out.mono ?_
    rintro e w1 ⟨rfl, hb1⟩
    have HB1 : Hid (Below w.heap.size w w1) := hb1
    clear hb1
    go_wp2_with fail
    refine (mustFit_no w1 (HE.out.below HB1.out)).mono ?_
    rintro e w2 ⟨⟨t, v, rfl⟩, rfl⟩
    go_wp2_with fail
    exact ⟨rfl, .inr ⟨rfl, t, v, rfl⟩, HB1.out⟩
  | some k =>
    have hkl : k < (l.map UE.u).length := (atU_is hk).1
    obtain ⟨g, hg⟩ : ∃ g, a = some ⟨g, 0, none⟩ := by
      obtain ⟨g, hg, _⟩ := h.at hn (by simpa using hkl)
      exact ⟨g, hg⟩
    rw [hk, hg] at HR
    clear hf h hk hkl hn
    have HR2 : Hid (Calls Tryz.prog 167 #[.slice (some ⟨g, 0, none⟩) n c, .string id] w fun e w' => e = .returned (.pointer (some ⟨g, k * 4, none⟩)) ∧ Below w.heap.size w w') := HR.out
    subst hg
    clear HR
    go_enter Tryz.func172, Tryz.ntmps172
    go_wp2_with fail
    refine HR2.out.mono ?_
    rintro e w1 ⟨rfl, hb1⟩
    have HB1 : Hid (Below w.heap.size w w1) := hb1
    clear hb1
    go_wp2_with fail
    refine (mustFit_yes w1).mono ?_
    rintro e w2 ⟨rfl, rfl⟩
    go_wp2_with fail
    go_ret
    exact ⟨.inl ⟨k, g, rfl, rfl, rfl⟩, HB1.out⟩

end Go.Proofs.YtpjldfpipchmjavGreatDoor
