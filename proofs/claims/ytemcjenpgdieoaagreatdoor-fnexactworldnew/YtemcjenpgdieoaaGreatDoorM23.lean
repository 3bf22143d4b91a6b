/- What the specification's ServerOk answers. What the program's reach answers: where the first upload of this name lies. What the program's fold does: what must fit; the upload that must be there. -/
import Derived.Test.YtemcjenpgdieoaaGreatDoorM12
import Derived.Test.YtemcjenpgdieoaaGreatDoorM12
import Derived.Test.YtemcjenpgdieoaaGreatDoorM22
import Derived.Test.YtemcjenpgdieoaaGreatDoorM05
import Derived.Test.YtemcjenpgdieoaaGreatDoorM10
import Derived.Test.YtemcjenpgdieoaaGreatDoorM10
import Derived.Test.YtemcjenpgdieoaaGreatDoorM03
namespace Go.Proofs.YtemcjenpgdieoaaGreatDoor
open Go.RowKit
set_option linter.unusedVariables false

/-- Whether a server is right. -/
noncomputable def svB (X Y : List ByteArray) (ep nx : Int) (us : List U) (hs : List Hd) : Bool := !anyH hs && (decide ((hs.length : Int) ≤ 200) && decB (SOk X Y ep nx us))

theorem svB_any {X Y : List ByteArray} {ep nx : Int} {us : List U} {hs : List Hd} (h : anyH hs = true) : svB X Y ep nx us hs = false := by rw [svB, h]; rfl
theorem svB_many {X Y : List ByteArray} {ep nx : Int} {us : List U} {hs : List Hd} (h : ¬ (hs.length : Int) ≤ 200) : svB X Y ep nx us hs = false := by rw [svB, decide_eq_false h]; simp
theorem svB_sto {X Y : List ByteArray} {ep nx : Int} {us : List U} {hs : List Hd} (h : anyH hs = false) (h2 : (hs.length : Int) ≤ 200) : svB X Y ep nx us hs = decB (SOk X Y ep nx us) := by rw [svB, h, decide_eq_true h2]; rfl

set_option maxRecDepth 10000 in
set_option maxHeartbeats 3200000 in
theorem specSvok_any (a : Option Addr) (n ca : Nat) (X : List ByteArray) (a' : Option Addr) (n' ca' : Nat) (Y : List ByteArray) (ep nx : Int) (ua : Option Addr) (un uc lo : Nat) (l : List UE) (ha : Option Addr) (hn hc : Nat) (hs : List Hd) (w : World) (h1 : Strs w a n X) (h2 : Strs w a' n' Y) (hln : n ≤ 1048576) (hln' : n' ≤ 1048576) (hz : ∀ x ∈ X, x.size ≤ 1048576) (hu : UpRow w lo (.slice ua un uc) l) (hun : un = l.length) (hul : un ≤ 1048576) (hh : Helds w ha hn hs) (hhl : hn ≤ 1099511627776) :
    Calls Tryz.prog 43 #[.agg #[.slice a n ca, .slice a' n' ca', .int .i64 ep, .int .i64 nx, .slice ua un uc, .slice ha hn hc]] w fun e w' => e = .returned (.bool (svB X Y ep nx (l.map UE.u) hs)) ∧ Below w.heap.size w w' := by
  obtain ⟨w0, hw0⟩ : ∃ w0, w.alloc (.cells #[.slice a n ca, .slice a' n' ca', .int .i64 ep, .int .i64 nx, .slice ua un uc, .slice ha hn hc] 32) = w0 := ⟨_, rfl⟩
  have HE : Hid (w.alloc (.cells #[.slice a n ca, .slice a' n' ca', .int .i64 ep, .int .i64 nx, .slice ua un uc, .slice ha hn hc] 32) = w0) := hw0
  have hB : Below w.heap.size w w0 := by rw [← hw0]; exact (Below.refl _ _).alloc (Nat.le_refl _) _
  have hQ : BoxN w0 w.heap.size 32 [.slice a n ca, .slice a' n' ca', .int .i64 ep, .int .i64 nx, .slice ua un uc, .slice ha hn hc] := by rw [← hw0]; exact BoxN.new _ _ _
  have HX : Hid (∀ W, Below w0.heap.size w0 W → BoxN W w.heap.size 32 [.slice a n ca, .slice a' n' ca', .int .i64 ep, .int .i64 nx, .slice ua un uc, .slice ha hn hc] ∧ Strs W a n X ∧ Strs W a' n' Y ∧ UpRow W lo (.slice ua un uc) l ∧ Below w.heap.size w W ∧ Helds W ha hn hs) := fun W hb => by
    have hw : Below w.heap.size w W := hB.trans (hb.mono hB.size)
    exact ⟨hQ.stays hb, h1.below hw, h2.below hw, hu.stays hw, hw, hh.below hw⟩
  have HL : Hid (un = l.length ∧ (∀ x ∈ X, x.size ≤ 1048576) ∧ hs.length = hn) := ⟨hun, hz, hh.1⟩
  have HA0 : Hid (Below w0.heap.size w0 w0) := Below.refl _ _
  clear hw0 h1 h2 hu hun hz hB hQ hh
  go_enter Tryz.func43, Tryz.ntmps43
  go_upto_region 1 with fail
  rw [HE.out]
  clear HE
  go_wp2_with fail
  go_loopw [3] (fun v wr => ∃ k : Nat, k ≤ hn ∧ v = .int .i64 (k : Int) ∧ Hid (Below w0.heap.size w0 wr) ∧ Hid (∀ (j : Nat) (x : Hd), j < k → hs[j]? = some x → fitsH x = true)) (fun v _ => hn - (intOf v).toNat)
  case atStart => exact ⟨0, Nat.zero_le _, rfl, HA0, fun j _ hj => absurd hj (Nat.not_lt_zero _)⟩
  case round =>
    clear HA0
    obtain ⟨k, hk, rfl, HW, HN⟩ := hrel
    have c5 := BoxN.cell (HX.out _ HW.out).1 5 rfl
    by_cases hlt : k < hn
    · have hki : (k : Int) < (hn : Int) := by omega
      have hk0 : (0 : Int) ≤ (k : Int) := by omega
      obtain ⟨b, off, x0, x1, x2, rfl, hb, hkx, p0, p1, p2, _⟩ := (HX.out _ HW.out).2.2.2.2.2.at hlt
      have HK : Hid (hs[k]? = some (x0, x1, x2)) := hkx
      have HC : Hid (∀ W : World, Calls Tryz.prog 78 #[.agg #[.int .i64 x1, .int .i64 x2]] W fun e w' => e = .returned (.bool (fitsH (x0, x1, x2))) ∧ Below W.heap.size W w') := fun W => specRespOk_any x1 x2 W
      clear hkx
      go_wp2_with fail
      refine (HC.out _).mono ?_
      rintro e w1 ⟨rfl, hb1⟩
      have HW1 : Hid (Below w0.heap.size w0 w1) := HW.out.trans (hb1.mono HW.out.size)
      clear hb1 p0 p1 p2 HC HW c5
      cases hpr : fitsH (x0, x1, x2)
      case false =>
        have HF : Hid (svB X Y ep nx (l.map UE.u) hs = false) := svB_any (anyH_true HK.out hpr)
        have HBw : Hid (Below w.heap.size w w1) := (HX.out _ HW1.out).2.2.2.2.1
        clear hpr HX HW1 HK HN
        go_wp2_with fail
        go_ret
        exact ⟨by rw [HF.out]; rfl, HBw.out⟩
      case true =>
        have HN2 : Hid (∀ (j : Nat) (x : Hd), j < k + 1 → hs[j]? = some x → fitsH x = true) := fun j u hj hju => by
          by_cases e : j = k
          · subst e
            rw [HK.out] at hju
            injection hju with e1
            rw [← e1]
            exact hpr
          · exact HN.out j u (by omega) hju
        clear hpr HN HK
        go_wp2_with fail
        go_roundw
        case rel => exact ⟨k + 1, by omega, by go_num, HW1, HN2⟩
        case measure => simp [intOf]; omega
    · have hki : ¬ (k : Int) < (hn : Int) := by omega
      have HA : Hid (anyH hs = false) := anyH_false fun j x hjx => HN.out j x (by have := (List.getElem?_eq_some_iff.1 hjx).1; have := HL.out.2.2; omega) hjx
      obtain ⟨c0, c1, c2, c3, c4⟩ := (show _ ∧ _ ∧ _ ∧ _ ∧ _ from ⟨BoxN.cell (HX.out _ HW.out).1 0 rfl, BoxN.cell (HX.out _ HW.out).1 1 rfl, BoxN.cell (HX.out _ HW.out).1 2 rfl, BoxN.cell (HX.out _ HW.out).1 3 rfl, BoxN.cell (HX.out _ HW.out).1 4 rfl⟩)
      clear HN
      by_cases h200 : (hn : Int) ≤ 200
      case neg =>
        have hd : decide ((hn : Int) ≤ 200) = false := by simpa using h200
        have HF : Hid (svB X Y ep nx (l.map UE.u) hs = false) := svB_many (by rw [HL.out.2.2]; exact h200)
        have HBw : Hid (Below w.heap.size w wr) := (HX.out _ HW.out).2.2.2.2.1
        clear HX HW HA h200
        go_wp2_with fail
        go_ret
        exact ⟨by rw [HF.out]; rfl, HBw.out⟩
      have hd : decide ((hn : Int) ≤ 200) = true := by simpa using h200
      have HF : Hid (svB X Y ep nx (l.map UE.u) hs = decB (SOk X Y ep nx (l.map UE.u))) := svB_sto HA.out (by rw [HL.out.2.2]; exact h200)
      clear HA h200
      go_wp2_with fail
      refine (specSok_any a n ca X a' n' ca' Y ep nx ua un uc lo l wr (HX.out _ HW.out).2.1 (HX.out _ HW.out).2.2.1 hln hln' HL.out.2.1 (HX.out _ HW.out).2.2.2.1 HL.out.1 hul).mono ?_
      rintro e w2 ⟨⟨ok, rfl, hok⟩, hb2⟩
      have HD : Hid (svB X Y ep nx (l.map UE.u) hs = ok) := HF.out.trans (decB_iff hok).symm
      have HBw : Hid (Below w.heap.size w w2) := (HX.out _ (HW.out.trans (hb2.mono HW.out.size))).2.2.2.2.1
      clear hb2 hok HF HX HW c0 c1 c2 c3 c4 c5
      go_wp2_with fail
      go_ret
      exact ⟨by rw [HD.out]; rfl, HBw.out⟩

end Go.Proofs.YtemcjenpgdieoaaGreatDoor

namespace Go.Proofs.YtemcjenpgdieoaaGreatDoor
open Go.RowKit
set_option linter.unusedVariables false

/-- The program's key: an upload's name. -/
theorem implKeyU_any (p : ByteArray) (q : Int) (a : Option Addr) (n c : Nat) (b : Bool) (w : World) : Calls Tryz.prog 187 #[.agg #[.string p, .int .i64 q, .slice a n c, .bool b]] w fun e w' => e = .returned (.string p) ∧ Below w.heap.size w w' := by
  have HB : Hid (Below w.heap.size w (w.alloc (.cells #[.string p, .int .i64 q, .slice a n c, .bool b] 147))) := (Below.refl _ _).alloc (Nat.le_refl _) _
  go_enter Tryz.func187, Tryz.ntmps187
  go_wp2_with fail
  go_ret
  exact ⟨rfl, HB.out⟩

/-- The method by which an upload is asked for its key. -/
theorem keyMU (p : ByteArray) (q : Int) (a : Option Addr) (n c : Nat) (b : Bool) (w : World) : Sem.run Tryz.prog (Go.method 323 147 (.agg #[.string p, .int .i64 q, .slice a n c, .bool b]) "loop.example/g00199/impl.key") w = .ok (187, .agg #[.string p, .int .i64 q, .slice a n c, .bool b]) w := by kernel_rfl

/-- The upload that is reached: its place in memory, or none. -/
def reachUO (a : Option Addr) (k : Option Nat) : Option Addr :=
  match a, k with
  | some ad, some k => some ⟨ad.block, k * 4, none⟩
  | _, _ => none

theorem reachUO_none (a : Option Addr) : reachUO a none = none := by cases a <;> rfl

set_option maxRecDepth 10000 in
set_option maxHeartbeats 800000 in
theorem implReachU_any (a : Option Addr) (n c lo : Nat) (id : ByteArray) (l : List UE) (w : World) (h : UpRow w lo (.slice a n c) l) (hn : n = l.length) (hl : n ≤ 1099511627776) :
    Calls Tryz.prog 153 #[.slice a n c, .string id] w fun e w' => e = .returned (.pointer (reachUO a (atU (l.map UE.u) id))) ∧ Below w.heap.size w w' := by
  have HR : Hid (∀ W, Below w.heap.size w W → UpRow W lo (.slice a n c) l) := fun W hb => h.stays hb
  have HN : Hid (n = l.length) := hn
  clear h hn
  go_enter Tryz.func153, Tryz.ntmps153
  go_wp2_with fail
  go_loopw [8] (fun v wr => ∃ k : Nat, k ≤ n ∧ v = .int .i64 k ∧ Hid (Below w.heap.size w wr) ∧ Hid (∀ j (hj : j < l.length), j < k → (l[j]).u.id ≠ id)) (fun v _ => n - (intOf v).toNat)
  case atStart => exact ⟨0, Nat.zero_le _, rfl, Below.refl _ _, fun j _ hj => absurd hj (Nat.not_lt_zero _)⟩
  case round =>
    obtain ⟨k, hk, rfl, HB, HJ⟩ := hrel
    by_cases hlt : k < n
    · have hkl : k < l.length := by rw [← HN.out]; exact hlt
      have hki : (k : Int) < (n : Int) := by omega
      obtain ⟨g, rfl, g0, g1, g2, g3, _⟩ := (HR.out _ HB.out).at HN.out hkl
      have he := ids_eq (l[k]).u.id id
      by_cases hid : (l[k]).u.id = id
      · rw [decide_eq_true hid] at he
        have HF : Hid (atU (l.map UE.u) id = some k) := atU_some (k := k) (by simpa using hkl) (by simpa using hid) (fun j hj hjk => by simpa using HJ.out j (by simpa using hj) hjk)
        clear hid HJ HR HN
        generalize l[k] = x at *
        have hkm := keyMU x.u.id x.u.want x.a x.n x.c x.u.done
        go_wp2_with fail
        refine (implKeyU_any x.u.id x.u.want x.a x.n x.c x.u.done _).mono ?_
        rintro e w1 ⟨rfl, hb1⟩
        have HB1 : Hid (Below w.heap.size w w1) := HB.out.trans (hb1.mono HB.out.size)
        clear hb1
        go_wp2_with fail
        go_ret
        exact ⟨by rw [HF.out]; simp [reachUO], HB1.out⟩
      · rw [decide_eq_false hid] at he
        have HJ2 : Hid (∀ j (hj : j < l.length), j < k + 1 → (l[j]).u.id ≠ id) := fun j hj hjk => by
          by_cases e : j = k
          · subst e; exact hid
          · exact HJ.out j hj (by omega)
        clear hid HJ
        generalize l[k] = x at *
        have hkm := keyMU x.u.id x.u.want x.a x.n x.c x.u.done
        go_wp2_with fail
        refine (implKeyU_any x.u.id x.u.want x.a x.n x.c x.u.done _).mono ?_
        rintro e w1 ⟨rfl, hb1⟩
        have HB1 : Hid (Below w.heap.size w w1) := HB.out.trans (hb1.mono HB.out.size)
        clear hb1
        go_wp2_with fail
        go_roundw
        case rel => exact ⟨k + 1, by omega, by go_num, HB1, HJ2⟩
        case measure => simp [intOf]; omega
    · have HF : Hid (atU (l.map UE.u) id = none) := atU_none (fun j hj => by simpa using HJ.out j (by simpa using hj) (by have := HN.out; simp at hj; omega))
      have hkl : n = k := by omega
      clear HJ HR HN
      subst hkl
      go_wp2_with fail
      go_ret
      exact ⟨by rw [HF.out, reachUO_none]; rfl, HB.out⟩

end Go.Proofs.YtemcjenpgdieoaaGreatDoor

namespace Go.Proofs.YtemcjenpgdieoaaGreatDoor
open Go.RowKit
set_option linter.unusedVariables false

/-- The variable holds an error. -/
def ErrN (w : World) : Prop := 2 < w.heap.size ∧ ∃ t v, w.cell? ⟨2, 0, none⟩ = some (.iface t v)

theorem ErrN.below {w W : World} (h : ErrN w) (hb : Below w.heap.size w W) : ErrN W := by
  obtain ⟨h1, t, v, h2⟩ := h
  exact ⟨Nat.lt_of_lt_of_le h1 hb.size, t, v, (hb.cell (p := ⟨2, 0, none⟩) h1).trans h2⟩

/-- A call gave up by a panic. -/
def Pan (e : Ending) : Prop := ∃ t v, e = .panicked [{ v := .iface t v, recovered := false }]

theorem mustFit_yes (w : World) : Calls Tryz.prog 147 #[.bool true] w fun e w' => e = .returned (.tuple #[]) ∧ w' = w := by
  go_enter Tryz.func147, Tryz.ntmps147
  go_wp2_with fail
  go_end0
  exact ⟨rfl, rfl⟩

theorem mustFit_no (w : World) (h : ErrN w) : Calls Tryz.prog 147 #[.bool false] w fun e w' => Pan e ∧ w' = w := by
  obtain ⟨_, t, v, hc⟩ := h
  go_enter Tryz.func147, Tryz.ntmps147
  go_wp2_with fail
  exact ⟨rfl, ⟨t, v, rfl⟩, rfl⟩

/-- What must fit does, or it gives up. -/
theorem mustFit_any (b : Bool) (w : World) (h : ErrN w) : Calls Tryz.prog 147 #[.bool b] w fun e w' => ((b = true ∧ e = .returned (.tuple #[])) ∨ (b = false ∧ Pan e)) ∧ w' = w := by
  cases b with
  | true => exact (mustFit_yes w).mono (fun e w' h => ⟨.inl ⟨rfl, h.1⟩, h.2⟩)
  | false => exact (mustFit_no w h).mono (fun e w' h => ⟨.inr ⟨rfl, h.1⟩, h.2⟩)

/-- The upload that must be there is told, or it gave up. -/
def ThereAns (o : Option Nat) (a : Option Addr) (e : Ending) : Prop := (∃ k g, o = some k ∧ a = some ⟨g, 0, none⟩ ∧ e = .returned (.pointer (some ⟨g, k * 4, none⟩))) ∨ (o = none ∧ Pan e)

set_option maxRecDepth 10000 in
set_option maxHeartbeats 800000 in
theorem implThere_any (fb : Nat) (a : Option Addr) (n c lo : Nat) (id : ByteArray) (l : List UE) (w : World) (hf : BoxN w fb 163 [.slice a n c]) (h : UpRow w lo (.slice a n c) l) (hn : n = l.length) (hl : n ≤ 1099511627776) (he : ErrN w) :
    Calls Tryz.prog 155 #[.pointer (some ⟨fb, 0, none⟩), .string id] w fun e w' => ThereAns (atU (l.map UE.u) id) a e ∧ Below w.heap.size w w' := by
  have HE : Hid (ErrN w) := he
  have HR : Hid (Calls Tryz.prog 153 #[.slice a n c, .string id] w fun e w' => e = .returned (.pointer (reachUO a (atU (l.map UE.u) id))) ∧ Below w.heap.size w w') := implReachU_any a n c lo id l w h hn hl
  have f0 := hf.cell 0 rfl
  cases hk : atU (l.map UE.u) id with
  | none =>
    rw [hk, reachUO_none] at HR
    clear hf h hk hn
    go_enter Tryz.func155, Tryz.ntmps155
    go_wp2_with fail
    refine HR.out.mono ?_
    rintro e w1 ⟨rfl, hb1⟩
    have HB1 : Hid (Below w.heap.size w w1) := hb1
    clear hb1
    go_wp2_with fail
    refine (mustFit_no w1 (HE.out.below HB1.out)).mono ?_
    rintro e w2 ⟨⟨t, v, rfl⟩, rfl⟩
    go_wp2_with fail
    exact ⟨rfl, .inr ⟨rfl, t, v, rfl⟩, HB1.out⟩
  | some k =>
    have hkl : k < (l.map UE.u).length := (atU_is hk).1
    obtain ⟨g, hg⟩ : ∃ g, a = some ⟨g, 0, none⟩ := by
      obtain ⟨g, hg, _⟩ := h.at hn (by simpa using hkl)
      exact ⟨g, hg⟩
    rw [hk, hg] at HR
    clear hf h hk hkl hn
    have HR2 : Hid (Calls Tryz.prog 153 #[.slice (some ⟨g, 0, none⟩) n c, .string id] w fun e w' => e = .returned (.pointer (some ⟨g, k * 4, none⟩)) ∧ Below w.heap.size w w') := HR.out
    subst hg
    clear HR
    go_enter Tryz.func155, Tryz.ntmps155
    go_wp2_with fail
    refine HR2.out.mono ?_
    rintro e w1 ⟨rfl, hb1⟩
    have HB1 : Hid (Below w.heap.size w w1) := hb1
    clear hb1
    go_wp2_with fail
    refine (mustFit_yes w1).mono ?_
    rintro e w2 ⟨rfl, rfl⟩
    go_wp2_with fail
    go_ret
    exact ⟨.inl ⟨k, g, rfl, rfl, rfl⟩, HB1.out⟩

end Go.Proofs.YtemcjenpgdieoaaGreatDoor
