/- What the program's ServerOk answers. Plain facts on rows of numbers that a call reads or makes: no statement of the program but its table of types; no condition. The marks laid into a row of numbers, and asked for. What the program says of a world in which nothing is yet. Rows of truths in memory: what they hold, rows that a call has made. No statement of the program but its table of types. A world in which nothing is yet: its rows, and what keeps them. -/
import Derived.Test.YtemcjenpgdieoaaGreatDoorM23
import Derived.Test.YtemcjenpgdieoaaGreatDoorM35
import Derived.Test.YtemcjenpgdieoaaGreatDoorM01
import Derived.Test.YtemcjenpgdieoaaGreatDoorM06
import Derived.Test.YtemcjenpgdieoaaGreatDoorM12
import Derived.Test.YtemcjenpgdieoaaGreatDoorM05
import Derived.Deep.QuietTactic
import Derived.Test.YtemcjenpgdieoaaGreatDoorM10
import Derived.Test.YtemcjenpgdieoaaGreatDoorM09
import Derived.Test.YtemcjenpgdieoaaGreatDoorM03
namespace Go.Proofs.YtemcjenpgdieoaaGreatDoor
open Go.RowKit
set_option linter.unusedVariables false

set_option maxRecDepth 10000 in
set_option maxHeartbeats 3200000 in
theorem implSvok_any (a : Option Addr) (n ca : Nat) (X : List ByteArray) (a' : Option Addr) (n' ca' : Nat) (Y : List ByteArray) (ep nx : Int) (ua : Option Addr) (un uc lo : Nat) (l : List UE) (ha : Option Addr) (hn hc : Nat) (hs : List Hd) (w : World) (h1 : Strs w a n X) (h2 : Strs w a' n' Y) (hln : n ≤ 1048576) (hln' : n' ≤ 1048576) (hz : ∀ x ∈ X, x.size ≤ 1048576) (hu : UpRow w lo (.slice ua un uc) l) (hun : un = l.length) (hul : un ≤ 1048576) (hh : Helds w ha hn hs) (hhl : hn ≤ 1099511627776) (hsl : SlOk a n ca) (ht : RecT w) (he : ErrN w) :
    Calls Tryz.prog 61 #[.agg #[.slice a n ca, .slice a' n' ca', .int .i64 ep, .int .i64 nx, .slice ua un uc, .slice ha hn hc]] w fun e w' => e = .returned (.bool (svB X Y ep nx (l.map UE.u) hs)) ∧ Below w.heap.size w w' := by
  obtain ⟨w0, hw0⟩ : ∃ w0, w.alloc (.cells #[.slice a n ca, .slice a' n' ca', .int .i64 ep, .int .i64 nx, .slice ua un uc, .slice ha hn hc] 32) = w0 := ⟨_, rfl⟩
  have HE : Hid (w.alloc (.cells #[.slice a n ca, .slice a' n' ca', .int .i64 ep, .int .i64 nx, .slice ua un uc, .slice ha hn hc] 32) = w0) := hw0
  have hB : Below w.heap.size w w0 := by rw [← hw0]; exact (Below.refl _ _).alloc (Nat.le_refl _) _
  have hQ : BoxN w0 w.heap.size 32 [.slice a n ca, .slice a' n' ca', .int .i64 ep, .int .i64 nx, .slice ua un uc, .slice ha hn hc] := by rw [← hw0]; exact BoxN.new _ _ _
  have HX : Hid (∀ W, Below w0.heap.size w0 W → BoxN W w.heap.size 32 [.slice a n ca, .slice a' n' ca', .int .i64 ep, .int .i64 nx, .slice ua un uc, .slice ha hn hc] ∧ Strs W a n X ∧ Strs W a' n' Y ∧ UpRow W lo (.slice ua un uc) l ∧ Below w.heap.size w W ∧ Helds W ha hn hs ∧ RecT W ∧ ErrN W) := fun W hb => by
    have hw : Below w.heap.size w W := hB.trans (hb.mono hB.size)
    exact ⟨hQ.stays hb, h1.below hw, h2.below hw, hu.stays hw, hw, hh.below hw, ht.below hw, he.below hw⟩
  have HL : Hid (un = l.length ∧ (∀ x ∈ X, x.size ≤ 1048576) ∧ hs.length = hn) := ⟨hun, hz, hh.1⟩
  have HA0 : Hid (Below w0.heap.size w0 w0) := Below.refl _ _
  clear hw0 h1 h2 hu hun hz hB hQ hh ht he
  have c5 := BoxN.cell (HX.out _ HA0.out).1 5 rfl
  go_enter Tryz.func61, Tryz.ntmps61
  go_upto_region 1 with fail
  rw [HE.out]
  clear HE
  by_cases h200 : (hn : Int) ≤ 200
  case neg =>
    have hd : decide ((hn : Int) ≤ 200) = false := by simpa using h200
    have HF : Hid (svB X Y ep nx (l.map UE.u) hs = false) := svB_many (by rw [HL.out.2.2]; exact h200)
    have HBw : Hid (Below w.heap.size w w0) := (HX.out _ HA0.out).2.2.2.2.1
    clear HX HA0 h200
    go_wp2_with fail
    go_ret
    exact ⟨by rw [HF.out]; rfl, HBw.out⟩
  have hd : decide ((hn : Int) ≤ 200) = true := by simpa using h200
  have H200 : Hid ((hs.length : Int) ≤ 200) := by show _ ≤ _; rw [HL.out.2.2]; exact h200
  clear h200
  go_wp2_with fail
  refine (implAnyHd_any ha hn hc hs w0 (HX.out _ HA0.out).2.2.2.2.2.1 hhl).mono ?_
  rintro e w1 ⟨rfl, hb1⟩
  have HB1 : Hid (Below w0.heap.size w0 w1) := hb1
  obtain ⟨c0, c1, c2, c3, c4⟩ := (show _ ∧ _ ∧ _ ∧ _ ∧ _ from ⟨BoxN.cell (HX.out _ HB1.out).1 0 rfl, BoxN.cell (HX.out _ HB1.out).1 1 rfl, BoxN.cell (HX.out _ HB1.out).1 2 rfl, BoxN.cell (HX.out _ HB1.out).1 3 rfl, BoxN.cell (HX.out _ HB1.out).1 4 rfl⟩)
  clear hb1 c5
  cases hany : anyH hs
  case true =>
    have HF : Hid (svB X Y ep nx (l.map UE.u) hs = false) := svB_any hany
    have HBw : Hid (Below w.heap.size w w1) := (HX.out _ HB1.out).2.2.2.2.1
    clear HX HA0 HB1 hany H200
    go_wp2_with fail
    go_ret
    exact ⟨by rw [HF.out]; rfl, HBw.out⟩
  have HF : Hid (svB X Y ep nx (l.map UE.u) hs = decB (SOk X Y ep nx (l.map UE.u))) := svB_sto hany H200.out
  clear hany H200
  go_wp2_with fail
  refine (implSok_any a n ca X a' n' ca' Y ep nx ua un uc lo l w1 (HX.out _ HB1.out).2.1 (HX.out _ HB1.out).2.2.1 hln hln' HL.out.2.1 (HX.out _ HB1.out).2.2.2.1 HL.out.1 hul hsl (HX.out _ HB1.out).2.2.2.2.2.2.1 (HX.out _ HB1.out).2.2.2.2.2.2.2).mono ?_
  rintro e w2 ⟨rfl, hb2⟩
  have HBw : Hid (Below w.heap.size w w2) := (HX.out _ (HB1.out.trans (hb2.mono HB1.out.size))).2.2.2.2.1
  obtain ⟨q, hq⟩ : ∃ q, decB (SOk X Y ep nx (l.map UE.u)) = q := ⟨_, rfl⟩
  have HD : Hid (svB X Y ep nx (l.map UE.u) hs = q) := HF.out.trans hq
  rw [hq]
  clear hb2 hq HF HX HB1 HA0 c0 c1 c2 c3 c4
  go_wp2_with fail
  go_ret
  exact ⟨by rw [HD.out]; rfl, HBw.out⟩

end Go.Proofs.YtemcjenpgdieoaaGreatDoor

namespace Go.Proofs.YtemcjenpgdieoaaGreatDoor
open Go.RowKit
set_option linter.unusedVariables false

theorem Tryz.info3 : (Tryz.prog.info? 3).map (fun i => (i.zero, i.size, i.bytes)) = some (some (.int .i64 0), 1, 8) := by kernel_rfl

/-- The slice (a, len) holds the numbers zs in the world w. -/
def SegI (w : World) (a : Option Addr) (len : Nat) (zs : List Int) : Prop :=
  zs.length = len ∧
  (len = 0 ∨ ∃ b off, a = some ⟨b, off, none⟩ ∧ b < w.heap.size ∧ ∀ i, i < len → w.cell? ⟨b, off + i, none⟩ = some (.int .i64 (zs.getD i 0)))

theorem SegI.below {w w' : World} {a : Option Addr} {len : Nat} {zs : List Int} (h : SegI w a len zs) (hb : Below w.heap.size w w') : SegI w' a len zs := by
  obtain ⟨h1, h3⟩ := h
  refine ⟨h1, ?_⟩
  rcases h3 with h3 | ⟨b, off, rfl, hlt, hc⟩
  · exact .inl h3
  · exact .inr ⟨b, off, rfl, Nat.lt_of_lt_of_le hlt hb.size, fun i hi => (hb.cell (p := ⟨b, off + i, none⟩) hlt).trans (hc i hi)⟩

theorem SegI.ofOwn {w : World} {base g n cap : Nat} {e : TypeId} {zs : List Int} (h : w.ownsRow base e 1 (.slice (some ⟨g, 0, none⟩) n cap) n (zs.map (Value.int .i64))) : SegI w (some ⟨g, 0, none⟩) n zs := by
  have hl : zs.length = n := by have := h.1; simpa using this
  refine ⟨hl, .inr ⟨g, 0, rfl, (h.lt g rfl).2, fun i hi => ?_⟩⟩
  have := h.cellAt i (by omega)
  rw [Nat.zero_add, this]
  rw [List.getElem?_map, List.getD_eq_getElem?_getD, List.getElem?_eq_getElem (by omega)]
  rfl

theorem IsRow.segI {w : World} {a : Option Addr} {len cap : Nat} {zs : List Int} (h : IsRow .i64 w a len cap zs) : SegI w a len (zs.take len) := by
  rcases h with ⟨rfl, rfl, rfl, rfl⟩ | ⟨x, rfl, hl, hm, hz, hcell, hwz⟩
  · exact ⟨rfl, .inl rfl⟩
  · refine ⟨by simp; omega, ?_⟩
    by_cases h0 : len = 0
    · exact .inl h0
    · obtain ⟨b, off, spot⟩ := x
      have hc := hcell 0 (by omega)
      have hspot : spot = none := by simpa [Addr.add] using World.cell?_spot hc
      subst hspot
      have hc0 : w.cell? ⟨b, off, none⟩ = some (.int .i64 (zs.getD 0 0)) := by simpa [Addr.add] using hc
      refine .inr ⟨b, off, rfl, lt_of_cell hc0, fun i hi => ?_⟩
      have := hcell i (by omega)
      rw [List.getD_eq_getElem?_getD, List.getElem?_take, if_pos hi, ← List.getD_eq_getElem?_getD]
      by_cases hi0 : i = 0
      · subst hi0
        simpa [Addr.add] using this
      · simpa [Addr.add, hi0] using this

theorem copied_stepI (zs : List Int) (k len : Nat) (hk : k < len) (hz : zs.length = len) :
    ((zs.take k ++ List.replicate (len - k) 0).map (Value.int .i64)).set k (.int .i64 (zs.getD k 0)) = (zs.take (k + 1) ++ List.replicate (len - (k + 1)) 0).map (Value.int .i64) := by
  have hkz : k < zs.length := by omega
  have e1 : len - k = (len - (k + 1)) + 1 := by omega
  rw [e1, List.replicate_succ, List.take_succ_eq_append_getElem hkz, List.getD_eq_getElem?_getD, List.getElem?_eq_getElem hkz]
  simp only [List.map_append, List.map_cons, List.map_nil, Option.getD_some]
  rw [List.set_append_right _ _ (by simp; omega)]
  simp [Nat.min_eq_left (Nat.le_of_lt hkz)]

theorem SegI.at {w : World} {a : Option Addr} {len : Nat} {zs : List Int} (h : SegI w a len zs) {i : Nat} (hi : i < len) : ∃ b off, a = some ⟨b, off, none⟩ ∧ b < w.heap.size ∧ w.cell? ⟨b, off + i, none⟩ = some (.int .i64 (zs.getD i 0)) := by
  rcases h.2 with h0 | ⟨b, off, e, hb, hc⟩
  · omega
  · exact ⟨b, off, e, hb, hc i hi⟩

end Go.Proofs.YtemcjenpgdieoaaGreatDoor

namespace Go.Proofs.YtemcjenpgdieoaaGreatDoor
open Go.RowKit
set_option linter.unusedVariables false

def icells (l : List Int) : List Value := l.map (Value.int .i64)

theorem icells_len (l : List Int) : (icells l).length = l.length := List.length_map ..

theorem icells_set (l : List Int) (x : Int) (k : Nat) : (icells l).set k (.int .i64 x) = icells (l.set k x) := by simp [icells, List.map_set]

/-- The marks of n truths, from the number k on. -/
def marksI (k n : Nat) : List Int := (List.range n).map fun j => ((k + j : Nat) : Int)
theorem marksI_len (k n : Nat) : (marksI k n).length = n := by simp [marksI]
theorem marksI_at (k n j : Nat) (hj : j < n) : (marksI k n)[j]? = some (((k + j : Nat) : Int)) := by simp [marksI, hj]

/-- Texts of which the first j are marked. -/
def imarkTo (k : Nat) (xs : List Int) (j : Nat) : List Int := marksI k j ++ xs.drop j

theorem imarkTo_len (k : Nat) (xs : List Int) (j : Nat) (h : j ≤ xs.length) : (imarkTo k xs j).length = xs.length := by
  simp [imarkTo, marksI_len]
  omega

theorem imarkTo_step (k : Nat) (xs : List Int) (j : Nat) (h : j < xs.length) : (imarkTo k xs j).set j (((k + j : Nat) : Int)) = imarkTo k xs (j + 1) := by
  rw [imarkTo, imarkTo, List.set_append_right j _ (by rw [marksI_len]; exact Nat.le_refl _), marksI_len, Nat.sub_self, List.drop_eq_getElem_cons h, List.set_cons_zero]
  simp [marksI, List.range_succ]

set_option maxRecDepth 10000 in
set_option maxHeartbeats 1600000 in
theorem markIntS_any (base : Nat) (a : Option Addr) (n cap k : Nat) (xs : List Int) (w : World) (h : w.ownsRow base 3 1 (.slice a n cap) n (icells xs)) (hn : n ≤ 1099511627776) (hk : k ≤ 2199023255552) :
    Calls Tryz.prog 34 #[.slice a n cap, .int .i64 (k : Int)] w fun e w' => e = .returned (.int .i64 ((k + n : Nat) : Int)) ∧ w'.ownsRow base 3 1 (.slice a n cap) n (icells (marksI k n)) ∧ w.grownBy w' (a.map (·.block)) := by
  have hlen : xs.length = n := by have := h.1; rw [icells_len] at this; omega
  have HO0 : Hid (w.ownsRow base 3 1 (.slice a n cap) n (icells (imarkTo k xs 0))) := h
  clear h
  go_enter Tryz.func34, Tryz.ntmps34
  go_wp2_with fail
  go_loopw [1, 5] (fun q i wr => ∃ j : Nat, j ≤ n ∧ i = .int .i64 j ∧ q = .int .i64 ((k + j : Nat) : Int) ∧ Hid (wr.ownsRow base 3 1 (.slice a n cap) n (icells (imarkTo k xs j))) ∧ Hid (w.grownBy wr (a.map (·.block)))) (fun _ i _ => n - (intOf i).toNat)
  case atStart => exact ⟨0, Nat.zero_le _, rfl, rfl, HO0, grown_refl _ _⟩
  case round =>
    clear HO0
    obtain ⟨j, hj, rfl, rfl, HO, HG⟩ := hrel
    by_cases hlt : j < n
    · obtain ⟨g, rfl⟩ : ∃ g, a = some ⟨g, 0, none⟩ := by
        rcases HO.out.2 with ⟨_, h0⟩ | ⟨g, cap', cur, he, _⟩
        · omega
        · injection he with e1 _ _
          exact ⟨g, e1⟩
      have hji : (j : Int) < (n : Int) := by omega
      have HSt : Hid ((imarkTo k xs j).set j (((k + j : Nat) : Int)) = imarkTo k xs (j + 1)) := imarkTo_step k xs j (by omega)
      have HLn : Hid ((imarkTo k xs j).length = n) := by show _ = _; rw [imarkTo_len k xs j (by omega), hlen]
      generalize imarkTo k xs j = L at *
      obtain ⟨K1, hK1⟩ : ∃ K1, k + (j + 1) = K1 := ⟨_, rfl⟩
      obtain ⟨K0, hK0⟩ : ∃ K0, k + j = K0 := ⟨_, rfl⟩
      have hq1 : (K0 : Int) + 1 = (K1 : Int) := by omega
      rw [hK0] at HSt ⊢
      have HK1 : Hid (k + (j + 1) = K1) := hK1
      have hK0b : (K0 : Int) ≤ 4398046511104 := by omega
      clear hK0 hK1
      have HO1 : Hid (wr.ownsRow base 3 1 (.slice (some ⟨g, 0, none⟩) n cap) n (icells L)) := HO.out
      have HG1 : Hid (w.grownBy wr (some g)) := HG.out
      clear HO HG
      have hln : (icells L).length = n := by rw [icells_len, HLn.out]
      have f0 : wr.frozen? ⟨g, j, none⟩ = false := HO1.out.frozenAt _
      obtain ⟨u0, hu0⟩ : ∃ u, wr.cell? ⟨g, j, none⟩ = some u := by
        rw [HO1.out.cellAt _ (by omega)]
        exact ⟨_, List.getElem?_eq_getElem (by omega)⟩
      have hst := HO1.out.stored j (.int .i64 (K0 : Int))
      have HO4 : Hid ((wr.setCell ⟨g, j, none⟩ (.int .i64 (K0 : Int))).ownsRow base 3 1 (.slice (some ⟨g, 0, none⟩) n cap) n (icells (imarkTo k xs (j + 1)))) := by
        have h1 := hst.1
        rw [icells_set, HSt.out] at h1
        exact h1
      have HG4 : Hid (w.grownBy (wr.setCell ⟨g, j, none⟩ (.int .i64 (K0 : Int))) (some g)) := grown_trans HG1.out hst.2
      clear hst hln HO1 HG1
      go_wp2_with fail
      go_roundw
      case rel => exact ⟨j + 1, by omega, by go_num, by rw [HK1.out], HO4, HG4⟩
      case measure => simp [intOf]; omega
    · have hjn : j = n := by omega
      subst hjn
      go_wp2_with fail
      go_ret
      have hd : imarkTo k xs j = marksI k j := by
        rw [imarkTo, List.drop_eq_nil_of_le (by omega), List.append_nil]
      have h1 := HO.out
      rw [hd] at h1
      exact ⟨rfl, h1, HG.out⟩

set_option maxRecDepth 10000 in
set_option maxHeartbeats 1600000 in
theorem heldIntS_any (base : Nat) (a : Option Addr) (n cap k : Nat) (w : World) (h : w.ownsRow base 3 1 (.slice a n cap) n (icells (marksI k n))) (hn : n ≤ 1099511627776) (hk : k ≤ 2199023255552) :
    Calls Tryz.prog 40 #[.slice a n cap, .int .i64 (k : Int)] w fun e w' => e = .returned (.int .i64 ((k + n : Nat) : Int)) ∧ w' = w := by
  have HS : Hid (w.ownsRow base 3 1 (.slice a n cap) n (icells (marksI k n))) := h
  clear h
  go_enter Tryz.func40, Tryz.ntmps40
  go_wp2
  go_loop [1, 5] (fun v i => ∃ j : Nat, j ≤ n ∧ i = .int .i64 j ∧ v = .int .i64 ((k + j : Nat) : Int)) (fun _ i => n - (intOf i).toNat)
  case atStart => exact ⟨0, Nat.zero_le _, rfl, by go_num⟩
  case round =>
    obtain ⟨j, hj, rfl, rfl⟩ := hrel
    by_cases hlt : j < n
    · obtain ⟨b, rfl⟩ : ∃ g, a = some ⟨g, 0, none⟩ := by
        rcases HS.out.2 with ⟨_, h0⟩ | ⟨g, cap', cur, he, _⟩
        · omega
        · injection he with e1 _ _
          exact ⟨g, e1⟩
      have hc : w.cell? ⟨b, j, none⟩ = some (.int .i64 ((k + j : Nat) : Int)) := by
        rw [HS.out.cellAt j (by omega), icells, List.getElem?_map, marksI_at k n j hlt]
        rfl
      obtain ⟨K, hK⟩ : ∃ K, k + j = K := ⟨_, rfl⟩
      have hKb : (K : Int) ≤ 4398046511104 := by omega
      have hji : (j : Int) < (n : Int) := by omega
      have HK : Hid (k + j = K) := hK
      have hne : ((K : Int) != (K : Int)) = false := by simp
      rw [hK] at hc ⊢
      clear hK
      go_wp2
      go_round
      case rel => exact ⟨j + 1, by omega, by go_num, by have := HK.out; go_num⟩
      case measure => simp [intOf]; omega
    · go_wp2
      go_ret
      have hjn : j = n := by omega
      subst hjn
      exact ⟨rfl, rfl⟩

end Go.Proofs.YtemcjenpgdieoaaGreatDoor

namespace Go.Proofs.YtemcjenpgdieoaaGreatDoor
open Go.RowKit
set_option linter.unusedVariables false

set_option maxRecDepth 10000 in
theorem idxZ_W (a : Option Addr) (c : Nat) (fv : Value) (w : World) : Calls Tryz.prog 88 #[.slice a 0 c, fv] w fun e w' => e = .returned (.int .i64 (-1)) ∧ Below w.heap.size w w' := by
  have HB : Hid (Below w.heap.size w w) := Below.refl _ _
  go_enter Tryz.func88, Tryz.ntmps88
  go_wp2_with fail
  go_loopw [8] (fun v wr => v = .int .i64 0 ∧ wr = w) (fun _ _ => 0)
  case atStart => exact ⟨rfl, rfl⟩
  case round =>
    obtain ⟨rfl, rfl⟩ := hrel
    go_wp2_with fail
    go_ret
    exact ⟨rfl, HB.out⟩

set_option maxRecDepth 10000 in
theorem anyZ_W (a : Option Addr) (c : Nat) (fv : Value) (w : World) : Calls Tryz.prog 56 #[.slice a 0 c, fv] w fun e w' => e = .returned (.bool false) ∧ Below w.heap.size w w' := by
  go_enter Tryz.func56, Tryz.ntmps56
  go_wp2_with fail
  refine (idxZ_W a c fv w).mono ?_
  rintro _ x1 ⟨rfl, hb1⟩
  have HB : Hid (Below w.heap.size w x1) := hb1
  clear hb1
  go_wp2_with fail
  go_ret
  exact ⟨rfl, HB.out⟩

set_option maxRecDepth 10000 in
theorem idxZ_H (a : Option Addr) (c : Nat) (fv : Value) (w : World) : Calls Tryz.prog 89 #[.slice a 0 c, fv] w fun e w' => e = .returned (.int .i64 (-1)) ∧ Below w.heap.size w w' := by
  have HB : Hid (Below w.heap.size w w) := Below.refl _ _
  go_enter Tryz.func89, Tryz.ntmps89
  go_wp2_with fail
  go_loopw [8] (fun v wr => v = .int .i64 0 ∧ wr = w) (fun _ _ => 0)
  case atStart => exact ⟨rfl, rfl⟩
  case round =>
    obtain ⟨rfl, rfl⟩ := hrel
    go_wp2_with fail
    go_ret
    exact ⟨rfl, HB.out⟩

set_option maxRecDepth 10000 in
theorem anyZ_H (a : Option Addr) (c : Nat) (fv : Value) (w : World) : Calls Tryz.prog 57 #[.slice a 0 c, fv] w fun e w' => e = .returned (.bool false) ∧ Below w.heap.size w w' := by
  go_enter Tryz.func57, Tryz.ntmps57
  go_wp2_with fail
  refine (idxZ_H a c fv w).mono ?_
  rintro _ x1 ⟨rfl, hb1⟩
  have HB : Hid (Below w.heap.size w x1) := hb1
  clear hb1
  go_wp2_with fail
  go_ret
  exact ⟨rfl, HB.out⟩

/-- A row of numbers that a call owns holds them. -/
theorem segI_own {w : World} {base n cap : Nat} {a : Option Addr} {zs : List Int} (h : w.ownsRow base 3 1 (.slice a n cap) n (icells zs)) : SegI w a n zs := by
  have hl : zs.length = n := by have := h.1; rw [icells_len] at this; omega
  cases a with
  | none =>
    rcases h.2 with ⟨_, h0⟩ | ⟨g, cap', cur, he, _⟩
    · exact ⟨hl, .inl h0⟩
    · cases he
  | some x =>
    rcases h.2 with ⟨he, _⟩ | ⟨g, cap', cur, he, _⟩
    · cases he
    · injection he with e1 e2 e3
      injection e1 with e1
      subst e1
      exact SegI.ofOwn h

theorem bestW_any (w : World) : Calls Tryz.prog 60 #[.int .i64 (-1)] w fun e w' => e = .returned (.bool false) ∧ Below w.heap.size w w' := by
  go_enter Tryz.func60, Tryz.ntmps60
  go_wp2_with fail
  go_ret
  exact ⟨rfl, Below.refl _ _⟩

set_option maxRecDepth 10000 in
set_option maxHeartbeats 800000 in
theorem idxBest_any (a : Option Addr) (n c : Nat) (w : World) (h : SegI w a n (List.replicate n (-1))) (hl : n ≤ 1048576) : Calls Tryz.prog 92 #[.slice a n c, .func (.func 60) #[] #[]] w fun e w' => e = .returned (.int .i64 (-1)) ∧ Below w.heap.size w w' := by
  have HS : Hid (SegI w a n (List.replicate n (-1))) := h
  clear h
  go_enter Tryz.func92, Tryz.ntmps92
  go_wp2_with fail
  go_loopw [8] (fun v wr => ∃ k : Nat, k ≤ n ∧ v = .int .i64 k ∧ Hid (Below w.heap.size w wr)) (fun v _ => n - (intOf v).toNat)
  case atStart => exact ⟨0, Nat.zero_le _, rfl, Below.refl _ _⟩
  case round =>
    obtain ⟨k, hk, rfl, HB⟩ := hrel
    by_cases hlt : k < n
    · have hki : (k : Int) < (n : Int) := by omega
      obtain ⟨b, off, rfl, hb, hc⟩ := (HS.out.below HB.out).at hlt
      have hg : (List.replicate n (-1 : Int)).getD k 0 = -1 := by rw [List.getD_eq_getElem?_getD, List.getElem?_replicate, if_pos hlt]; rfl
      rw [hg] at hc
      clear hg
      go_wp2_with fail
      refine (bestW_any _).mono ?_
      rintro e w1 ⟨rfl, hb1⟩
      have HB1 : Hid (Below w.heap.size w w1) := HB.out.trans (hb1.mono HB.out.size)
      clear hb1
      go_wp2_with fail
      go_roundw
      case rel => exact ⟨k + 1, by omega, by go_num, HB1⟩
      case measure => simp [intOf]; omega
    · obtain rfl : k = n := by omega
      go_wp2_with fail
      go_ret
      exact ⟨rfl, HB.out⟩

set_option maxRecDepth 10000 in
theorem anyBest_any (a : Option Addr) (n c : Nat) (w : World) (h : SegI w a n (List.replicate n (-1))) (hl : n ≤ 1048576) : Calls Tryz.prog 59 #[.slice a n c, .func (.func 60) #[] #[]] w fun e w' => e = .returned (.bool false) ∧ Below w.heap.size w w' := by
  go_enter Tryz.func59, Tryz.ntmps59
  go_wp2_with fail
  refine (idxBest_any a n c w h hl).mono ?_
  rintro _ x1 ⟨rfl, hb1⟩
  have HB : Hid (Below w.heap.size w x1) := hb1
  clear hb1
  go_wp2_with fail
  go_ret
  exact ⟨rfl, HB.out⟩

set_option maxRecDepth 10000 in
set_option maxHeartbeats 400000 in
theorem implWdOk_any (a0 a1 ua ha ca ba wa ta za : Option Addr) (n0 c0 n1 c1 uc hc cn cc bc wc tc zc : Nat) (ep nx : Int) (lo : Nat) (X Y : List ByteArray) (l : List CE) (w : World) (hs : StoAt w lo a0 n0 c0 X a1 n1 c1 Y ua 0 uc []) (h : ClRow w lo (.slice ca cn cc) l) (hcn : cn = l.length) (hl : cn ≤ 1048576) (hz : ∀ e ∈ l, e.u.id.size ≤ maxLen ∧ e.n ≤ 1048576) (hn0 : n0 ≤ 1048576) (hn1 : n1 ≤ 1048576) (hX : ∀ x ∈ X, x.size ≤ 1048576) (hq : SegI w za cn (List.replicate cn (-1))) (ht : RecT w) (he : ErrN w) :
    Calls Tryz.prog 20 #[.agg #[.slice a0 n0 c0, .slice a1 n1 c1, .int .i64 ep, .int .i64 nx, .slice ua 0 uc, .slice ha 0 hc, .slice ca cn cc, .slice ba cn bc, .slice wa 0 wc, .slice ta 0 tc, .slice za cn zc]] w fun e w' => e = .returned (.bool (svB X Y ep nx [] [] && clsB (l.map CE.u))) ∧ Below w.heap.size w w' := by
  obtain ⟨w0, hw0⟩ : ∃ w0, w.alloc (.cells #[.slice a0 n0 c0, .slice a1 n1 c1, .int .i64 ep, .int .i64 nx, .slice ua 0 uc, .slice ha 0 hc, .slice ca cn cc, .slice ba cn bc, .slice wa 0 wc, .slice ta 0 tc, .slice za cn zc] 38) = w0 := ⟨_, rfl⟩
  have HE : Hid (w.alloc (.cells #[.slice a0 n0 c0, .slice a1 n1 c1, .int .i64 ep, .int .i64 nx, .slice ua 0 uc, .slice ha 0 hc, .slice ca cn cc, .slice ba cn bc, .slice wa 0 wc, .slice ta 0 tc, .slice za cn zc] 38) = w0) := hw0
  have hB : Below w.heap.size w w0 := by rw [← hw0]; exact (Below.refl _ _).alloc (Nat.le_refl _) _
  have hQ : BoxN w0 w.heap.size 38 [.slice a0 n0 c0, .slice a1 n1 c1, .int .i64 ep, .int .i64 nx, .slice ua 0 uc, .slice ha 0 hc, .slice ca cn cc, .slice ba cn bc, .slice wa 0 wc, .slice ta 0 tc, .slice za cn zc] := by rw [← hw0]; exact BoxN.new _ _ _
  have HX : Hid (∀ W, Below w0.heap.size w0 W → BoxN W w.heap.size 38 [.slice a0 n0 c0, .slice a1 n1 c1, .int .i64 ep, .int .i64 nx, .slice ua 0 uc, .slice ha 0 hc, .slice ca cn cc, .slice ba cn bc, .slice wa 0 wc, .slice ta 0 tc, .slice za cn zc] ∧ ClRow W lo (.slice ca cn cc) l ∧ StoAt W lo a0 n0 c0 X a1 n1 c1 Y ua 0 uc [] ∧ Below w.heap.size w W) := fun W hb => ⟨hQ.stays hb, (h.stays hB).stays hb, (hs.stays hB).stays hb, hB.trans (hb.mono hB.size)⟩
  have HZ : Hid (cn = l.length ∧ (∀ e ∈ l, e.u.id.size ≤ maxLen ∧ e.n ≤ 1048576) ∧ ∀ x ∈ X, x.size ≤ 1048576) := ⟨hcn, hz, hX⟩
  have HA0 : Hid (Below w0.heap.size w0 w0) := Below.refl _ _
  have HT : Hid (∀ W, Below w0.heap.size w0 W → SegI W za cn (List.replicate cn (-1)) ∧ RecT W ∧ ErrN W) := fun W hb => ⟨(hq.below hB).below hb, (ht.below hB).below hb, (he.below hB).below hb⟩
  clear hq ht he
  clear hw0 hB hQ h hs hcn hz hX
  have p0 := (HX.out _ HA0.out).1.cell 0 rfl
  have p1 := (HX.out _ HA0.out).1.cell 1 rfl
  have p2 := (HX.out _ HA0.out).1.cell 2 rfl
  have p3 := (HX.out _ HA0.out).1.cell 3 rfl
  have p4 := (HX.out _ HA0.out).1.cell 4 rfl
  have p5 := (HX.out _ HA0.out).1.cell 5 rfl
  have p6 := (HX.out _ HA0.out).1.cell 6 rfl
  have p7 := (HX.out _ HA0.out).1.cell 7 rfl
  have p8 := (HX.out _ HA0.out).1.cell 8 rfl
  have p9 := (HX.out _ HA0.out).1.cell 9 rfl
  have p10 := (HX.out _ HA0.out).1.cell 10 rfl
  go_enter Tryz.func20, Tryz.ntmps20
  go_upto_region 1 with fail
  rw [HE.out]
  clear HE
  go_wp2_with fail
  refine (anyZ_W wa wc _ w0).mono ?_
  rintro _ W1 ⟨rfl, hb1⟩
  have HB1 : Hid (Below w0.heap.size w0 W1) := hb1
  clear hb1 p0 p1 p2 p3 p4 p5 p6 p7 p8 p9 p10
  have p0 := (HX.out _ HB1.out).1.cell 0 rfl
  have p1 := (HX.out _ HB1.out).1.cell 1 rfl
  have p2 := (HX.out _ HB1.out).1.cell 2 rfl
  have p3 := (HX.out _ HB1.out).1.cell 3 rfl
  have p4 := (HX.out _ HB1.out).1.cell 4 rfl
  have p5 := (HX.out _ HB1.out).1.cell 5 rfl
  have p6 := (HX.out _ HB1.out).1.cell 6 rfl
  have p7 := (HX.out _ HB1.out).1.cell 7 rfl
  have p8 := (HX.out _ HB1.out).1.cell 8 rfl
  have p9 := (HX.out _ HB1.out).1.cell 9 rfl
  have p10 := (HX.out _ HB1.out).1.cell 10 rfl
  go_wp2_with fail
  refine (anyZ_H ta tc _ W1).mono ?_
  rintro _ W2 ⟨rfl, hb2⟩
  have HB2 : Hid (Below w0.heap.size w0 W2) := HB1.out.trans (hb2.mono HB1.out.size)
  clear hb2 HB1 p0 p1 p2 p3 p4 p5 p6 p7 p8 p9 p10
  have p0 := (HX.out _ HB2.out).1.cell 0 rfl
  have p1 := (HX.out _ HB2.out).1.cell 1 rfl
  have p2 := (HX.out _ HB2.out).1.cell 2 rfl
  have p3 := (HX.out _ HB2.out).1.cell 3 rfl
  have p4 := (HX.out _ HB2.out).1.cell 4 rfl
  have p5 := (HX.out _ HB2.out).1.cell 5 rfl
  have p6 := (HX.out _ HB2.out).1.cell 6 rfl
  have p7 := (HX.out _ HB2.out).1.cell 7 rfl
  have p8 := (HX.out _ HB2.out).1.cell 8 rfl
  have p9 := (HX.out _ HB2.out).1.cell 9 rfl
  have p10 := (HX.out _ HB2.out).1.cell 10 rfl
  go_wp2_with fail
  refine (anyZ_H ha hc _ W2).mono ?_
  rintro _ W3 ⟨rfl, hb3⟩
  have HB3 : Hid (Below w0.heap.size w0 W3) := HB2.out.trans (hb3.mono HB2.out.size)
  clear hb3 HB2 p0 p1 p2 p3 p4 p5 p6 p7 p8 p9 p10
  have p0 := (HX.out _ HB3.out).1.cell 0 rfl
  have p1 := (HX.out _ HB3.out).1.cell 1 rfl
  have p2 := (HX.out _ HB3.out).1.cell 2 rfl
  have p3 := (HX.out _ HB3.out).1.cell 3 rfl
  have p4 := (HX.out _ HB3.out).1.cell 4 rfl
  have p5 := (HX.out _ HB3.out).1.cell 5 rfl
  have p6 := (HX.out _ HB3.out).1.cell 6 rfl
  have p7 := (HX.out _ HB3.out).1.cell 7 rfl
  have p8 := (HX.out _ HB3.out).1.cell 8 rfl
  have p9 := (HX.out _ HB3.out).1.cell 9 rfl
  have p10 := (HX.out _ HB3.out).1.cell 10 rfl
  go_wp2_with fail
  refine (implCls_any ca cn cc lo l W3 (HX.out _ HB3.out).2.1 HZ.out.1 hl HZ.out.2.1).mono ?_
  rintro _ W4 ⟨rfl, hb4⟩
  have HB4 : Hid (Below w0.heap.size w0 W4) := HB3.out.trans (hb4.mono HB3.out.size)
  clear hb4 HB3 p0 p1 p2 p3 p4 p5 p6 p7 p8 p9 p10
  cases hcb : clsB (l.map CE.u)
  case false =>
    have HCb : Hid (clsB (l.map CE.u) = false) := hcb
    clear hcb
    have HE1 : Hid (Below w.heap.size w W4) := (HX.out _ HB4.out).2.2.2
    go_wp2_with fail
    go_ret
    exact ⟨by rw [HCb.out, Bool.and_false]; rfl, HE1.out⟩
  have HCb : Hid (clsB (l.map CE.u) = true) := hcb
  clear hcb
  have p0 := (HX.out _ HB4.out).1.cell 0 rfl
  have p1 := (HX.out _ HB4.out).1.cell 1 rfl
  have p2 := (HX.out _ HB4.out).1.cell 2 rfl
  have p3 := (HX.out _ HB4.out).1.cell 3 rfl
  have p4 := (HX.out _ HB4.out).1.cell 4 rfl
  have p5 := (HX.out _ HB4.out).1.cell 5 rfl
  have p6 := (HX.out _ HB4.out).1.cell 6 rfl
  have p7 := (HX.out _ HB4.out).1.cell 7 rfl
  have p8 := (HX.out _ HB4.out).1.cell 8 rfl
  have p9 := (HX.out _ HB4.out).1.cell 9 rfl
  have p10 := (HX.out _ HB4.out).1.cell 10 rfl
  go_wp2_with fail
  refine (anyBest_any za cn zc W4 (HT.out _ HB4.out).1 hl).mono ?_
  rintro _ W5 ⟨rfl, hb5⟩
  have HB5 : Hid (Below w0.heap.size w0 W5) := HB4.out.trans (hb5.mono HB4.out.size)
  clear hb5 HB4 p0 p1 p2 p3 p4 p5 p6 p7 p8 p9 p10
  have p0 := (HX.out _ HB5.out).1.cell 0 rfl
  have p1 := (HX.out _ HB5.out).1.cell 1 rfl
  have p2 := (HX.out _ HB5.out).1.cell 2 rfl
  have p3 := (HX.out _ HB5.out).1.cell 3 rfl
  have p4 := (HX.out _ HB5.out).1.cell 4 rfl
  have p5 := (HX.out _ HB5.out).1.cell 5 rfl
  have p6 := (HX.out _ HB5.out).1.cell 6 rfl
  have p7 := (HX.out _ HB5.out).1.cell 7 rfl
  have p8 := (HX.out _ HB5.out).1.cell 8 rfl
  have p9 := (HX.out _ HB5.out).1.cell 9 rfl
  have p10 := (HX.out _ HB5.out).1.cell 10 rfl
  go_wp2_with fail
  refine (implSvok_any a0 n0 c0 X a1 n1 c1 Y ep nx ua 0 uc lo [] ha 0 hc [] W5 (HX.out _ HB5.out).2.2.1.now.strs (HX.out _ HB5.out).2.2.1.sure.strs hn0 hn1 HZ.out.2.2 (HX.out _ HB5.out).2.2.1.ups rfl (by omega) ⟨rfl, by simp, .inl rfl⟩ (by omega) (HX.out _ HB5.out).2.2.1.now.sl (HT.out _ HB5.out).2.1 (HT.out _ HB5.out).2.2).mono ?_
  rintro _ W6 ⟨rfl, hb6⟩
  have HE1 : Hid (Below w.heap.size w W6) := (HX.out _ (HB5.out.trans (hb6.mono HB5.out.size))).2.2.2
  rw [show List.map UE.u [] = [] from rfl]
  clear hb6 p0 p1 p2 p3 p4 p5 p6 p7 p8 p9 p10
  obtain ⟨B, hB⟩ : ∃ B, svB X Y ep nx [] [] = B := ⟨_, rfl⟩
  have HBe : Hid (svB X Y ep nx [] [] = B) := hB
  rw [hB]
  clear hB
  go_wp2_with fail
  go_ret
  exact ⟨by rw [HCb.out, Bool.and_true, HBe.out]; rfl, HE1.out⟩

end Go.Proofs.YtemcjenpgdieoaaGreatDoor

namespace Go.Proofs.YtemcjenpgdieoaaGreatDoor
open Go.RowKit
set_option linter.unusedVariables false

/-- The cells of a row of truths. -/
def bcells (l : List Bool) : List Value := l.map Value.bool

theorem bcells_len (l : List Bool) : (bcells l).length = l.length := List.length_map ..

theorem bcells_at (l : List Bool) (i : Nat) (hi : i < l.length) : (bcells l)[i]? = some (.bool (l[i])) := by
  simp [bcells, hi]

theorem bcells_append (l r : List Bool) : bcells (l ++ r) = bcells l ++ bcells r := by simp [bcells]

theorem bcells_set (l : List Bool) (x : Bool) (k : Nat) : (bcells l).set k (.bool x) = bcells (l.set k x) := by simp [bcells, List.map_set]

theorem bcells_one (l : List Bool) : ∀ u ∈ bcells l, u.oneCell' = true := by
  intro u hu
  simp only [bcells, List.mem_map] at hu
  obtain ⟨x, _, rfl⟩ := hu
  rfl

/-- The slice (a, n) holds the truths l in the world w. -/
def Bools (w : World) (a : Option Addr) (n : Nat) (l : List Bool) : Prop :=
  l.length = n ∧ True ∧
  (n = 0 ∨ ∃ b off, a = some ⟨b, off, none⟩ ∧ b < w.heap.size ∧ ∀ i (hi : i < l.length), w.cell? ⟨b, off + i, none⟩ = some (.bool (l[i])))

theorem Bools.below {w w' : World} {a : Option Addr} {n : Nat} {l : List Bool} (h : Bools w a n l) (hb : Below w.heap.size w w') : Bools w' a n l := by
  obtain ⟨h1, h2, h3⟩ := h
  refine ⟨h1, h2, ?_⟩
  rcases h3 with h0 | ⟨b, off, ha, hlt, hc⟩
  · exact .inl h0
  · exact .inr ⟨b, off, ha, Nat.lt_of_lt_of_le hlt hb.size, fun i hi => (hb.cell (p := ⟨b, off + i, none⟩) hlt).trans (hc i hi)⟩

/-- The cell at one index. -/
theorem Bools.at {w : World} {a : Option Addr} {n : Nat} {l : List Bool} (h : Bools w a n l) {k : Nat} (hk : k < n) : ∃ b off x, a = some ⟨b, off, none⟩ ∧ b < w.heap.size ∧ l[k]? = some x ∧ w.cell? ⟨b, off + k, none⟩ = some (.bool x) := by
  obtain ⟨h1, h2, h3⟩ := h
  rcases h3 with h0 | ⟨b, off, ha, hlt, hc⟩
  · omega
  · have hk' : k < l.length := by omega
    exact ⟨b, off, l[k], ha, hlt, List.getElem?_eq_getElem hk', hc k hk'⟩

theorem Bools.cells {w : World} {a : Option Addr} {n : Nat} {l : List Bool} (h : Bools w a n l) : ∀ ad, a = some ad → ∀ j u, (bcells l)[j]? = some u → w.cell? (ad.add j) = some u := by
  intro ad ha j u hj
  have hjl : j < l.length := by
    rw [← bcells_len]
    exact (List.getElem?_eq_some_iff.1 hj).1
  rcases h.2.2 with h0 | ⟨b, off, e, hb, hc⟩
  · have := h.1
    omega
  · rw [ha] at e
    injection e with e
    subst e
    have hadd : (⟨b, off, none⟩ : Addr).add j = ⟨b, off + j, none⟩ := by unfold Addr.add; split <;> simp_all
    rw [hadd, hc j hjl, ← bcells_at l j hjl, hj]

theorem Bools.none_nil {w : World} {a : Option Addr} {n : Nat} {l : List Bool} (h : Bools w a n l) (ha : a = none) : n = 0 := by
  rcases h.2.2 with h0 | ⟨b, off, e, _⟩
  · exact h0
  · rw [ha] at e
    cases e

theorem Bools.nil (w : World) (a : Option Addr) : Bools w a 0 [] := ⟨rfl, trivial, .inl rfl⟩

/-- A slice value that owns these truths, in a block from base on. -/
def OwnBo (w : World) (base : Nat) (v : Value) (n : Nat) (l : List Bool) : Prop := w.ownsRow base 4 1 v n (bcells l)∧ True

theorem OwnBo.len {w : World} {base n : Nat} {v : Value} {l : List Bool} (h : OwnBo w base v n l) : l.length = n := by
  have := h.1.1
  rw [bcells_len] at this
  omega

theorem OwnBo.shape {w : World} {base n : Nat} {v : Value} {l : List Bool} (h : OwnBo w base v n l) : ∃ a cap, v = .slice a n cap := by
  rcases h.1.2 with ⟨rfl, rfl⟩ | ⟨g, cap, cur, rfl, _⟩
  · exact ⟨_, _, rfl⟩
  · exact ⟨_, _, rfl⟩

theorem OwnBo.strs {w : World} {base n cap : Nat} {a : Option Addr} {l : List Bool} (h : OwnBo w base (.slice a n cap) n l) : Bools w a n l := by
  have hl := h.len
  refine ⟨hl, h.2, ?_⟩
  rcases h.1.2 with ⟨_, hn⟩ | ⟨g, cap', cur, he, hb, hg, hn, hm, hc, ht⟩
  · exact .inl hn
  · injection he with e1 e2 e3
    subst e1
    refine .inr ⟨g, 0, rfl, (Array.getElem?_eq_some_iff.1 hg).1, fun i hi => ?_⟩
    have hi' : i < n := by omega
    rw [Nat.zero_add, cell_of_row w g i cur _ (0, 0) hg, ← bcells_at l i hi, ← ht, List.getElem?_take, if_pos (by omega), Array.getElem?_toList]

theorem OwnBo.below {w w' : World} {base n : Nat} {v : Value} {l : List Bool} (h : OwnBo w base v n l) (hb : Below w.heap.size w w') : OwnBo w' base v n l := by
  refine ⟨⟨h.1.1, ?_⟩, h.2⟩
  rcases h.1.2 with h0 | ⟨g, cap, cur, he, hg, hh, r⟩
  · exact .inl h0
  · exact .inr ⟨g, cap, cur, he, hg, (hb.block g (Array.getElem?_eq_some_iff.1 hh).1).trans hh, r⟩

theorem OwnBo.grown {w w' : World} {base n : Nat} {v : Value} {l : List Bool} {r : Option Nat} (h : OwnBo w base v n l) (hg : w.grownBy w' r) (hr : ∀ q, r = some q → ∀ p m c, v = .slice (some p) m c → p.block ≠ q) : OwnBo w' base v n l := by
  refine ⟨⟨h.1.1, ?_⟩, h.2⟩
  rcases h.1.2 with h0 | ⟨g, cap, cur, he, hgb, hh, rest⟩
  · exact .inl h0
  · refine .inr ⟨g, cap, cur, he, hgb, (hg.block g (Array.getElem?_eq_some_iff.1 hh).1 ?_).trans hh, rest⟩
    intro e
    exact hr g e.symm _ _ _ he rfl

theorem info_bool : (Tryz.prog.info? 4).map (fun i => (i.zero, i.size, i.bytes)) = some (some (.bool false), 1, 1) := by kernel_rfl

/-- A row that is copied up to k. -/
def browTo (l : List Bool) (len k : Nat) : List Bool := l.take k ++ List.replicate (len - k) false

theorem browTo_step (l : List Bool) (len k : Nat) (x : Bool) (h : l[k]? = some x) (hk : k < len) : (browTo l len k).set k x = browTo l len (k + 1) := by
  have hl : k < l.length := (List.getElem?_eq_some_iff.1 h).1
  have ht : (l.take k).length = k := by simp; omega
  rw [browTo, browTo, List.set_append_right k _ (by omega), ht, Nat.sub_self, List.take_add_one, h, show len - k = (len - (k + 1)) + 1 by omega, List.replicate_succ]
  simp

theorem browTo_len (l : List Bool) (len k : Nat) (h : l.length = len) (hk : k ≤ len) : (browTo l len k).length = len := by
  simp [browTo]; omega

end Go.Proofs.YtemcjenpgdieoaaGreatDoor

namespace Go.Proofs.YtemcjenpgdieoaaGreatDoor
open Go.RowKit
set_option linter.unusedVariables false

/-- The rows of a world in which nothing is yet. -/
structure WdAt (W : World) (base M : Nat) (a : Option Addr) (c : Nat) (a' : Option Addr) (c' : Nat) (u : Option Addr) (uc : Nat) (ca : Option Addr) (cc : Nat) (ba : Option Addr) (bc : Nat) (za : Option Addr) (zc N : Nat) (l : List CE) : Prop where
  sto : StoAt W base a M c (List.replicate M ⟨#[]⟩) a' M c' (List.replicate M ⟨#[]⟩) u 0 uc []
  cls : ClRow W base (.slice ca N cc) l
  len : N = l.length
  busy : W.ownsRow base 4 1 (.slice ba N bc) N (bcells (List.replicate N false))
  best : W.ownsRow base 3 1 (.slice za N zc) N (icells (List.replicate N (-1)))

theorem WdAt.stays {W W' : World} {base M : Nat} {a : Option Addr} {c : Nat} {a' : Option Addr} {c' : Nat} {u : Option Addr} {uc : Nat} {ca : Option Addr} {cc : Nat} {ba : Option Addr} {bc : Nat} {za : Option Addr} {zc N : Nat} {l : List CE} (h : WdAt W base M a c a' c' u uc ca cc ba bc za zc N l) (hb : Below W.heap.size W W') : WdAt W' base M a c a' c' u uc ca cc ba bc za zc N l :=
  ⟨h.sto.stays hb, h.cls.stays hb, h.len, own_below h.busy hb, own_below h.best hb⟩

theorem WdAt.low {W : World} {base b M : Nat} {a : Option Addr} {c : Nat} {a' : Option Addr} {c' : Nat} {u : Option Addr} {uc : Nat} {ca : Option Addr} {cc : Nat} {ba : Option Addr} {bc : Nat} {za : Option Addr} {zc N : Nat} {l : List CE} (h : WdAt W base M a c a' c' u uc ca cc ba bc za zc N l) (hb : b ≤ base) : WdAt W b M a c a' c' u uc ca cc ba bc za zc N l :=
  ⟨h.sto.low hb, h.cls.low hb, h.len, own_low h.busy hb, own_low h.best hb⟩

theorem WdAt.none (W : World) (base : Nat) : WdAt W base 0 Option.none 0 Option.none 0 Option.none 0 Option.none 0 Option.none 0 Option.none 0 0 [] :=
  ⟨⟨⟨⟨rfl, .inl ⟨rfl, rfl⟩⟩, by simp⟩, ⟨⟨rfl, .inl ⟨rfl, rfl⟩⟩, by simp⟩, by simp, ⟨⟨rfl, .inl ⟨rfl, rfl⟩⟩, by simp, List.Pairwise.nil⟩, rfl⟩, ⟨⟨rfl, .inl ⟨rfl, rfl⟩⟩, by simp, List.Pairwise.nil⟩, rfl, ⟨rfl, .inl ⟨rfl, rfl⟩⟩, ⟨rfl, .inl ⟨rfl, rfl⟩⟩⟩

/-- An answer that is a world in which nothing is yet. -/
def AnsWd (base M : Nat) (us : List Cu) (v : Value) (w' : World) : Prop :=
  ∃ (a : Option Addr) (c : Nat) (a' : Option Addr) (c' : Nat) (u : Option Addr) (uc : Nat) (ha : Option Addr) (hc : Nat) (ca : Option Addr) (cc : Nat) (ba : Option Addr) (bc : Nat) (wa : Option Addr) (wc : Nat) (ta : Option Addr) (tc : Nat) (za : Option Addr) (zc N : Nat) (l : List CE), v = .agg #[.slice a M c, .slice a' M c', .int .i64 0, .int .i64 0, .slice u 0 uc, .slice ha 0 hc, .slice ca N cc, .slice ba N bc, .slice wa 0 wc, .slice ta 0 tc, .slice za N zc] ∧ WdAt w' base M a c a' c' u uc ca cc ba bc za zc N l ∧ l.map CE.u = us ∧ N = us.length

theorem AnsWd.zero (base : Nat) (w : World) : AnsWd base 0 [] (.agg #[.slice Option.none 0 0, .slice Option.none 0 0, .int .i64 0, .int .i64 0, .slice Option.none 0 0, .slice Option.none 0 0, .slice Option.none 0 0, .slice Option.none 0 0, .slice Option.none 0 0, .slice Option.none 0 0, .slice Option.none 0 0]) w :=
  ⟨_, _, _, _, _, _, _, _, _, _, _, _, _, _, _, _, _, _, _, _, rfl, WdAt.none w base, rfl, rfl⟩

theorem StoAt.keptE {W W' : World} {base n ca : Nat} {a : Option Addr} {X : List ByteArray} {a' : Option Addr} {n' ca' : Nat} {Y : List ByteArray} {ua : Option Addr} {un uc : Nat} {l : List UE} (h : StoAt W base a n ca X a' n' ca' Y ua un uc l) (k1 : KeptE 9 W W') (k2 : KeptE 147 W W') (k3 : KeptE 5 W W') : StoAt W' base a n ca X a' n' ca' Y ua un uc l :=
  ⟨⟨ownsRow_keptE h.now.1 k1, h.now.2⟩, ⟨ownsRow_keptE h.sure.1 k1, h.sure.2⟩, h.apart, ⟨ownsRow_keptE h.ups.1 k2, fun e he => ⟨ownsRow_keptE (h.ups.2.1 e he).1 k3, (h.ups.2.1 e he).2⟩, h.ups.2.2⟩, h.len⟩

theorem ClRow.keptE {W W' : World} {base : Nat} {v : Value} {l : List CE} (h : ClRow W base v l) (k1 : KeptE 51 W W') (k3 : KeptE 5 W W') : ClRow W' base v l :=
  ⟨ownsRow_keptE h.1 k1, fun e he => ⟨ownsRow_keptE (h.2.1 e he).1 k3, (h.2.1 e he).2⟩, h.2.2⟩

theorem keptE_box {W : World} {b i : Nat} {t t' : TypeId} {vs : List Value} (u : Value) (h : BoxN W b t vs) (ht : t ≠ t') : KeptE t' W (W.setCell ⟨b, i, none⟩ u) := by
  intro q cs z hq
  refine ((grownBy_setU W b i u).block q (Array.getElem?_eq_some_iff.1 hq).1 (fun e => ?_)).trans hq
  injection e with e
  subst e
  have h' : W.heap[q]? = some (.cells vs.toArray t (0, 0)) := h
  rw [h'] at hq
  injection hq with hq
  injection hq with _ h2 _
  exact ht h2

/-- An append onto a row of a call's own leaves the blocks of all other types as they were. -/
theorem keptE_app {W W' : World} {o : Obj} {t e : TypeId} {base size n : Nat} {v : Value} {xs : List Value} (h : W.ownsRow base e size v n xs) (hg : (W.alloc o).grownBy W' v.ownBlock) (ht : e ≠ t) : KeptE t W W' :=
  (keptE_below ((Below.refl _ _).alloc (Nat.le_refl _) o)).trans (keptE_grown hg (own_below h ((Below.refl _ _).alloc (Nat.le_refl _) o)) ht)

end Go.Proofs.YtemcjenpgdieoaaGreatDoor
