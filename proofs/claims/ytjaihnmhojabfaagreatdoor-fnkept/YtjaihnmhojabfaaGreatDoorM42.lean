/- Where the program finds an upload of a store. Whether the program holds sectors to be left. What the program's makeCode answers. An append onto a row of the call's own from a slice that may be nil: as an operation, as a step of a region that draws. No program in it. The library's Clone of texts, and the program's copy of a disk: the same in memory of its own. What the program's copy of a disk answers. What the program's copy of an upload answers. -/
import Derived.Test.YtjaihnmhojabfaaGreatDoorM08
import Derived.Test.YtjaihnmhojabfaaGreatDoorM04
import Derived.Deep.CutBlock
import Derived.Test.YtjaihnmhojabfaaGreatDoorM41
import Derived.Test.YtjaihnmhojabfaaGreatDoorM36
import Derived.Test.YtjaihnmhojabfaaGreatDoorM06
import Derived.Deep.RegionLaw
import Derived.Deep.AppendSrc
import Derived.Laws.AppendOwn
import Derived.WalkKit
import Derived.Lib.SliceRun
import Derived.Deep.RegionHeld3
import Derived.Test.YtjaihnmhojabfaaGreatDoorM10
import Derived.Test.YtjaihnmhojabfaaGreatDoorM03
import Derived.Test.YtjaihnmhojabfaaGreatDoorM35
namespace Go.Proofs.YtjaihnmhojabfaaGreatDoor
open Go.RowKit
set_option linter.unusedVariables false

set_option maxRecDepth 10000 in
set_option maxHeartbeats 800000 in
theorem implUpIn_any (a : Option Addr) (n ca : Nat) (a' : Option Addr) (n' ca' : Nat) (ep nx : Int) (ua : Option Addr) (un uc lo : Nat) (l : List UE) (id : ByteArray) (w : World) (hu : UpRow w lo (.slice ua un uc) l) (hun : un = l.length) (hul : un ≤ 1099511627776) :
    Calls Tryz.prog 46 #[.agg #[.slice a n ca, .slice a' n' ca', .int .i64 ep, .int .i64 nx, .slice ua un uc], .string id] w fun e w' => e = .returned (.pointer (reachUO ua (atU (l.map UE.u) id))) ∧ Below w.heap.size w w' := by
  have HB : Hid (Below w.heap.size w (w.alloc (.cells #[.slice a n ca, .slice a' n' ca', .int .i64 ep, .int .i64 nx, .slice ua un uc] 29))) := (Below.refl _ _).alloc (Nat.le_refl _) _
  have HC : Hid (Calls Tryz.prog 85 #[.slice ua un uc, .string id] (w.alloc (.cells #[.slice a n ca, .slice a' n' ca', .int .i64 ep, .int .i64 nx, .slice ua un uc] 29)) fun e w' => e = .returned (.pointer (reachUO ua (atU (l.map UE.u) id))) ∧ Below (w.alloc (.cells #[.slice a n ca, .slice a' n' ca', .int .i64 ep, .int .i64 nx, .slice ua un uc] 29)).heap.size (w.alloc (.cells #[.slice a n ca, .slice a' n' ca', .int .i64 ep, .int .i64 nx, .slice ua un uc] 29)) w') := implReachU_any ua un uc lo id l _ (hu.stays HB.out) hun hul
  clear hu hun
  generalize reachUO ua (atU (l.map UE.u) id) = p at *
  go_enter Tryz.func46, Tryz.ntmps46
  go_wp2_with fail
  refine HC.out.mono ?_
  rintro _ w1 ⟨rfl, hb1⟩
  have HB1 : Hid (Below w.heap.size w w1) := HB.out.trans (hb1.mono HB.out.size)
  clear hb1
  go_wp2_with fail
  go_ret
  exact ⟨rfl, HB1.out⟩

end Go.Proofs.YtjaihnmhojabfaaGreatDoor

namespace Go.Proofs.YtjaihnmhojabfaaGreatDoor
open Go.RowKit
set_option linter.unusedVariables false

set_option maxRecDepth 10000 in
set_option maxHeartbeats 800000 in
theorem implRoom_any (a : Option Addr) (n ca : Nat) (a' : Option Addr) (n' ca' : Nat) (ep nx : Int) (ua : Option Addr) (un uc : Nat) (s : Int) (w : World) (hn : n ≤ 1099511627776) (hx : 0 ≤ nx ∧ nx ≤ 1099511627776) :
    Calls Tryz.prog 76 #[.agg #[.slice a n ca, .slice a' n' ca', .int .i64 ep, .int .i64 nx, .slice ua un uc], .int .i64 s] w fun e w' => e = .returned (.bool (decide (s ≤ (n : Int) - nx))) ∧ Below w.heap.size w w' := by
  obtain ⟨w0, hw0⟩ : ∃ w0, w.alloc (.cells #[.slice a n ca, .slice a' n' ca', .int .i64 ep, .int .i64 nx, .slice ua un uc] 29) = w0 := ⟨_, rfl⟩
  have HE : Hid (w.alloc (.cells #[.slice a n ca, .slice a' n' ca', .int .i64 ep, .int .i64 nx, .slice ua un uc] 29) = w0) := hw0
  have HQ : Hid (BoxN w0 w.heap.size 29 [.slice a n ca, .slice a' n' ca', .int .i64 ep, .int .i64 nx, .slice ua un uc]) := by show BoxN _ _ _ _; rw [← hw0]; exact BoxN.new _ _ _
  have HB : Hid (Below w.heap.size w w0) := by show Below _ _ _; rw [← hw0]; exact (Below.refl _ _).alloc (Nat.le_refl _) _
  clear hw0
  have c0 := HQ.out.cell 0 rfl
  have c3 := HQ.out.cell 3 rfl
  obtain ⟨hx0, hx1⟩ := hx
  go_enter Tryz.func76, Tryz.ntmps76
  go_upto_region 1 with fail
  rw [HE.out]
  clear HE
  go_wp2_with fail
  go_ret
  exact ⟨rfl, HB.out⟩

end Go.Proofs.YtjaihnmhojabfaaGreatDoor

namespace Go.Proofs.YtjaihnmhojabfaaGreatDoor
open Go.RowKit
set_option linter.unusedVariables false

set_option maxRecDepth 10000 in
set_option maxHeartbeats 3200000 in
theorem implMakeC_any (a : Option Addr) (n ca : Nat) (X : List ByteArray) (a' : Option Addr) (n' ca' : Nat) (Y : List ByteArray) (ep nx : Int) (ua : Option Addr) (un uc lo : Nat) (l : List UE) (id : ByteArray) (want : Int) (w : World) (h1 : Strs w a n X) (h2 : Strs w a' n' Y) (hn : n ≤ 1048576) (hn' : n' ≤ 1048576) (hzx : ∀ x ∈ X, x.size ≤ 1048576) (hu : UpRow w lo (.slice ua un uc) l) (hun : un = l.length) (hul : un ≤ 1048576) (hid : id.size ≤ maxLen) (hsl : SlOk a n ca) (ht : RecT w) (he : ErrN w) :
    Calls Tryz.prog 36 #[.agg #[.slice a n ca, .slice a' n' ca', .int .i64 ep, .int .i64 nx, .slice ua un uc], .string id, .int .i64 want] w fun e w' => e = .returned (.int .i64 (makeA X Y ep nx (l.map UE.u) id want).c) ∧ Below w.heap.size w w' := by
  have hmm : maxLen < 9223372036854775808 := by decide
  obtain ⟨w0, hw0⟩ : ∃ w0, w.alloc (.cells #[.slice a n ca, .slice a' n' ca', .int .i64 ep, .int .i64 nx, .slice ua un uc] 29) = w0 := ⟨_, rfl⟩
  have HE : Hid (w.alloc (.cells #[.slice a n ca, .slice a' n' ca', .int .i64 ep, .int .i64 nx, .slice ua un uc] 29) = w0) := hw0
  have hB : Below w.heap.size w w0 := by rw [← hw0]; exact (Below.refl _ _).alloc (Nat.le_refl _) _
  have hQ : BoxN w0 w.heap.size 29 [.slice a n ca, .slice a' n' ca', .int .i64 ep, .int .i64 nx, .slice ua un uc] := by rw [← hw0]; exact BoxN.new _ _ _
  have HX : Hid (∀ W, Below w0.heap.size w0 W → BoxN W w.heap.size 29 [.slice a n ca, .slice a' n' ca', .int .i64 ep, .int .i64 nx, .slice ua un uc] ∧ Strs W a n X ∧ Strs W a' n' Y ∧ UpRow W lo (.slice ua un uc) l ∧ Below w.heap.size w W ∧ RecT W ∧ ErrN W) := fun W hb => by
    have hw : Below w.heap.size w W := hB.trans (hb.mono hB.size)
    exact ⟨hQ.stays hb, h1.below hw, h2.below hw, hu.stays hw, hw, ht.below hw, he.below hw⟩
  have HL : Hid (un = l.length ∧ (∀ x ∈ X, x.size ≤ 1048576) ∧ X.length = n) := ⟨hun, hzx, h1.1⟩
  have HA0 : Hid (Below w0.heap.size w0 w0) := Below.refl _ _
  clear hw0 h1 h2 hu hun hzx ht he hB hQ
  obtain ⟨c0, c1, c2, c3, c4⟩ := (show _ ∧ _ ∧ _ ∧ _ ∧ _ from ⟨(HX.out _ HA0.out).1.cell 0 rfl, (HX.out _ HA0.out).1.cell 1 rfl, (HX.out _ HA0.out).1.cell 2 rfl, (HX.out _ HA0.out).1.cell 3 rfl, (HX.out _ HA0.out).1.cell 4 rfl⟩)
  go_enter Tryz.func36, Tryz.ntmps36
  go_upto_region 1 with fail
  rw [HE.out]
  clear HE
  go_wp2_with fail
  refine (implSok_any a n ca X a' n' ca' Y ep nx ua un uc lo l w0 (HX.out _ HA0.out).2.1 (HX.out _ HA0.out).2.2.1 hn hn' HL.out.2.1 (HX.out _ HA0.out).2.2.2.1 HL.out.1 hul hsl (HX.out _ HA0.out).2.2.2.2.2.1 (HX.out _ HA0.out).2.2.2.2.2.2).mono ?_
  rintro _ y1 ⟨rfl, hb1⟩
  have HC1 : Hid (Below w0.heap.size w0 y1) := hb1
  obtain ⟨ok, hok⟩ : ∃ ok, decB (SOk X Y ep nx (l.map UE.u)) = ok := ⟨_, rfl⟩
  rw [hok]
  clear hb1 c0 c1 c2 c3 c4
  cases ok with
  | false =>
    have hno : ¬ decB (SOk X Y ep nx (l.map UE.u)) = true := by rw [hok]; simp
    clear hok
    have HRs : Hid ((makeA X Y ep nx (l.map UE.u) id want).c = 1) := by show _ = _; rw [makeA, if_neg (fun h => hno h.1)]
    have HBw : Hid (Below w.heap.size w y1) := (HX.out _ HC1.out).2.2.2.2.1
    clear HX HC1
    go_wp2_with fail
    go_ret
    exact ⟨ret_int HRs.out.symm, HBw.out⟩
  | true =>
  have HDb : Hid (decB (SOk X Y ep nx (l.map UE.u)) = true) := hok
  have HSo : Hid (SOk X Y ep nx (l.map UE.u)) := decB_of hok
  clear hok
  go_wp2_with fail
  refine (implId_any id y1 (by omega)).mono ?_
  rintro _ y2 ⟨rfl, hb2⟩
  have HC2 : Hid (Below w0.heap.size w0 y2) := HC1.out.trans (hb2.mono HC1.out.size)
  clear hb2 HC1
  cases hidB : idB id.data.toList with
  | false =>
    have hno : ¬ idB id.data.toList = true := by rw [hidB]; simp
    clear hidB
    have HRs : Hid ((makeA X Y ep nx (l.map UE.u) id want).c = 1) := by show _ = _; rw [makeA, if_neg (fun h => hno h.2.1)]
    have HBw : Hid (Below w.heap.size w y2) := (HX.out _ HC2.out).2.2.2.2.1
    clear HX HC2
    go_wp2_with fail
    go_ret
    exact ⟨ret_int HRs.out.symm, HBw.out⟩
  | true =>
  have HId : Hid (idB id.data.toList = true) := hidB
  clear hidB
  by_cases hw0' : want < 0
  · have hd0 : decide (want < 0) = true := by simpa using hw0'
    have HRs : Hid ((makeA X Y ep nx (l.map UE.u) id want).c = 1) := by show _ = _; rw [makeA, if_neg (fun h => by have := h.2.2; omega)]
    have HBw : Hid (Below w.heap.size w y2) := (HX.out _ HC2.out).2.2.2.2.1
    clear HX HC2
    go_wp2_with fail
    go_ret
    exact ⟨ret_int HRs.out.symm, HBw.out⟩
  have hd0 : decide (want < 0) = false := by simpa using hw0'
  by_cases hw1' : 1000000 < want
  · have hd1 : decide (1000000 < want) = true := by simpa using hw1'
    have HRs : Hid ((makeA X Y ep nx (l.map UE.u) id want).c = 1) := by show _ = _; rw [makeA, if_neg (fun h => by have := h.2.2; omega)]
    have HBw : Hid (Below w.heap.size w y2) := (HX.out _ HC2.out).2.2.2.2.1
    clear HX HC2
    go_wp2_with fail
    go_ret
    exact ⟨ret_int HRs.out.symm, HBw.out⟩
  have hd1 : decide (1000000 < want) = false := by simpa using hw1'
  have hwant : 0 ≤ want ∧ want ≤ 1000000 := by omega
  obtain ⟨hen, hn0, hnX, hX200⟩ := HSo.out.nums
  obtain ⟨c0, c1, c2, c3, c4⟩ := (show _ ∧ _ ∧ _ ∧ _ ∧ _ from ⟨(HX.out _ HC2.out).1.cell 0 rfl, (HX.out _ HC2.out).1.cell 1 rfl, (HX.out _ HC2.out).1.cell 2 rfl, (HX.out _ HC2.out).1.cell 3 rfl, (HX.out _ HC2.out).1.cell 4 rfl⟩)
  go_wp2_with fail
  refine (implUpIn_any a n ca a' n' ca' ep nx ua un uc lo l id y2 (HX.out _ HC2.out).2.2.2.1 HL.out.1 (by omega)).mono ?_
  rintro _ y3 ⟨rfl, hb3⟩
  have HC3 : Hid (Below w0.heap.size w0 y3) := HC2.out.trans (hb3.mono HC2.out.size)
  clear hb3 HC2 c0 c1 c2 c3 c4
  cases hat : atU (l.map UE.u) id with
  | some k =>
    have hkl : k < l.length := by simpa using (atU_is hat).1
    obtain ⟨g, hg, _⟩ := (HX.out _ HC3.out).2.2.2.1.at HL.out.1 hkl
    have hre : reachUO ua (some k) = some ⟨g, k * 4, none⟩ := by rw [hg]; rfl
    rw [hre]
    clear hg hre
    have HRs : Hid ((makeA X Y ep nx (l.map UE.u) id want).c = 3) := by show _ = _; rw [makeA, if_pos ⟨HDb.out, HId.out, hwant⟩, hat, if_neg (by simp)]
    have HBw : Hid (Below w.heap.size w y3) := (HX.out _ HC3.out).2.2.2.2.1
    clear HX HC3
    go_wp2_with fail
    go_ret
    exact ⟨ret_int HRs.out.symm, HBw.out⟩
  | none =>
  rw [reachUO_none]
  obtain ⟨c0, c1, c2, c3, c4⟩ := (show _ ∧ _ ∧ _ ∧ _ ∧ _ from ⟨(HX.out _ HC3.out).1.cell 0 rfl, (HX.out _ HC3.out).1.cell 1 rfl, (HX.out _ HC3.out).1.cell 2 rfl, (HX.out _ HC3.out).1.cell 3 rfl, (HX.out _ HC3.out).1.cell 4 rfl⟩)
  by_cases hten : un = 10
  · have htn : (l.map UE.u).length = 10 := by rw [List.length_map, ← HL.out.1]; exact hten
    have hti : ((un : Int) == 10) = true := by rw [hten]; rfl
    clear hten
    have HRs : Hid ((makeA X Y ep nx (l.map UE.u) id want).c = 5) := by show _ = _; rw [makeA, if_pos ⟨HDb.out, HId.out, hwant⟩, hat, if_pos rfl, if_neg (fun h => h.2 htn)]
    have HBw : Hid (Below w.heap.size w y3) := (HX.out _ HC3.out).2.2.2.2.1
    clear HX HC3
    go_wp2_with fail
    go_ret
    exact ⟨ret_int HRs.out.symm, HBw.out⟩
  have hti : ((un : Int) == 10) = false := by simpa using (show ¬ (un : Int) = 10 by omega)
  have htn : (l.map UE.u).length ≠ 10 := by rw [List.length_map, ← HL.out.1]; exact hten
  go_wp2_with fail
  refine (implRoom_any a n ca a' n' ca' ep nx ua un uc 1 y3 (by omega) (by omega)).mono ?_
  rintro _ y4 ⟨rfl, hb4⟩
  have HC4 : Hid (Below w0.heap.size w0 y4) := HC3.out.trans (hb4.mono HC3.out.size)
  clear hb4 HC3 c0 c1 c2 c3 c4
  by_cases hroom : (1 : Int) ≤ (n : Int) - nx
  case neg =>
    rw [decide_eq_false hroom]
    have hrn : ¬ nx < (X.length : Int) := by have := HL.out.2.2; omega
    have HRs : Hid ((makeA X Y ep nx (l.map UE.u) id want).c = 5) := by show _ = _; rw [makeA, if_pos ⟨HDb.out, HId.out, hwant⟩, hat, if_pos rfl, if_neg (fun h => hrn h.1)]
    have HBw : Hid (Below w.heap.size w y4) := (HX.out _ HC4.out).2.2.2.2.1
    clear HX HC4
    go_wp2_with fail
    go_ret
    exact ⟨ret_int HRs.out.symm, HBw.out⟩
  rw [decide_eq_true hroom]
  have hrn : nx < (X.length : Int) := by have := HL.out.2.2; omega
  have HRs : Hid ((makeA X Y ep nx (l.map UE.u) id want).c = 0) := by show _ = _; rw [makeA, if_pos ⟨HDb.out, HId.out, hwant⟩, hat, if_pos rfl, if_pos ⟨hrn, htn⟩]; rfl
  have HBw : Hid (Below w.heap.size w y4) := (HX.out _ HC4.out).2.2.2.2.1
  clear HX HC4
  go_wp2_with fail
  go_ret
  exact ⟨ret_int HRs.out.symm, HBw.out⟩

end Go.Proofs.YtjaihnmhojabfaaGreatDoor

namespace Go.Proofs.YtjaihnmhojabfaaGreatDoor
open Go.RowKit
set_option linter.unusedVariables false

theorem run_append_src {P : Program} (w : World) (base : Nat) (t ty e : TypeId) (i : TypeInfo) (z : Value) (size bytes : Nat) (ht : P.underlying t = some (.slice e)) (hi : P.info? e = some i) (hz : i.zero = some z)
    (hsize : i.size = size) (hby : i.bytes = bytes) (hzs : z.cells.size = size) (hsz : 0 < size)
    (g n cap : Nat) (xs : List Value) (hown : w.ownsRow base e size (.slice (some ⟨g, 0, none⟩) n cap) n xs)
    (src : Option Addr) (m c : Nat) (news : List Value) (hnone : src = none → m = 0) (hl : news.length = m * size) (hnews : ∀ ad, src = some ad → ∀ j u, news[j]? = some u → w.cell? (ad.add j) = some u) (h1 : ∀ u ∈ news, u.oneCell' = true)
    (h63 : n + m ≤ maxLen) (hbytes : (n + m) * bytes ≤ 140737488355328) (hbase : base ≤ w.heap.size) :
    ∃ v' w', (Builtin.append_ #[t, t] ty #[.slice (some ⟨g, 0, none⟩) n cap, .slice src m c]).run P w = .ok v' w' ∧ w'.ownsRow base e size v' (n + m) (xs ++ news) ∧ w.grownBy w' (some g) := by
  cases src with
  | some ad =>
    obtain ⟨v', w', hr, r1, r2, _⟩ := run_append_own (P := P) w base t ty e i z size bytes ht hi hz hsize hby hzs hsz (.slice (some ⟨g, 0, none⟩) n cap) n xs hown ad m c news hl (hnews ad rfl) h1 h63 hbytes hbase
    exact ⟨v', w', hr, r1, r2⟩
  | none =>
    obtain rfl := hnone rfl
    obtain rfl : news = [] := List.eq_nil_of_length_eq_zero (by simpa using hl)
    have hcap : n ≤ cap := by
      rcases hown.2 with ⟨h, _⟩ | ⟨g', cap', cur, h, _, _, hc, _⟩
      · cases h
      · injection h with _ _ h3
        omega
    have hr := run_append_room_src (P := P) w t t ty e i ht hi g 0 n cap (.slice none 0 c) 0 [] (Src.ofNil w ht c) (by omega) (by intro j hj; simp at hj) (by intro j hj; simp at hj)
    refine ⟨_, _, hr, ?_, ?_⟩
    · rw [List.append_nil]
      exact hown
    · exact ⟨rfl, rfl, rfl, Nat.le_refl _, fun _ _ _ => rfl⟩

theorem wp_append_src {P : Program} {o : Oper} {a : Act} {w : World} {K : Act → World → Prop} {Q : Exit → Act → World → Prop} (s x : Operand) (t : TypeId)
    (ho : o.op = .call { callee := .builtin .append, args := #[s, x], argTypes := #[t, t] })
    (base : Nat) (e : TypeId) (i : TypeInfo) (z : Value) (size bytes : Nat) (ht : P.underlying t = some (.slice e)) (hi : P.info? e = some i) (hz : i.zero = some z)
    (hsize : i.size = size) (hby : i.bytes = bytes) (hzs : z.cells.size = size) (hsz : 0 < size)
    (g n cap : Nat) (xs : List Value) (hs : a.eval s = .slice (some ⟨g, 0, none⟩) n cap) (hown : w.ownsRow base e size (.slice (some ⟨g, 0, none⟩) n cap) n xs)
    (src : Option Addr) (m c : Nat) (news : List Value) (hx : a.eval x = .slice src m c) (hnone : src = none → m = 0) (hl : news.length = m * size) (hnews : ∀ ad, src = some ad → ∀ j u, news[j]? = some u → w.cell? (ad.add j) = some u) (h1 : ∀ u ∈ news, u.oneCell' = true)
    (h63 : n + m ≤ maxLen) (hbytes : (n + m) * bytes ≤ 140737488355328) (hbase : base ≤ w.heap.size)
    (h : ∀ v' w', w'.ownsRow base e size v' (n + m) (xs ++ news) → w.grownBy w' (some g) → K (a.put o.dst v') w') : o.wp P a w K Q := by
  obtain ⟨v', w', hr, h2, h3⟩ := run_append_src (P := P) w base t o.type e i z size bytes ht hi hz hsize hby hzs hsz g n cap xs hown src m c news hnone hl hnews h1 h63 hbytes hbase
  unfold Oper.wp execOp
  simp only [ho, resolve, invoke, builtin, Sem.run_bind, Sem.run_pure, Result.andThen_ok, List.map_toArray, List.map_cons, List.map_nil, hs, hx, hr]
  exact h v' w' h2 h3

theorem step_append_src {P : Program} {ops : Array Oper} {o : Oper} {a : Act} {w : World} {K : Act → World → Prop} {Q : Exit → Act → World → Prop} {E : Prop} (hg : o.guard = none) (s x : Operand) (t : TypeId)
    (ho : o.op = .call { callee := .builtin .append, args := #[s, x], argTypes := #[t, t] })
    (base : Nat) (e : TypeId) (i : TypeInfo) (z : Value) (size bytes : Nat) (ht : P.underlying t = some (.slice e)) (hi : P.info? e = some i) (hz : i.zero = some z)
    (hsize : i.size = size) (hby : i.bytes = bytes) (hzs : z.cells.size = size) (hsz : 0 < size)
    (g n cap : Nat) (xs : List Value) (hs : a.eval s = .slice (some ⟨g, 0, none⟩) n cap) (hown : w.ownsRow base e size (.slice (some ⟨g, 0, none⟩) n cap) n xs)
    (src : Option Addr) (m c : Nat) (news : List Value) (hx : a.eval x = .slice src m c) (hnone : src = none → m = 0) (hl : news.length = m * size) (hnews : ∀ ad, src = some ad → ∀ j u, news[j]? = some u → w.cell? (ad.add j) = some u) (h1 : ∀ u ∈ news, u.oneCell' = true)
    (h63 : n + m ≤ maxLen) (hbytes : (n + m) * bytes ≤ 140737488355328) (hbase : base ≤ w.heap.size)
    (h : ∀ v' w', w'.ownsRow base e size v' (n + m) (xs ++ news) → w.grownBy w' (some g) → K (a.put o.dst v') w') :
    if Region.wanted o (yielded ops a.tmps) = true then Oper.wp P o a w K Q else E := by
  have hw : Region.wanted o (yielded ops a.tmps) = true := by simp [Region.wanted, hg]
  rw [if_pos hw]
  exact wp_append_src s x t ho base e i z size bytes ht hi hz hsize hby hzs hsz g n cap xs hs hown src m c news hx hnone hl hnews h1 h63 hbytes hbase h

theorem step_call_any {P : Program} {ops : Array Oper} {o : Oper} {a : Act} {w : World} {K : Act → World → Prop} {Q : Exit → Act → World → Prop} {E : Prop}
    (hg : o.guard = none) (f : FuncId) (x : Operand) (t : TypeId) (ho : o.op = .call { callee := .value (.func f), args := #[x], argTypes := #[t] })
    (hent : ∀ args w, (callFunc f args).run P w = .ok (.enter f args) w) (u : Value) (hx : a.eval x = u) (R : Ending → World → Prop)
    (hc : Calls P f #[u] w R) (h : ∀ e w', R e w' → ∃ v, e = .returned v ∧ K (a.put o.dst v) w') :
    if Region.wanted o (yielded ops a.tmps) = true then Oper.wp P o a w K Q else E := by
  have hw : Region.wanted o (yielded ops a.tmps) = true := by simp [Region.wanted, hg]
  rw [if_pos hw]
  have hf : a.eval (.func f) = .func (.func f) #[] #[] := rfl
  unfold Oper.wp
  simp [execOp, ho, resolve, invoke, Deferred.ofValue, hent, hf, hx, Oper.upon_enter]
  refine hc.mono ?_
  intro e w' hr
  obtain ⟨v, rfl, hk⟩ := h e w' hr
  exact hk

end Go.Proofs.YtjaihnmhojabfaaGreatDoor

namespace Go.Proofs.YtjaihnmhojabfaaGreatDoor
open Go.RowKit
set_option linter.unusedVariables false

theorem cloneRow_shape {w : World} {base n : Nat} {v : Value} {xs : List Value} (h : w.ownsRow base 9 1 v n xs) : ∃ a cap, v = .slice a n cap := by
  rcases h.2 with ⟨rfl, rfl⟩ | ⟨g, cap, cur, rfl, _⟩
  · exact ⟨_, _, rfl⟩
  · exact ⟨_, _, rfl⟩

set_option maxRecDepth 10000 in
set_option maxHeartbeats 400000 in
theorem cloneS_any (a : Option Addr) (len cap : Nat) (l : List ByteArray) (w : World) (hs : Strs w a len l) (hl : len ≤ 2097152) :
    Calls Tryz.prog 99 #[.slice a len cap] w fun e w' => (∃ a' cap', e = .returned (.slice a' len cap') ∧ OwnSt w' w.heap.size (.slice a' len cap') len l) ∧ Below w.heap.size w w' := by
  obtain ⟨i0, hi, hz0, hz1, hz2⟩ := info_parts info_string
  have qT : ∀ (w : World) (a : Option Addr) (n c n' c' : Nat), (binOp .eql 24 (.slice a n c) (.slice none n' c')).run Tryz.prog w = .ok (.bool a.isNone) w := fun w a n c n' c' => Lib.run_eql_slice_nil w _ _ a n c n' c' Tryz.underlying24
  cases a with
  | none =>
    have h0 := hs.none_nil rfl
    subst h0
    obtain rfl : l = [] := List.eq_nil_of_length_eq_zero hs.1
    go_enter Tryz.func99, Tryz.ntmps99
    go_wp2
    go_ret
    exact ⟨⟨none, 0, rfl, ⟨World.ownsRow_nil _ _ _ _, by simp⟩⟩, Below.refl _ _⟩
  | some ad =>
    have hzl : l.length = len := hs.1
    have HR : Hid (∀ x ∈ l, x.size ≤ maxLen) := hs.2.1
    have HS1 : Hid (Strs (w.alloc (.cells #[] 9)) (some ad) len l) := hs.below ((Below.refl _ _).alloc (Nat.le_refl _) _)
    have HO1 : Hid ((w.alloc (.cells #[] 9)).ownsRow w.heap.size 9 1 (.slice (some ⟨w.heap.size, 0, none⟩) 0 0) 0 []) := World.ownsRow_lit w #[] 0 (Nat.le_refl _) (Nat.zero_le _) rfl
    clear hs
    go_enter Tryz.func99, Tryz.ntmps99
    go_wp2_with (at_builtin; refine wpList_append_own _ rfl _ _ 24 rfl w.heap.size 9 i0 (.string ⟨#[]⟩) 1 16 Tryz.underlying24 hi hz0 hz1 hz2 rfl (by decide) (.slice (some ⟨w.heap.size, 0, none⟩) 0 0) 0 [] rfl HO1.out ad len cap (scells l) rfl (by rw [scells_len, hzl, Nat.mul_one]) (HS1.out.cells ad rfl) (scells_one l) (by unfold maxLen; omega) (by omega) (by simp) ?_; intro v1 w1 hown1 hgrow1 _; refine Hid.out ?_)
    refine hidden ?_
    have HB1 : Hid (Below w.heap.size w w1) := ((Below.refl _ _).alloc (Nat.le_refl _) _).grown hgrow1 (by simp) (by simp [Value.ownBlock])
    obtain ⟨a1, c1, rfl⟩ := cloneRow_shape hown1
    have HO2 : Hid (w1.ownsRow w.heap.size 9 1 (.slice a1 len c1) len (scells l)) := by
      show World.ownsRow _ _ _ _ _ _ _
      have h := hown1
      rw [Nat.zero_add] at h
      simpa using h
    have hll : 0 + len = len := Nat.zero_add _
    rw [hll]
    clear hown1 hgrow1
    go_wp2_with fail
    go_ret
    exact ⟨⟨_, _, rfl, ⟨HO2.out, HR.out⟩⟩, HB1.out⟩

end Go.Proofs.YtjaihnmhojabfaaGreatDoor

namespace Go.Proofs.YtjaihnmhojabfaaGreatDoor
open Go.RowKit
set_option linter.unusedVariables false

theorem blkOf_sC (a : Option Addr) (n c : Nat) : blkOf (.slice a n c) = a.map (·.block) := by cases a <;> rfl

set_option maxRecDepth 10000 in
set_option maxHeartbeats 3200000 in
theorem implDcopy_any (a : Option Addr) (n ca : Nat) (xs : List ByteArray) (a' : Option Addr) (n' ca' : Nat) (ys : List ByteArray) (w : World) (h1 : Strs w a n xs) (h2 : Strs w a' n' ys) (hn : n ≤ 2097152) (hn' : n' ≤ 2097152) :
    Calls Tryz.prog 64 #[.agg #[.slice a n ca, .slice a' n' ca']] w fun e w' => (∃ v, e = .returned v ∧ AnsD w.heap.size xs ys v w') ∧ Below w.heap.size w w' := by
  have HLn : Hid (xs.length = n ∧ ys.length = n') := ⟨h1.1, h2.1⟩
  obtain ⟨W2, hW2⟩ : ∃ W2, (w.alloc (.cells #[.slice a n ca, .slice a' n' ca'] 26)).alloc (.cells #[.slice none 0 0, .slice none 0 0] 26) = W2 := ⟨_, rfl⟩
  have HE : Hid ((w.alloc (.cells #[.slice a n ca, .slice a' n' ca'] 26)).alloc (.cells #[.slice none 0 0, .slice none 0 0] 26) = W2) := hW2
  have HB2 : Hid (Below w.heap.size w W2) := by show Below _ _ _; rw [← hW2]; exact ((Below.refl _ _).alloc (Nat.le_refl _) _).alloc (by simp) _
  have HZ2 : Hid (W2.heap.size = w.heap.size + 2) := by show _ = _; rw [← hW2]; simp
  have q1 : Box2R W2 w.heap.size 26 (.slice a n ca) (.slice a' n' ca') := by rw [← hW2]; exact (Box2R.new _ _ _ _).alloc _
  have q2 : Box2R W2 (w.heap.size + 1) 26 (.slice none 0 0) (.slice none 0 0) := by
    rw [← hW2]
    have := Box2R.new (w.alloc (.cells #[.slice a n ca, .slice a' n' ca'] 26)) 26 (.slice none 0 0) (.slice none 0 0)
    rwa [World.size_alloc] at this
  have HQ : Hid (∀ W, Below W2.heap.size W2 W → Box2R W w.heap.size 26 (.slice a n ca) (.slice a' n' ca') ∧ Box2R W (w.heap.size + 1) 26 (.slice none 0 0) (.slice none 0 0)) := fun W h => ⟨q1.stays h, q2.stays h⟩
  have HX : Hid (∀ W, Below W2.heap.size W2 W → Strs W a n xs ∧ Strs W a' n' ys) := fun W h => by
    have hw := HB2.out.trans (h.mono HB2.out.size)
    exact ⟨h1.below hw, h2.below hw⟩
  have HBd : Hid (Below W2.heap.size W2 W2.drew) := (Below.refl _ _).drew
  clear hW2 q1 q2 h1 h2
  have hne : w.heap.size ≠ w.heap.size + 1 := by omega
  have hs2 : w.heap.size + 1 < W2.heap.size := by have := HZ2.out; omega
  go_enter Tryz.func64, Tryz.ntmps64
  go_upto_region 1 with fail
  rw [HE.out]
  clear HE
  obtain ⟨c0, c1⟩ := (HQ.out _ (Below.refl _ _)).1.cells
  go_region_held3 (fun W => W.cell? ⟨w.heap.size, 0, none⟩ = some (.slice a n ca) ∧ W.cell? ⟨w.heap.size, 1, none⟩ = some (.slice a' n' ca')) (first | (refine ⟨?_, ?_⟩ <;> assumption) | (refine ⟨?_, ?_⟩ <;> (exact cellD_kept hne (cellD_kept hne (by assumption)))) | go_keep) (first
    | (go_at_call 99; refine (cloneS_any a' n' ca' ys _ (HX.out _ hB1).2 hn').mono ?_; rintro e y2 ⟨⟨A2, C2, rfl, own2⟩, hb2⟩
       have hB2 : Below W2.heap.size W2 y2 := hB1.trans (hb2.mono hB1.size)
       obtain ⟨m0, m1⟩ := (HQ.out _ hB2).1.cells
       obtain ⟨r0, r1⟩ := (HQ.out _ hB2).2.cells
       have f0 := (HQ.out _ hB2).2.frozen 0
       have f1 := (HQ.out _ hB2).2.frozen 1)
    | (go_at_call 99; refine (cloneS_any a n ca xs _ (HX.out _ HBd.out).1 hn).mono ?_; rintro e y1 ⟨⟨A1, C1, rfl, own1⟩, hb1⟩
       have hB1 : Below W2.heap.size W2 y1 := HBd.out.trans (hb1.mono (Nat.le_refl _))
       obtain ⟨e0, e1⟩ := (HQ.out _ hB1).1.cells)
    | fail)
  all_goals
    have HF : Hid (AnsD w.heap.size xs ys (.agg #[.slice A1 n C1, .slice A2 n' C2]) ((y2.setCell ⟨w.heap.size + 1, 0, none⟩ (.slice A1 n C1)).setCell ⟨w.heap.size + 1, 1, none⟩ (.slice A2 n' C2)) ∧ Below w.heap.size w ((y2.setCell ⟨w.heap.size + 1, 0, none⟩ (.slice A1 n C1)).setCell ⟨w.heap.size + 1, 1, none⟩ (.slice A2 n' C2))) := by
      have hz := HZ2.out
      have o1 : OwnSt y2 W2.heap.size (.slice A1 n C1) n xs := own1.below hb2
      have o2 : OwnSt y2 W2.heap.size (.slice A2 n' C2) n' ys := own2.low (by have := hB1.size; omega)
      have n1 : blkOf (.slice A1 n C1) ≠ some (w.heap.size + 1) := fun e => by have := (o1.lt _ e).1; omega
      have n2 : blkOf (.slice A2 n' C2) ≠ some (w.heap.size + 1) := fun e => by have := (o2.lt _ e).1; omega
      have hbw := HB2.out.trans (hB2.mono HB2.out.size)
      refine ⟨AnsD.mk' HLn.out.1 HLn.out.2 (((o1.setCell n1 _).setCell n1 _).low (by omega)) (((o2.setCell n2 _).setCell n2 _).low (by omega)) ?_, (hbw.setCell (by dsimp only; omega) _).setCell (by dsimp only; omega) _⟩
      intro q e1 e2
      rw [← blkOf_sC A1 n C1] at e1
      rw [← blkOf_sC A2 n' C2] at e2
      have := (own1.lt q e1).2
      have := (own2.lt q e2).1
      omega
    clear own1 own2 hb1 hb2 hB1 hB2 e0 e1 m0 m1
    go_wp2_with fail
    refine bodyPost_ret (v := .agg #[.slice A1 n C1, .slice A2 n' C2]) (by simp [results, Tryz.f64, go_sem, r0, r1]) rfl ?_
    exact ⟨⟨_, rfl, HF.out.1⟩, HF.out.2⟩

end Go.Proofs.YtjaihnmhojabfaaGreatDoor

namespace Go.Proofs.YtjaihnmhojabfaaGreatDoor
open Go.RowKit
set_option linter.unusedVariables false

set_option maxRecDepth 10000 in
set_option maxHeartbeats 800000 in
theorem implCopyUp_any (x : UE) (w : World) (hs : Seg w x.a x.n x.u.zs) (hl : x.n ≤ 1099511627776) :
    Calls Tryz.prog 47 #[.agg #[.string x.u.id, .int .i64 x.u.want, .slice x.a x.n x.c, .bool x.u.done]] w fun e w' => (∃ A C, e = .returned (.agg #[.string x.u.id, .int .i64 x.u.want, .slice A x.n C, .bool x.u.done]) ∧ Owns w' w.heap.size A x.n C x.u.zs) ∧ Below w.heap.size w w' := by
  obtain ⟨w0, hw0⟩ : ∃ w0, (w.alloc (.cells #[.string x.u.id, .int .i64 x.u.want, .slice x.a x.n x.c, .bool x.u.done] 36)).alloc (.cells #[.string ⟨#[]⟩, .int .i64 0, .slice none 0 0, .bool false] 36) = w0 := ⟨_, rfl⟩
  have HE : Hid ((w.alloc (.cells #[.string x.u.id, .int .i64 x.u.want, .slice x.a x.n x.c, .bool x.u.done] 36)).alloc (.cells #[.string ⟨#[]⟩, .int .i64 0, .slice none 0 0, .bool false] 36) = w0) := hw0
  have HB : Hid (Below w.heap.size w w0) := by show Below _ _ _; rw [← hw0]; exact ((Below.refl _ _).alloc (Nat.le_refl _) _).alloc (by simp) _
  have HQ : Hid (BoxN w0 w.heap.size 36 [.string x.u.id, .int .i64 x.u.want, .slice x.a x.n x.c, .bool x.u.done]) := by show BoxN _ _ _ _; rw [← hw0]; exact (BoxN.new _ _ _).alloc _
  have HR : Hid (BoxN w0 (w.heap.size + 1) 36 [.string ⟨#[]⟩, .int .i64 0, .slice none 0 0, .bool false]) := by
    show BoxN _ _ _ _
    rw [← hw0]
    have := BoxN.new (w.alloc (.cells #[.string x.u.id, .int .i64 x.u.want, .slice x.a x.n x.c, .bool x.u.done] 36)) 36 [.string ⟨#[]⟩, .int .i64 0, .slice none 0 0, .bool false]
    rw [World.size_alloc] at this
    exact this
  have HS : Hid (Seg w0 x.a x.n x.u.zs) := hs.below HB.out
  have hwl : w.heap.size + 1 < w0.heap.size := HR.out.lt
  clear hw0 hs
  have c2 := HQ.out.cell 2 rfl
  go_enter Tryz.func47, Tryz.ntmps47
  go_upto_region 1 with fail
  rw [HE.out]
  clear HE
  go_wp2_with fail
  refine (cloneB_any x.a x.n x.c x.u.zs w0 HS.out hl).mono ?_
  rintro _ w1 ⟨A, C, rfl, ho1, hb1⟩
  have hq := HQ.out.stays hb1
  have hr := HR.out.stays hb1
  have HB1 : Hid (Below w.heap.size w w1) := HB.out.trans (hb1.mono HB.out.size)
  have HO1 : Hid (Owns w1 w0.heap.size A x.n C x.u.zs) := ho1
  have b0 := hq.cell 0 rfl
  have b1 := hq.cell 1 rfl
  have b2 := hq.cell 2 rfl
  have b3 := hq.cell 3 rfl
  have z2 := hq.frozen 2
  have a0 := hr.cell 0 rfl
  have a1 := hr.cell 1 rfl
  have a2 := hr.cell 2 rfl
  have a3 := hr.cell 3 rfl
  have f0 := hr.frozen 0
  have f1 := hr.frozen 1
  have f2 := hr.frozen 2
  have f3 := hr.frozen 3
  have hA1 : A.map (·.block) ≠ some w.heap.size := fun e => by have := (ho1.lt _ e).1; omega
  have hA2 : A.map (·.block) ≠ some (w.heap.size + 1) := fun e => by have := (ho1.lt _ e).1; omega
  clear hq hr ho1 hb1 c2 HQ HR
  go_wp2_with fail
  refine bodyPost_ret (v := .agg #[.string x.u.id, .int .i64 x.u.want, .slice A x.n C, .bool x.u.done]) (by simp [results, Tryz.f47, go_sem, a0, a1, a2, a3]) rfl ?_
  refine ⟨⟨A, C, rfl, ?_⟩, ?_⟩
  · exact (owns_set (owns_set (owns_set (owns_set (owns_set HO1.out hA1) hA2) hA2) hA2) hA2).low (by omega)
  · exact ((((HB1.out.setCell (by dsimp only; omega) _).setCell (by dsimp only; omega) _).setCell (by dsimp only; omega) _).setCell (by dsimp only; omega) _).setCell (by dsimp only; omega) _

end Go.Proofs.YtjaihnmhojabfaaGreatDoor
