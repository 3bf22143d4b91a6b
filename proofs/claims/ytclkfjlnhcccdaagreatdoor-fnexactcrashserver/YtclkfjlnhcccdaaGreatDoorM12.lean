/- Marks laid into answers that wait, in a row of the call's own, and asked for. The marks laid into a server, and asked for: into its store, and into what waits behind it. The marks laid into a server and the list beside it. The walk of the law FnExactSyncAll; under contracts of both functions. Requests and answers that are right: no statement of the program; no condition. What the program's RespOk answers. -/
import Derived.Test.YtclkfjlnhcccdaaGreatDoorM07
import Derived.Test.YtclkfjlnhcccdaaGreatDoorM10
import Derived.Test.YtclkfjlnhcccdaaGreatDoorM11
import Derived.Test.YtclkfjlnhcccdaaGreatDoorM08
import Derived.Test.YtclkfjlnhcccdaaGreatDoorM09
import Derived.Test.YtclkfjlnhcccdaaGreatDoorM09
import Derived.Deep.RegionHeld3
import Derived.Test.YtclkfjlnhcccdaaGreatDoorM01
import Derived.Test.YtclkfjlnhcccdaaGreatDoorM04
import Derived.WalkKit
namespace Go.Proofs.YtclkfjlnhcccdaaGreatDoor
open Go.RowKit
set_option linter.unusedVariables false

/-- The marks: n answers from k on. -/
def marksH (k n : Nat) : List Hd := (List.range n).map fun j => (((k + 3 * j : Nat) : Int), ((k + 3 * j + 1 : Nat) : Int), ((k + 3 * j + 2 : Nat) : Int))
theorem marksH_len (k n : Nat) : (marksH k n).length = n := by simp [marksH]
theorem marksH_at (k n j : Nat) (hj : j < n) : (marksH k n)[j]? = some (((k + 3 * j : Nat) : Int), ((k + 3 * j + 1 : Nat) : Int), ((k + 3 * j + 2 : Nat) : Int)) := by
  simp [marksH, hj]

/-- Answers of which the first j are marked. -/
def markHTo (k : Nat) (xs : List Hd) (j : Nat) : List Hd := marksH k j ++ xs.drop j

theorem markHTo_len (k : Nat) (xs : List Hd) (j : Nat) (h : j ≤ xs.length) : (markHTo k xs j).length = xs.length := by
  simp [markHTo, marksH_len]
  omega

theorem markHTo_step (k : Nat) (xs : List Hd) (j : Nat) (h : j < xs.length) : (markHTo k xs j).set j (((k + 3 * j : Nat) : Int), ((k + 3 * j + 1 : Nat) : Int), ((k + 3 * j + 2 : Nat) : Int)) = markHTo k xs (j + 1) := by
  rw [markHTo, markHTo, List.set_append_right j _ (by rw [marksH_len]; exact Nat.le_refl _), marksH_len, Nat.sub_self, List.drop_eq_getElem_cons h, List.set_cons_zero]
  simp [marksH, List.range_succ]

theorem marksH_range (k n : Nat) (hk : k ≤ 2199023255552) (hn : n ≤ 1099511627776) : ∀ s ∈ marksH k n, hd64 s := by
  intro s hs
  simp only [marksH, List.mem_map, List.mem_range] at hs
  obtain ⟨j, hj, rfl⟩ := hs
  unfold hd64 i64h
  dsimp only
  omega

theorem only_transH {a b c : World} {r : Option Addr} (h : Only a b r) (g : Only b c r) : Only a c r :=
  ⟨g.os.trans h.os, g.tape.trans h.tape, g.output.trans h.output, Nat.le_trans h.size g.size, fun k hk hr => (g.block k (Nat.lt_of_lt_of_le hk h.size) hr).trans (h.block k hk hr)⟩

set_option maxRecDepth 10000 in
set_option maxHeartbeats 1600000 in
theorem markHS_any (base : Nat) (a : Option Addr) (n cap k : Nat) (xs : List Hd) (w : World) (h : OwnH w base a n cap xs) (hn : n ≤ 1099511627776) (hk : k ≤ 2199023255552) :
    Calls Tryz.prog 12 #[.slice a n cap, .int .i64 (k : Int)] w fun e w' => e = .returned (.int .i64 ((k + 3 * n : Nat) : Int)) ∧ OwnH w' base a n cap (marksH k n) ∧ Only w w' a := by
  have hlen := h.len
  have HO0 : Hid (w.ownsRow base 67 3 (.slice a n cap) n (heCells (markHTo k xs 0))) := h.1
  clear h
  go_enter Tryz.func12, Tryz.ntmps12
  go_wp2_with fail
  go_loopw [1, 5] (fun q i wr => ∃ j : Nat, j ≤ n ∧ i = .int .i64 j ∧ q = .int .i64 ((k + 3 * j : Nat) : Int) ∧ Hid (wr.ownsRow base 67 3 (.slice a n cap) n (heCells (markHTo k xs j))) ∧ Hid (Only w wr a)) (fun _ i _ => n - (intOf i).toNat)
  case atStart => exact ⟨0, Nat.zero_le _, rfl, rfl, HO0, ⟨rfl, rfl, rfl, Nat.le_refl _, fun _ _ _ => rfl⟩⟩
  case round =>
    clear HO0
    obtain ⟨j, hj, rfl, rfl, HO, HG⟩ := hrel
    by_cases hlt : j < n
    · obtain ⟨g, rfl⟩ : ∃ g, a = some ⟨g, 0, none⟩ := by
        rcases HO.out.2 with ⟨_, h0⟩ | ⟨g, cap', cur, he, _⟩
        · omega
        · injection he with e1 _ _
          exact ⟨g, e1⟩
      have hji : (j : Int) < (n : Int) := by omega
      have hq1 : ((k + 3 * j : Nat) : Int) + 1 = ((k + 3 * j + 1 : Nat) : Int) := by omega
      have hq2 : ((k + 3 * j + 1 : Nat) : Int) + 1 = ((k + 3 * j + 2 : Nat) : Int) := by omega
      have hq3 : ((k + 3 * j + 2 : Nat) : Int) + 1 = ((k + 3 * (j + 1) : Nat) : Int) := by omega
      have hqb : ((k + 3 * j + 2 : Nat) : Int) ≤ 8796093022208 := by omega
      have HSt : Hid ((markHTo k xs j).set j (((k + 3 * j : Nat) : Int), ((k + 3 * j + 1 : Nat) : Int), ((k + 3 * j + 2 : Nat) : Int)) = markHTo k xs (j + 1)) := markHTo_step k xs j (by omega)
      have HLn : Hid ((markHTo k xs j).length = n) := by show _ = _; rw [markHTo_len k xs j (by omega), hlen]
      generalize markHTo k xs j = L at *
      obtain ⟨K3, hK3⟩ : ∃ K3, k + 3 * (j + 1) = K3 := ⟨_, rfl⟩
      obtain ⟨K2, hK2⟩ : ∃ K2, k + 3 * j + 2 = K2 := ⟨_, rfl⟩
      obtain ⟨K1, hK1⟩ : ∃ K1, k + 3 * j + 1 = K1 := ⟨_, rfl⟩
      obtain ⟨K0, hK0⟩ : ∃ K0, k + 3 * j = K0 := ⟨_, rfl⟩
      rw [hK3] at hq3
      rw [hK2] at hq2 hq3 hqb HSt
      rw [hK1] at hq1 hq2 HSt
      rw [hK0] at hq1 HSt ⊢
      have HK3 : Hid (k + 3 * (j + 1) = K3) := hK3
      have hK0b : (K0 : Int) ≤ 8796093022208 := by omega
      have hK1b : (K1 : Int) ≤ 8796093022208 := by omega
      clear hK0 hK1 hK2 hK3
      have hln : (heCells L).length = n * 3 := by rw [heCells_len, HLn.out]
      have f0 : wr.frozen? ⟨g, j * 3, none⟩ = false := HO.out.frozenAt _
      obtain ⟨u0, hu0⟩ : ∃ u, wr.cell? ⟨g, j * 3, none⟩ = some u := by
        rw [HO.out.cellAt _ (by omega)]
        exact ⟨_, List.getElem?_eq_getElem (by omega)⟩
      have f1 : wr.frozen? ⟨g, j * 3 + 1, none⟩ = false := HO.out.frozenAt _
      obtain ⟨u1, hu1⟩ : ∃ u, wr.cell? ⟨g, j * 3 + 1, none⟩ = some u := by
        rw [HO.out.cellAt _ (by omega)]
        exact ⟨_, List.getElem?_eq_getElem (by omega)⟩
      have f2 : wr.frozen? ⟨g, j * 3 + 2, none⟩ = false := HO.out.frozenAt _
      obtain ⟨u2, hu2⟩ : ∃ u, wr.cell? ⟨g, j * 3 + 2, none⟩ = some u := by
        rw [HO.out.cellAt _ (by omega)]
        exact ⟨_, List.getElem?_eq_getElem (by omega)⟩
      have hst := HO.out.stored (j * 3) (.int .i64 (K0 : Int))
      have hst2 := hst.1.stored (j * 3 + 1) (.int .i64 (K1 : Int))
      have hst3 := hst2.1.stored (j * 3 + 2) (.int .i64 (K2 : Int))
      have HO4 : Hid ((((wr.setCell ⟨g, j * 3, none⟩ (.int .i64 (K0 : Int))).setCell ⟨g, j * 3 + 1, none⟩ (.int .i64 (K1 : Int))).setCell ⟨g, j * 3 + 2, none⟩ (.int .i64 (K2 : Int))).ownsRow base 67 3 (.slice (some ⟨g, 0, none⟩) n cap) n (heCells (markHTo k xs (j + 1)))) := by
        have h1 := hst3.1
        rw [heCells_set L _ _ _ j (by rw [HLn.out]; exact hlt), HSt.out] at h1
        exact h1
      have HG4 : Hid (Only w (((wr.setCell ⟨g, j * 3, none⟩ (.int .i64 (K0 : Int))).setCell ⟨g, j * 3 + 1, none⟩ (.int .i64 (K1 : Int))).setCell ⟨g, j * 3 + 2, none⟩ (.int .i64 (K2 : Int))) (some ⟨g, 0, none⟩)) := only_transH HG.out (only_transH hst.2 (only_transH hst2.2 hst3.2))
      clear hst hst2 hst3 hln HO HG
      go_wp2_with fail
      go_roundw
      case rel => exact ⟨j + 1, by omega, by go_num, by rw [HK3.out], HO4, HG4⟩
      case measure => simp [intOf]; omega
    · have hjn : j = n := by omega
      subst hjn
      go_wp2_with fail
      go_ret
      have hd : markHTo k xs j = marksH k j := by
        rw [markHTo, List.drop_eq_nil_of_le (by omega), List.append_nil]
      have h1 := HO.out
      rw [hd] at h1
      exact ⟨rfl, ⟨h1, marksH_range k j hk hn⟩, HG.out⟩

set_option maxRecDepth 10000 in
set_option maxHeartbeats 1600000 in
theorem heldHS_any (a : Option Addr) (n cap k : Nat) (w : World) (h : Helds w a n (marksH k n)) (hn : n ≤ 1099511627776) (hk : k ≤ 2199023255552) :
    Calls Tryz.prog 14 #[.slice a n cap, .int .i64 (k : Int)] w fun e w' => e = .returned (.int .i64 ((k + 3 * n : Nat) : Int)) ∧ Below w.heap.size w w' := by
  have HX : Hid (Helds w a n (marksH k n)) := h
  clear h
  go_enter Tryz.func14, Tryz.ntmps14
  go_wp2_with fail
  go_loopw [1, 5] (fun q i wr => ∃ j : Nat, j ≤ n ∧ i = .int .i64 j ∧ q = .int .i64 ((k + 3 * j : Nat) : Int) ∧ Hid (Below w.heap.size w wr)) (fun _ i _ => n - (intOf i).toNat)
  case atStart => exact ⟨0, Nat.zero_le _, rfl, rfl, Below.refl _ _⟩
  case round =>
    obtain ⟨j, hj, rfl, rfl, HB⟩ := hrel
    by_cases hlt : j < n
    · obtain ⟨b, off, x, y, z, rfl, hb, hfx, hc0, hc1, hc2, _⟩ := (HX.out.below HB.out).at hlt
      obtain ⟨rfl, rfl, rfl⟩ : x = ((k + 3 * j : Nat) : Int) ∧ y = ((k + 3 * j + 1 : Nat) : Int) ∧ z = ((k + 3 * j + 2 : Nat) : Int) := by
        rw [marksH_at k n j hlt] at hfx
        injection hfx with hfx
        injection hfx with h1 h2
        injection h2 with h2 h3
        exact ⟨h1.symm, h2.symm, h3.symm⟩
      have hji : (j : Int) < (n : Int) := by omega
      have hq1 : ((k + 3 * j : Nat) : Int) + 1 = ((k + 3 * j + 1 : Nat) : Int) := by omega
      have hq2 : ((k + 3 * j + 1 : Nat) : Int) + 1 = ((k + 3 * j + 2 : Nat) : Int) := by omega
      have hq3 : ((k + 3 * j + 2 : Nat) : Int) + 1 = ((k + 3 * (j + 1) : Nat) : Int) := by omega
      have hqb : ((k + 3 * j + 2 : Nat) : Int) ≤ 8796093022208 := by omega
      obtain ⟨K3, hK3⟩ : ∃ K3, k + 3 * (j + 1) = K3 := ⟨_, rfl⟩
      obtain ⟨K2, hK2⟩ : ∃ K2, k + 3 * j + 2 = K2 := ⟨_, rfl⟩
      obtain ⟨K1, hK1⟩ : ∃ K1, k + 3 * j + 1 = K1 := ⟨_, rfl⟩
      obtain ⟨K0, hK0⟩ : ∃ K0, k + 3 * j = K0 := ⟨_, rfl⟩
      rw [hK3] at hq3
      rw [hK2] at hq2 hq3 hqb hc2
      rw [hK1] at hq1 hq2 hc1
      rw [hK0] at hq1 hc0 ⊢
      have HK3 : Hid (k + 3 * (j + 1) = K3) := hK3
      have hK0b : (K0 : Int) ≤ 8796093022208 := by omega
      have hK1b : (K1 : Int) ≤ 8796093022208 := by omega
      clear hK0 hK1 hK2 hK3 hfx
      have hne1 : ((K0 : Int) != (K0 : Int)) = false := by simp
      have hne2 : ((K1 : Int) != (K1 : Int)) = false := by simp
      have hne3 : ((K2 : Int) != (K2 : Int)) = false := by simp
      go_wp2_with fail
      go_roundw
      case rel => exact ⟨j + 1, by omega, by go_num, by rw [HK3.out], HB⟩
      case measure => simp [intOf]; omega
    · have hjn : j = n := by omega
      subst hjn
      go_wp2_with fail
      go_ret
      exact ⟨rfl, HB.out⟩

end Go.Proofs.YtclkfjlnhcccdaaGreatDoor

namespace Go.Proofs.YtclkfjlnhcccdaaGreatDoor
open Go.RowKit
set_option linter.unusedVariables false

/-- The rows of a server with the marks in them, from k on. -/
def SvMkd (W : World) (base k : Nat) (a : Option Addr) (n ca : Nat) (a' : Option Addr) (n' ca' : Nat) (ua : Option Addr) (un uc : Nat) (l : List UE) (ha : Option Addr) (hn hc : Nat) : Prop :=
  StoMkd W base k a n ca a' n' ca' ua un uc l ∧ Helds W ha hn (marksH (mkUEnd (k + n + n') l) hn)

theorem SvMkd.stays {W W' : World} {base k : Nat} {a : Option Addr} {n ca : Nat} {a' : Option Addr} {n' ca' : Nat} {ua : Option Addr} {un uc : Nat} {l : List UE} {ha : Option Addr} {hn hc : Nat} (h : SvMkd W base k a n ca a' n' ca' ua un uc l ha hn hc) (hb : Below W.heap.size W W') : SvMkd W' base k a n ca a' n' ca' ua un uc l ha hn hc := ⟨StoAt.stays h.1 hb, h.2.below hb⟩

/-- A store is as it was where a row of answers is written. -/
theorem StoAt.keptH {W W' : World} {base base' n ca : Nat} {a : Option Addr} {X : List ByteArray} {a' : Option Addr} {n' ca' : Nat} {Y : List ByteArray} {ua : Option Addr} {un uc : Nat} {l : List UE} {ha : Option Addr} {hn hc : Nat} {xs : List Value} (h : StoAt W base a n ca X a' n' ca' Y ua un uc l) (ho : W.ownsRow base' 67 3 (.slice ha hn hc) hn xs) (hg : Only W W' ha) : StoAt W' base a n ca X a' n' ca' Y ua un uc l := by
  have hg' : W.grownBy W' (Value.slice ha hn hc).ownBlock := by rw [ownBlock_sU]; exact hg
  refine ⟨h.now.keptR ho (by decide) hg', h.sure.keptR ho (by decide) hg', h.apart, h.ups.grown hg (fun q hq hq2 => ?_) (fun e he q hq hq2 => ?_), h.len⟩
  · exact rows_apart ho h.ups.1 (by decide) q (by rw [ownBlock_sU]; exact hq) hq2
  · exact rows_apart ho (h.ups.2.1 e he).1 (by decide) q (by rw [ownBlock_sU]; exact hq) (by rw [ownBlock_sU]; exact hq2)

/-- Marks asked of no answers, and laid into none. -/
theorem helds_zero {W : World} {a : Option Addr} {k : Nat} : Helds W a 0 (marksH k 0) := ⟨rfl, by simp [marksH], .inl rfl⟩

set_option maxRecDepth 10000 in
set_option maxHeartbeats 800000 in
theorem markHS_zero (a : Option Addr) (c : Nat) (k : Int) (w : World) : Calls Tryz.prog 12 #[.slice a 0 c, .int .i64 k] w fun r w' => r = .returned (.int .i64 k) ∧ Below w.heap.size w w' := by
  have HB : Hid (Below w.heap.size w w) := Below.refl _ _
  go_enter Tryz.func12, Tryz.ntmps12
  go_wp2
  go_loopw [1, 5] (fun v i wr => i = .int .i64 0 ∧ v = .int .i64 k ∧ Hid (Below w.heap.size w wr)) (fun _ _ _ => 0)
  case atStart => exact ⟨rfl, rfl, HB⟩
  case round =>
    obtain ⟨rfl, rfl, HB1⟩ := hrel
    go_wp2
    go_ret
    exact ⟨rfl, HB1.out⟩

set_option maxRecDepth 10000 in
set_option maxHeartbeats 1600000 in
theorem markServer_any (base : Nat) (a : Option Addr) (n ca : Nat) (X : List ByteArray) (a' : Option Addr) (n' ca' : Nat) (Y : List ByteArray) (ep nx : Int) (ua : Option Addr) (un uc : Nat) (l : List UE) (ha : Option Addr) (hn hc : Nat) (hs : List Hd) (k : Nat) (w : World) (h : SvAt w base a n ca X a' n' ca' Y ua un uc l ha hn hc hs) (hn1 : n ≤ 2097152) (hn' : n' ≤ 2097152) (hk : k ≤ 1073741824) (hul : un ≤ 1099511627776) (hkE : mkUEnd (k + n + n') l ≤ 2199023255552) (hhn : hn ≤ 1099511627776) (hi : Nat) (hwi : SvIn a a' ua l ha hi) (hbe : SvBeh base a a' ua l ha) (hhi : hi ≤ w.heap.size) :
    Calls Tryz.prog 11 #[.agg #[.slice a n ca, .slice a' n' ca', .int .i64 ep, .int .i64 nx, .slice ua un uc, .slice ha hn hc], .int .i64 (k : Int)] w fun r w' => r = .returned (.int .i64 ((mkUEnd (k + n + n') l + 3 * hn : Nat) : Int)) ∧ SvMkd w' base k a n ca a' n' ca' ua un uc l ha hn hc ∧ Within w w' base hi := by
  obtain ⟨m, hbm, hsm, hhm⟩ := hbe
  have HI : Hid (SvIn a a' ua l ha hi ∧ hi ≤ w.heap.size) := ⟨hwi, hhi⟩
  have HM : Hid (StoIn a a' ua l m ∧ ∀ q, ha.map (·.block) = some q → m ≤ q) := ⟨hsm, hhm⟩
  obtain ⟨mm, hmm⟩ : ∃ mm, mm = min m hi := ⟨_, rfl⟩
  have HN : Hid (mm ≤ hi ∧ StoIn a a' ua l mm ∧ ∀ q, ha.map (·.block) = some q → mm ≤ q) := by
    refine ⟨by omega, ⟨fun q e => ?_, fun q e => ?_, fun q e => ?_, fun x hx q e => ?_⟩, fun q e => by have := hhm q e; omega⟩
    · have := hsm.1 q e; have := hwi.1.1 q e; omega
    · have := hsm.2.1 q e; have := hwi.1.2.1 q e; omega
    · have := hsm.2.2.1 q e; have := hwi.1.2.2.1 q e; omega
    · have := hsm.2.2.2 x hx q e; have := hwi.1.2.2.2 x hx q e; omega
  have HS : Hid (SvAt w base a n ca X a' n' ca' Y ua un uc l ha hn hc hs) := h
  have HK : Hid (mkUEnd (k + n + n') l ≤ 2199023255552) := hkE
  clear h hkE hwi hhi hsm hhm hmm HM
  have HA : Hid (BoxN (w.alloc (.cells #[.slice a n ca, .slice a' n' ca', .int .i64 ep, .int .i64 nx, .slice ua un uc, .slice ha hn hc] 38)) w.heap.size 38 [.slice a n ca, .slice a' n' ca', .int .i64 ep, .int .i64 nx, .slice ua un uc, .slice ha hn hc]) := BoxN.new _ _ _
  have HB : Hid (Below w.heap.size w (w.alloc (.cells #[.slice a n ca, .slice a' n' ca', .int .i64 ep, .int .i64 nx, .slice ua un uc, .slice ha hn hc] 38))) := (Below.refl _ _).alloc (Nat.le_refl _) _
  obtain ⟨x0, x1, x2, x3, x4⟩ := (show _ ∧ _ ∧ _ ∧ _ ∧ _ from ⟨HA.out.cell 0 rfl, HA.out.cell 1 rfl, HA.out.cell 2 rfl, HA.out.cell 3 rfl, HA.out.cell 4 rfl⟩)
  go_enter Tryz.func11, Tryz.ntmps11
  go_wp2_with fail
  obtain ⟨w0, hw0⟩ : ∃ w0, w.alloc (.cells #[.slice a n ca, .slice a' n' ca', .int .i64 ep, .int .i64 nx, .slice ua un uc, .slice ha hn hc] 38) = w0 := ⟨_, rfl⟩
  rw [hw0] at HA HB ⊢
  clear hw0 x0 x1 x2 x3 x4
  have HS0 : Hid (SvAt w0 base a n ca X a' n' ca' Y ua un uc l ha hn hc hs) := HS.out.stays HB.out
  refine (markStore_any base a n ca X a' n' ca' Y ep nx ua un uc l k w0 HS0.out.sto hn1 hn' hk hul HK.out mm HN.out.2.1).mono ?_
  rintro _ W1 ⟨rfl, hm1, hw1⟩
  have hh1 : OwnH W1 base ha hn hc hs := HS0.out.held.same (fun q e => hw1.block q (HS0.out.held.lt q e).2 (.inr (HN.out.2.2 q e)))
  have HM1 : Hid (StoMkd W1 base k a n ca a' n' ca' ua un uc l ∧ OwnH W1 base ha hn hc hs ∧ Within w W1 base hi) := ⟨hm1, hh1, ((within_below HB.out).trans (hw1.more (Nat.le_refl _) HN.out.1))⟩
  have hb1 : BoxN W1 w.heap.size 38 [.slice a n ca, .slice a' n' ca', .int .i64 ep, .int .i64 nx, .slice ua un uc, .slice ha hn hc] := (hw1.block _ HA.out.lt (.inr (Nat.le_trans HN.out.1 HI.out.2))).trans HA.out
  have c5 := hb1.cell 5 rfl
  obtain ⟨E, hE⟩ : ∃ E, mkUEnd (k + n + n') l = E := ⟨_, rfl⟩
  have HEe : Hid (mkUEnd (k + n + n') l = E) := hE
  have HEb : Hid (E ≤ 2199023255552) := by show _ ≤ _; rw [← hE]; exact HK.out
  rw [hE]
  clear hE hm1 hw1 hb1 hh1
  go_wp2_with fail
  refine (markHS_any base ha hn hc E hs W1 HM1.out.2.1 hhn HEb.out).mono ?_
  rintro _ W2 ⟨rfl, ho2, hg2⟩
  have HF : Hid (SvMkd W2 base k a n ca a' n' ca' ua un uc l ha hn hc ∧ Within w W2 base hi) := by
    refine ⟨⟨StoAt.keptH HM1.out.1 HM1.out.2.1.1 hg2, ?_⟩, HM1.out.2.2.trans (within_grown hg2 (fun q e => ⟨(HM1.out.2.1.lt q e).1, HI.out.1.2 q e⟩))⟩
    rw [HEe.out]
    exact ho2.helds
  obtain ⟨F, hF⟩ : ∃ F, E + 3 * hn = F := ⟨_, rfl⟩
  have HFe : Hid (mkUEnd (k + n + n') l + 3 * hn = F) := by show _ = _; rw [HEe.out]; exact hF
  rw [hF]
  clear ho2 hg2 hF
  go_wp2_with fail
  go_ret
  exact ⟨ret_i64 (by rw [HFe.out]), HF.out⟩

set_option maxRecDepth 10000 in
set_option maxHeartbeats 1600000 in
theorem heldServer_any (base : Nat) (a : Option Addr) (n ca : Nat) (a' : Option Addr) (n' ca' : Nat) (ep nx : Int) (ua : Option Addr) (un uc : Nat) (l : List UE) (ha : Option Addr) (hn hc : Nat) (k : Nat) (w : World) (h : SvMkd w base k a n ca a' n' ca' ua un uc l ha hn hc) (hn1 : n ≤ 2097152) (hn' : n' ≤ 2097152) (hk : k ≤ 1073741824) (hul : un ≤ 1099511627776) (hkE : mkUEnd (k + n + n') l ≤ 2199023255552) (hhn : hn ≤ 1099511627776) :
    Calls Tryz.prog 13 #[.agg #[.slice a n ca, .slice a' n' ca', .int .i64 ep, .int .i64 nx, .slice ua un uc, .slice ha hn hc], .int .i64 (k : Int)] w fun r w' => r = .returned (.int .i64 ((mkUEnd (k + n + n') l + 3 * hn : Nat) : Int)) ∧ Below w.heap.size w w' := by
  have HS : Hid (SvMkd w base k a n ca a' n' ca' ua un uc l ha hn hc) := h
  have HK : Hid (mkUEnd (k + n + n') l ≤ 2199023255552) := hkE
  clear h hkE
  have HA : Hid (BoxN (w.alloc (.cells #[.slice a n ca, .slice a' n' ca', .int .i64 ep, .int .i64 nx, .slice ua un uc, .slice ha hn hc] 38)) w.heap.size 38 [.slice a n ca, .slice a' n' ca', .int .i64 ep, .int .i64 nx, .slice ua un uc, .slice ha hn hc]) := BoxN.new _ _ _
  have HB : Hid (Below w.heap.size w (w.alloc (.cells #[.slice a n ca, .slice a' n' ca', .int .i64 ep, .int .i64 nx, .slice ua un uc, .slice ha hn hc] 38))) := (Below.refl _ _).alloc (Nat.le_refl _) _
  obtain ⟨x0, x1, x2, x3, x4⟩ := (show _ ∧ _ ∧ _ ∧ _ ∧ _ from ⟨HA.out.cell 0 rfl, HA.out.cell 1 rfl, HA.out.cell 2 rfl, HA.out.cell 3 rfl, HA.out.cell 4 rfl⟩)
  go_enter Tryz.func13, Tryz.ntmps13
  go_wp2_with fail
  obtain ⟨w0, hw0⟩ : ∃ w0, w.alloc (.cells #[.slice a n ca, .slice a' n' ca', .int .i64 ep, .int .i64 nx, .slice ua un uc, .slice ha hn hc] 38) = w0 := ⟨_, rfl⟩
  rw [hw0] at HA HB ⊢
  clear hw0 x0 x1 x2 x3 x4
  refine (heldStore_any base a n ca a' n' ca' ep nx ua un uc l k w0 (StoAt.stays HS.out.1 HB.out) hn1 hn' hk hul HK.out).mono ?_
  rintro _ W1 ⟨rfl, hb1⟩
  have HB1 : Hid (Below w.heap.size w W1) := HB.out.trans (hb1.mono HB.out.size)
  have c5 := (HA.out.stays hb1).cell 5 rfl
  obtain ⟨E, hE⟩ : ∃ E, mkUEnd (k + n + n') l = E := ⟨_, rfl⟩
  have HEe : Hid (mkUEnd (k + n + n') l = E) := hE
  have HEb : Hid (E ≤ 2199023255552) := by show _ ≤ _; rw [← hE]; exact HK.out
  have HH1 : Hid (Helds W1 ha hn (marksH E hn)) := by
    have h1 := HS.out.2
    rw [hE] at h1
    exact h1.below HB1.out
  rw [hE]
  clear hE hb1
  have hp : ¬ (E : Int) < 0 := by omega
  have hpd : decide ((E : Int) < 0) = false := by simp
  go_wp2_with fail
  refine (heldHS_any ha hn hc E W1 HH1.out hhn HEb.out).mono ?_
  rintro _ W2 ⟨rfl, hb2⟩
  have HB2 : Hid (Below w.heap.size w W2) := HB1.out.trans (hb2.mono HB1.out.size)
  obtain ⟨F, hF⟩ : ∃ F, E + 3 * hn = F := ⟨_, rfl⟩
  have HFe : Hid (mkUEnd (k + n + n') l + 3 * hn = F) := by show _ = _; rw [HEe.out]; exact hF
  rw [hF]
  have hq : ¬ (F : Int) < 0 := by omega
  have hqd : decide ((F : Int) < 0) = false := by simp
  clear hb2 hF
  go_wp2_with fail
  go_ret
  exact ⟨ret_i64 (by rw [HFe.out]), HB2.out⟩

end Go.Proofs.YtclkfjlnhcccdaaGreatDoor

namespace Go.Proofs.YtclkfjlnhcccdaaGreatDoor
open Go.RowKit
set_option linter.unusedVariables false

theorem SvMkd.low {W : World} {base b k : Nat} {a : Option Addr} {n ca : Nat} {a' : Option Addr} {n' ca' : Nat} {ua : Option Addr} {un uc : Nat} {l : List UE} {ha : Option Addr} {hn hc : Nat} (h : SvMkd W base k a n ca a' n' ca' ua un uc l ha hn hc) (hb : b ≤ base) : SvMkd W b k a n ca a' n' ca' ua un uc l ha hn hc := ⟨StoAt.low h.1 hb, h.2⟩

theorem markServer_gv (lo b : Nat) (a : Option Addr) (n ca : Nat) (X : List ByteArray) (a' : Option Addr) (n' ca' : Nat) (Y : List ByteArray) (ep nx : Int) (ua : Option Addr) (un uc : Nat) (l : List UE) (ha : Option Addr) (hn hc : Nat) (hs : List Hd) (pa : Option Addr) (pn pc : Nat) (hl : List Hd) (w : World) (h : GV w lo b a n ca X a' n' ca' Y ep nx ua un uc l ha hn hc hs pa pn pc hl) (hbe : SvBeh lo a a' ua l ha) (hap : SvAp lo a a' ua l ha hn pa pn) (hn1 : n ≤ 2097152) (hn' : n' ≤ 2097152) (hul : un ≤ 1099511627776) (hkE : mkUEnd (1 + n + n') l ≤ 2199023255552) (hhn : hn ≤ 1099511627776) :
    Calls Tryz.prog 11 #[.agg #[.slice a n ca, .slice a' n' ca', .int .i64 ep, .int .i64 nx, .slice ua un uc, .slice ha hn hc], .int .i64 1] w fun r w' => r = .returned (.int .i64 ((mkUEnd (1 + n + n') l + 3 * hn : Nat) : Int)) ∧ (SvMkd w' lo 1 a n ca a' n' ca' ua un uc l ha hn hc ∧ (pn = 0 ∨ OwnH w' lo pa pn pc hl)) ∧ Within w w' lo b := by
  rcases hap with h0 | ⟨ha0, h0, m, hm, hup, hpm⟩
  · refine (markServer_any lo a n ca X a' n' ca' Y ep nx ua un uc l ha hn hc hs 1 w h.var.sv hn1 hn' (by omega) hul hkE hhn b h.var.inn hbe (Nat.le_of_lt h.var.box.lt)).mono ?_
    rintro r w' ⟨h1, h2, h3⟩
    exact ⟨h1, ⟨h2, .inl h0⟩, h3⟩
  · subst ha0 h0
    have hat : SvAt w m a n ca X a' n' ca' Y ua un uc l none 0 hc hs := ⟨h.var.sv.sto.up hup, h.var.sv.held.up (fun q e => by cases e)⟩
    have hbe2 : SvBeh m a a' ua l none := by
      obtain ⟨mb, hlb, hib, _⟩ := hbe
      exact ⟨max m mb, by omega, ⟨fun q e => by have := hib.1 q e; omega, fun q e => by have := hib.2.1 q e; omega, fun q e => by have := hib.2.2.1 q e; omega, fun x hx q e => by have := hib.2.2.2 x hx q e; omega⟩, fun q e => by cases e⟩
    refine (markServer_any m a n ca X a' n' ca' Y ep nx ua un uc l none 0 hc hs 1 w hat hn1 hn' (by omega) hul hkE hhn b h.var.inn hbe2 (Nat.le_of_lt h.var.box.lt)).mono ?_
    rintro r w' ⟨h1, h2, h3⟩
    exact ⟨h1, ⟨h2.low hm, .inr (h.lst.same (fun q e => h3.block q (h.lst.lt q e).2 (.inl (hpm q e))))⟩, h3.more hm (Nat.le_refl _)⟩

theorem markHS_gv (lo b : Nat) (a : Option Addr) (n ca : Nat) (a' : Option Addr) (n' ca' : Nat) (ua : Option Addr) (un uc : Nat) (l : List UE) (ha : Option Addr) (hn hc : Nat) (pa : Option Addr) (pn pc : Nat) (hl : List Hd) (k : Nat) (w : World) (h : SvMkd w lo 1 a n ca a' n' ca' ua un uc l ha hn hc ∧ (pn = 0 ∨ OwnH w lo pa pn pc hl)) (hap : pn = 0 ∨ hn = 0) (hpb : ∀ q, pa.map (·.block) = some q → q < b) (hpn : pn ≤ 1099511627776) (hk : k ≤ 2199023255552) :
    Calls Tryz.prog 12 #[.slice pa pn pc, .int .i64 (k : Int)] w fun r w' => r = .returned (.int .i64 ((k + 3 * pn : Nat) : Int)) ∧ (SvMkd w' lo 1 a n ca a' n' ca' ua un uc l ha hn hc ∧ Helds w' pa pn (marksH k pn)) ∧ Within w w' lo b := by
  obtain ⟨hm, hp⟩ := h
  by_cases h0 : pn = 0
  · subst h0
    refine (markHS_zero pa pc (k : Int) w).mono ?_
    rintro r w' ⟨rfl, hb⟩
    exact ⟨by simp, ⟨hm.stays hb, helds_zero⟩, within_below hb⟩
  · have ho : OwnH w lo pa pn pc hl := by
      rcases hp with h | h
      · exact absurd h h0
      · exact h
    have hn0 : hn = 0 := by
      rcases hap with h | h
      · exact absurd h h0
      · exact h
    subst hn0
    refine (markHS_any lo pa pn pc k hl w ho hpn hk).mono ?_
    rintro r w' ⟨rfl, ho2, hg2⟩
    exact ⟨rfl, ⟨⟨StoAt.keptH hm.1 ho.1 hg2, helds_zero⟩, ho2.helds⟩, within_grown hg2 (fun q e => ⟨(ho.lt q e).1, hpb q e⟩)⟩

end Go.Proofs.YtclkfjlnhcccdaaGreatDoor

namespace Go.Proofs.YtclkfjlnhcccdaaGreatDoor
open Go.RowKit
set_option linter.unusedVariables false

set_option maxRecDepth 10000 in
set_option maxHeartbeats 6400000 in
theorem syncAllWalk (a0 : Option Addr) (n0 ca0 : Nat) (xs : List ByteArray) (a1 : Option Addr) (n1 ca1 : Nat) (ys : List ByteArray) (ep nx : Int) (ua : Option Addr) (un uc : Nat) (l : List UE) (ha : Option Addr) (hn hc : Nat) (hs : List Hd) (w : World) (hl0 : n0 ≤ maxLen) (hl1 : n1 ≤ maxLen) (hlu : un ≤ maxLen) (hlh : hn ≤ maxLen) (h1 : Strs w a0 n0 xs) (h2 : Strs w a1 n1 ys) (hu : UpsI w ua un l) (hh : Helds w ha hn hs) (RX RY : List ByteArray) (rep rnx : Int) (rus : List U) (rhs rhl : List Hd) (hRX : SzS n0 xs n1 ys un l → hn ≤ 1048576 → RX.length ≤ 1048576 ∧ RY.length ≤ 1048576 ∧ rus.length ≤ 1048576 ∧ (∀ u ∈ rus, u.zs.length ≤ 1048576) ∧ rhs.length ≤ 1048576 ∧ rhl.length ≤ 1048576)
    (HSp : ∀ (g g' gu gh lo : Nat) (l' : List UE) (W : World), Below w.heap.size w W → SzS n0 xs n1 ys un l → hn ≤ 1048576 → SvAt W lo (some ⟨g, 0, none⟩) n0 n0 xs (some ⟨g', 0, none⟩) n1 n1 ys (some ⟨gu, 0, none⟩) un un l' (some ⟨gh, 0, none⟩) hn hn hs → l'.map UE.u = l.map UE.u → (∀ e ∈ l', e.n ≤ 1048576) → Calls Tryz.prog 6 #[.agg #[.slice (some ⟨g, 0, none⟩) n0 n0, .slice (some ⟨g', 0, none⟩) n1 n1, .int .i64 ep, .int .i64 nx, .slice (some ⟨gu, 0, none⟩) un un, .slice (some ⟨gh, 0, none⟩) hn hn]] W fun e w' => (∃ v u, e = .returned (.tuple #[v, u]) ∧ AnsVL false W.heap.size RX RY rep rnx rus rhs rhl v u w') ∧ Below W.heap.size W w')
    (HIm : ∀ (g g' gu gh lo : Nat) (l' : List UE) (W : World), Below w.heap.size w W → SzS n0 xs n1 ys un l → hn ≤ 1048576 → SvAt W lo (some ⟨g, 0, none⟩) n0 n0 xs (some ⟨g', 0, none⟩) n1 n1 ys (some ⟨gu, 0, none⟩) un un l' (some ⟨gh, 0, none⟩) hn hn hs → l'.map UE.u = l.map UE.u → (∀ e ∈ l', e.n ≤ 1048576) → Calls Tryz.prog 8 #[.agg #[.slice (some ⟨g, 0, none⟩) n0 n0, .slice (some ⟨g', 0, none⟩) n1 n1, .int .i64 ep, .int .i64 nx, .slice (some ⟨gu, 0, none⟩) un un, .slice (some ⟨gh, 0, none⟩) hn hn]] W fun e w' => (∃ v u, e = .returned (.tuple #[v, u]) ∧ AnsVL true W.heap.size RX RY rep rnx rus rhs rhl v u w') ∧ Below W.heap.size W w') :
    Calls Tryz.prog 3 #[.agg #[.slice a0 n0 ca0, .slice a1 n1 ca1, .int .i64 ep, .int .i64 nx, .slice ua un uc, .slice ha hn hc]] w fun e w' => e = .returned (.bool true) ∧ Below w.heap.size w w' := by
  have hmm : maxLen < 9223372036854775808 := by decide
  obtain ⟨w0, hw0⟩ : ∃ w0, w.alloc (.cells #[.slice a0 n0 ca0, .slice a1 n1 ca1, .int .i64 ep, .int .i64 nx, .slice ua un uc, .slice ha hn hc] 30) = w0 := ⟨_, rfl⟩
  have HE : Hid (w.alloc (.cells #[.slice a0 n0 ca0, .slice a1 n1 ca1, .int .i64 ep, .int .i64 nx, .slice ua un uc, .slice ha hn hc] 30) = w0) := hw0
  have hB0 : Below w.heap.size w w0 := by rw [← hw0]; exact (Below.refl _ _).alloc (Nat.le_refl _) _
  have hQ0 : BoxN w0 w.heap.size 30 [.slice a0 n0 ca0, .slice a1 n1 ca1, .int .i64 ep, .int .i64 nx, .slice ua un uc, .slice ha hn hc] := by rw [← hw0]; exact BoxN.new _ _ _
  have HX : Hid (∀ W, Below w0.heap.size w0 W → BoxN W w.heap.size 30 [.slice a0 n0 ca0, .slice a1 n1 ca1, .int .i64 ep, .int .i64 nx, .slice ua un uc, .slice ha hn hc] ∧ Strs W a0 n0 xs ∧ Strs W a1 n1 ys ∧ UpsI W ua un l ∧ Below w.heap.size w W ∧ Helds W ha hn hs) := fun W hb => ⟨hQ0.stays hb, (h1.below hB0).below hb, (h2.below hB0).below hb, (hu.below hB0).below hb, hB0.trans (hb.mono hB0.size), (hh.below hB0).below hb⟩
  have hww : w.heap.size < w0.heap.size := hQ0.lt
  have HP : Hid (∀ (g g' gu gh lo : Nat) (l' : List UE) (W : World), Below w.heap.size w W → SzS n0 xs n1 ys un l → hn ≤ 1048576 → SvAt W lo (some ⟨g, 0, none⟩) n0 n0 xs (some ⟨g', 0, none⟩) n1 n1 ys (some ⟨gu, 0, none⟩) un un l' (some ⟨gh, 0, none⟩) hn hn hs → l'.map UE.u = l.map UE.u → (∀ e ∈ l', e.n ≤ 1048576) → Calls Tryz.prog 6 #[.agg #[.slice (some ⟨g, 0, none⟩) n0 n0, .slice (some ⟨g', 0, none⟩) n1 n1, .int .i64 ep, .int .i64 nx, .slice (some ⟨gu, 0, none⟩) un un, .slice (some ⟨gh, 0, none⟩) hn hn]] W fun e w' => (∃ v u, e = .returned (.tuple #[v, u]) ∧ AnsVL false W.heap.size RX RY rep rnx rus rhs rhl v u w') ∧ Below W.heap.size W w') := HSp
  have HI : Hid (∀ (g g' gu gh lo : Nat) (l' : List UE) (W : World), Below w.heap.size w W → SzS n0 xs n1 ys un l → hn ≤ 1048576 → SvAt W lo (some ⟨g, 0, none⟩) n0 n0 xs (some ⟨g', 0, none⟩) n1 n1 ys (some ⟨gu, 0, none⟩) un un l' (some ⟨gh, 0, none⟩) hn hn hs → l'.map UE.u = l.map UE.u → (∀ e ∈ l', e.n ≤ 1048576) → Calls Tryz.prog 8 #[.agg #[.slice (some ⟨g, 0, none⟩) n0 n0, .slice (some ⟨g', 0, none⟩) n1 n1, .int .i64 ep, .int .i64 nx, .slice (some ⟨gu, 0, none⟩) un un, .slice (some ⟨gh, 0, none⟩) hn hn]] W fun e w' => (∃ v u, e = .returned (.tuple #[v, u]) ∧ AnsVL true W.heap.size RX RY rep rnx rus rhs rhl v u w') ∧ Below W.heap.size W w') := HIm
  have HA0 : Hid (Below w0.heap.size w0 w0) := Below.refl _ _
  clear hw0 h1 h2 hu hh HSp HIm hQ0 hB0
  obtain ⟨c0, c1, c2, c3, c4, c5⟩ := (show _ ∧ _ ∧ _ ∧ _ ∧ _ ∧ _ from ⟨BoxN.cell (HX.out _ HA0.out).1 0 rfl, BoxN.cell (HX.out _ HA0.out).1 1 rfl, BoxN.cell (HX.out _ HA0.out).1 2 rfl, BoxN.cell (HX.out _ HA0.out).1 3 rfl, BoxN.cell (HX.out _ HA0.out).1 4 rfl, BoxN.cell (HX.out _ HA0.out).1 5 rfl⟩)
  go_enter Tryz.func3, Tryz.ntmps3
  go_upto_region 1 with fail
  rw [HE.out]
  clear HE
  go_wp2_with fail
  refine (szServer_any a0 n0 ca0 xs a1 n1 ca1 ys ep nx ua un uc l ha hn hc hs w0 (HX.out _ HA0.out).2.1 (HX.out _ HA0.out).2.2.1 (HX.out _ HA0.out).2.2.2.1 hl0 hl1 hlu hlh).mono ?_
  rintro e x0 ⟨⟨L0, rfl, hL⟩, hb0⟩
  have HB0 : Hid (Below w0.heap.size w0 x0) := hb0
  clear hb0 c0 c1 c2 c3 c4 c5
  by_cases hneg : L0 < 0
  · have HBw : Hid (Below w.heap.size w x0) := (HX.out _ HB0.out).2.2.2.2.1
    clear hL
    go_wp2_with fail
    go_ret
    exact ⟨rfl, HBw.out⟩
  have hsz : SzS n0 xs n1 ys un l ∧ hn ≤ 1048576 := by
    rcases hL with h | h
    · exact absurd h (by omega)
    · exact ⟨h.1, h.2.1⟩
  have HSz : Hid (SzS n0 xs n1 ys un l) := hsz.1
  have hhn : hn ≤ 1048576 := hsz.2
  have hun1 : un ≤ 1048576 := HSz.out.2.2.2.2.1
  have hn01 : n0 ≤ 1048576 := HSz.out.1
  have hn11 : n1 ≤ 1048576 := HSz.out.2.1
  clear hL hsz
  have HTs : Hid (∀ W, Below w0.heap.size w0 W → Calls Tryz.prog 7 #[.agg #[.slice a0 n0 ca0, .slice a1 n1 ca1, .int .i64 ep, .int .i64 nx, .slice ua un uc, .slice ha hn hc]] W fun r w' => (∃ g g' gu l' gh, r = .returned (.agg #[.slice (some ⟨g, 0, none⟩) n0 n0, .slice (some ⟨g', 0, none⟩) n1 n1, .int .i64 ep, .int .i64 nx, .slice (some ⟨gu, 0, none⟩) un un, .slice (some ⟨gh, 0, none⟩) hn hn]) ∧ SvAt w' W.heap.size (some ⟨g, 0, none⟩) n0 n0 xs (some ⟨g', 0, none⟩) n1 n1 ys (some ⟨gu, 0, none⟩) un un l' (some ⟨gh, 0, none⟩) hn hn hs ∧ l'.map UE.u = l.map UE.u ∧ (∀ e ∈ l', e.n ≤ 1048576) ∧ SvBeh W.heap.size (some ⟨g, 0, none⟩) (some ⟨g', 0, none⟩) (some ⟨gu, 0, none⟩) l' (some ⟨gh, 0, none⟩)) ∧ Below W.heap.size W w') := fun W hb => (toServer_in a0 n0 ca0 xs a1 n1 ca1 ys ep nx ua un uc l ha hn hc hs W (HX.out _ hb).2.1 (HX.out _ hb).2.2.1 (HX.out _ hb).2.2.2.1 (HX.out _ hb).2.2.2.2.2 HSz.out hhn).mono (fun r w' ⟨⟨g, g', gu, l', gh, h1, h2, h3, h4, h5, h6, h7⟩, h8⟩ => ⟨⟨g, g', gu, l', gh, h1, ⟨h2, h3⟩, h4, h5, ⟨gh, h7, h6, fun q e => by have e2 : gh = q := (by simpa using e); omega⟩⟩, h8⟩)
  obtain ⟨N, hN⟩ : ∃ N, RX.length = N := ⟨_, rfl⟩
  obtain ⟨N', hN'⟩ : ∃ N', RY.length = N' := ⟨_, rfl⟩
  obtain ⟨K, hK⟩ : ∃ K, rus.length = K := ⟨_, rfl⟩
  obtain ⟨M, hM⟩ : ∃ M, rhs.length = M := ⟨_, rfl⟩
  obtain ⟨L, hL⟩ : ∃ L, rhl.length = L := ⟨_, rfl⟩
  have hRb := hRX HSz.out hhn
  rw [hN, hN', hK, hM, hL] at hRb
  have hNb : N ≤ 1048576 := hRb.1
  have hNb' : N' ≤ 1048576 := hRb.2.1
  have hKb : K ≤ 1048576 := hRb.2.2.1
  have hMb : M ≤ 1048576 := hRb.2.2.2.2.1
  have hLb : L ≤ 1048576 := hRb.2.2.2.2.2
  have HAn : Hid (∀ k base v u W, AnsVL k base RX RY rep rnx rus rhs rhl v u W → ∃ a c a' c' ua uc lx h hc p pc, v = .agg #[.slice a N c, .slice a' N' c', .int .i64 rep, .int .i64 rnx, .slice ua K uc, .slice h M hc] ∧ u = .slice p L pc ∧ SvAt W base a N c RX a' N' c' RY ua K uc lx h M hc rhs ∧ lx.map UE.u = rus ∧ OwnH W base p L pc rhl ∧ (∀ e ∈ lx, e.n ≤ 1048576) ∧ mkUEnd (1 + N + N') lx ≤ 1109526777856 ∧ (k = true → SvBeh base a a' ua lx h ∧ SvAp base a a' ua lx h M p L)) := fun k base v u W h => by
    obtain ⟨a, c, a', c', ua, uc, lx, hh, hc, p, pc, h1, h2, h3, h4, h5, h6⟩ := h.get
    rw [hN, hN', hK, hM] at h1 h3
    rw [hL] at h2 h5
    rw [hM, hL] at h6
    have hz : ∀ e ∈ lx, e.n ≤ 1048576 := fun e he => by
      have h7 := (h3.sto.ups.2.1 e he).seg.1
      have h8 := hRb.2.2.2.1 e.u (by rw [← h4]; exact List.mem_map_of_mem he)
      omega
    refine ⟨a, c, a', c', ua, uc, lx, hh, hc, p, pc, h1, h2, h3, h4, h5, hz, ?_, h6⟩
    have h7 := mkUEnd_le (1 + N + N') 1048576 lx hz
    have h8 := h3.sto.len
    have h9 : (3 + 1048576) * lx.length ≤ (3 + 1048576) * 1048576 := Nat.mul_le_mul_left _ (by omega)
    omega
  clear hN hN' hK hM hL hRb hRX
  obtain ⟨c0, c1, c2, c3, c4, c5⟩ := (show _ ∧ _ ∧ _ ∧ _ ∧ _ ∧ _ from ⟨BoxN.cell (HX.out _ HB0.out).1 0 rfl, BoxN.cell (HX.out _ HB0.out).1 1 rfl, BoxN.cell (HX.out _ HB0.out).1 2 rfl, BoxN.cell (HX.out _ HB0.out).1 3 rfl, BoxN.cell (HX.out _ HB0.out).1 4 rfl, BoxN.cell (HX.out _ HB0.out).1 5 rfl⟩)
  go_wp2_with fail
  refine (HTs.out _ HB0.out).mono ?_
  rintro e x1 ⟨⟨g1, g1', gu1, l1, gh1, rfl, hs1, hm1, hz1, _⟩, hb1⟩
  have HB1 : Hid (Below w0.heap.size w0 x1) := HB0.out.trans (hb1.mono HB0.out.size)
  have HS1 : Hid (SvAt x1 x0.heap.size (some ⟨g1, 0, none⟩) n0 n0 xs (some ⟨g1', 0, none⟩) n1 n1 ys (some ⟨gu1, 0, none⟩) un un l1 (some ⟨gh1, 0, none⟩) hn hn hs ∧ l1.map UE.u = l.map UE.u ∧ ∀ e ∈ l1, e.n ≤ 1048576) := ⟨hs1, hm1, hz1⟩
  clear hs1 hm1 hz1 hb1 c0 c1 c2 c3 c4 c5
  go_wp2_with fail
  refine (HP.out _ _ _ _ _ l1 x1 (HX.out _ HB1.out).2.2.2.2.1 HSz.out hhn HS1.out.1 HS1.out.2.1 HS1.out.2.2).mono ?_
  rintro e x2 ⟨⟨vx2, ux2, rfl, hvx2⟩, hb2⟩
  obtain ⟨wa, wc, wa', wc', wu, wuc, lw, wh, whc, wp, wpc, rfl, rfl, hsx2, hmx2, hpx2, hzx2, hEx2, hkx2⟩ := HAn.out _ _ _ _ _ hvx2
  have HAw : Hid (GV (x2.alloc (.cells #[.slice wa N wc, .slice wa' N' wc', .int .i64 rep, .int .i64 rnx, .slice wu K wuc, .slice wh M whc] 38)) x1.heap.size x2.heap.size wa N wc RX wa' N' wc' RY rep rnx wu K wuc lw wh M whc rhs wp L wpc rhl) := GV.new hsx2 hpx2 hb2.size
  have HB2 : Hid (Below w0.heap.size w0 (x2.alloc (.cells #[.slice wa N wc, .slice wa' N' wc', .int .i64 rep, .int .i64 rnx, .slice wu K wuc, .slice wh M whc] 38))) := (HB1.out.trans (hb2.mono HB1.out.size)).alloc (HB1.out.trans (hb2.mono HB1.out.size)).size _
  have HZ2 : Hid ((x2.alloc (.cells #[.slice wa N wc, .slice wa' N' wc', .int .i64 rep, .int .i64 rnx, .slice wu K wuc, .slice wh M whc] 38)).heap.size = x2.heap.size + 1) := by show _ = _; simp
  have HMw : Hid (lw.map UE.u = rus ∧ ∀ e ∈ lw, e.n ≤ 1048576) := ⟨hmx2, hzx2⟩
  have hz12 : x1.heap.size ≤ x2.heap.size := hb2.size
  have hz01 : w0.heap.size ≤ x1.heap.size := HB1.out.size
  clear hvx2 hsx2 hmx2 hpx2 hzx2 hEx2 hkx2 hb2 HS1 HP
  obtain ⟨c0, c1, c2, c3, c4, c5⟩ := (show _ ∧ _ ∧ _ ∧ _ ∧ _ ∧ _ from ⟨BoxN.cell (HX.out _ HB2.out).1 0 rfl, BoxN.cell (HX.out _ HB2.out).1 1 rfl, BoxN.cell (HX.out _ HB2.out).1 2 rfl, BoxN.cell (HX.out _ HB2.out).1 3 rfl, BoxN.cell (HX.out _ HB2.out).1 4 rfl, BoxN.cell (HX.out _ HB2.out).1 5 rfl⟩)
  go_wp2_with fail
  obtain ⟨w2, hw2⟩ : ∃ w2, x2.alloc (.cells #[.slice wa N wc, .slice wa' N' wc', .int .i64 rep, .int .i64 rnx, .slice wu K wuc, .slice wh M whc] 38) = w2 := ⟨_, rfl⟩
  rw [hw2] at HAw HB2 HZ2 ⊢
  clear hw2
  generalize x2.heap.size = bw at *
  refine (HTs.out _ HB2.out).mono ?_
  rintro e x3 ⟨⟨g3, g3', gu3, l3, gh3, rfl, hs3, hm3, hz3, hk3⟩, hb3⟩
  have HAx : Hid (VB (x3.alloc (.cells #[.slice (some ⟨g3, 0, none⟩) n0 n0, .slice (some ⟨g3', 0, none⟩) n1 n1, .int .i64 ep, .int .i64 nx, .slice (some ⟨gu3, 0, none⟩) un un, .slice (some ⟨gh3, 0, none⟩) hn hn] 38)) w2.heap.size x3.heap.size (some ⟨g3, 0, none⟩) n0 n0 xs (some ⟨g3', 0, none⟩) n1 n1 ys ep nx (some ⟨gu3, 0, none⟩) un un l3 (some ⟨gh3, 0, none⟩) hn hn hs) := VB.new hs3 hb3.size
  have HM3 : Hid (l3.map UE.u = l.map UE.u ∧ (∀ e ∈ l3, e.n ≤ 1048576) ∧ SvBeh w2.heap.size (some ⟨g3, 0, none⟩) (some ⟨g3', 0, none⟩) (some ⟨gu3, 0, none⟩) l3 (some ⟨gh3, 0, none⟩)) := ⟨hm3, hz3, hk3⟩
  have HBa : Hid (Below w2.heap.size w2 (x3.alloc (.cells #[.slice (some ⟨g3, 0, none⟩) n0 n0, .slice (some ⟨g3', 0, none⟩) n1 n1, .int .i64 ep, .int .i64 nx, .slice (some ⟨gu3, 0, none⟩) un un, .slice (some ⟨gh3, 0, none⟩) hn hn] 38))) := hb3.alloc hb3.size _
  have HZ4 : Hid ((x3.alloc (.cells #[.slice (some ⟨g3, 0, none⟩) n0 n0, .slice (some ⟨g3', 0, none⟩) n1 n1, .int .i64 ep, .int .i64 nx, .slice (some ⟨gu3, 0, none⟩) un un, .slice (some ⟨gh3, 0, none⟩) hn hn] 38)).heap.size = x3.heap.size + 1) := by show _ = _; simp
  have hz23 : w2.heap.size ≤ x3.heap.size := hb3.size
  clear hs3 hm3 hz3 hk3 hb3 c0 c1 c2 c3 c4 c5
  obtain ⟨d0, d1, d2, d3, d4, d5⟩ := (show _ ∧ _ ∧ _ ∧ _ ∧ _ ∧ _ from ⟨BoxN.cell HAx.out.box 0 rfl, BoxN.cell HAx.out.box 1 rfl, BoxN.cell HAx.out.box 2 rfl, BoxN.cell HAx.out.box 3 rfl, BoxN.cell HAx.out.box 4 rfl, BoxN.cell HAx.out.box 5 rfl⟩)
  go_wp2_with fail
  obtain ⟨w3, hw3⟩ : ∃ w3, x3.alloc (.cells #[.slice (some ⟨g3, 0, none⟩) n0 n0, .slice (some ⟨g3', 0, none⟩) n1 n1, .int .i64 ep, .int .i64 nx, .slice (some ⟨gu3, 0, none⟩) un un, .slice (some ⟨gh3, 0, none⟩) hn hn] 38) = w3 := ⟨_, rfl⟩
  rw [hw3] at HAx HBa HZ4 ⊢
  clear hw3 d0 d1 d2 d3 d4 d5
  have HB3 : Hid (Below w0.heap.size w0 w3) := HB2.out.trans (HBa.out.mono HB2.out.size)
  have HAw3 : Hid (GV w3 x1.heap.size bw wa N wc RX wa' N' wc' RY rep rnx wu K wuc lw wh M whc rhs wp L wpc rhl) := HAw.out.stays HBa.out
  clear HAw HBa HB2
  generalize x3.heap.size = bx at *
  refine (HI.out _ _ _ _ _ l3 w3 (HX.out _ HB3.out).2.2.2.2.1 HSz.out hhn HAx.out.sv HM3.out.1 HM3.out.2.1).mono ?_
  rintro e x4 ⟨⟨vx4, ux4, rfl, hvx4⟩, hb4⟩
  obtain ⟨ga, gc, ga', gc', gu, guc, lg, gh, ghc, gp, gpc, rfl, rfl, hsx4, hmx4, hpx4, hzx4, hEx4, hkx4⟩ := HAn.out _ _ _ _ _ hvx4
  have HAg : Hid (GV (x4.alloc (.cells #[.slice ga N gc, .slice ga' N' gc', .int .i64 rep, .int .i64 rnx, .slice gu K guc, .slice gh M ghc] 38)) w3.heap.size x4.heap.size ga N gc RX ga' N' gc' RY rep rnx gu K guc lg gh M ghc rhs gp L gpc rhl) := GV.new hsx4 hpx4 hb4.size
  have HBb : Hid (Below w3.heap.size w3 (x4.alloc (.cells #[.slice ga N gc, .slice ga' N' gc', .int .i64 rep, .int .i64 rnx, .slice gu K guc, .slice gh M ghc] 38))) := hb4.alloc hb4.size _
  have HMg : Hid (lg.map UE.u = rus ∧ (∀ e ∈ lg, e.n ≤ 1048576) ∧ mkUEnd (1 + N + N') lg ≤ 1109526777856 ∧ SvBeh w3.heap.size ga ga' gu lg gh ∧ SvAp w3.heap.size ga ga' gu lg gh M gp L) := ⟨hmx4, hzx4, hEx4, (hkx4 rfl).1, (hkx4 rfl).2⟩
  have hz34 : w3.heap.size ≤ x4.heap.size := hb4.size
  clear hvx4 hsx4 hmx4 hpx4 hzx4 hEx4 hkx4 hb4
  have HAw4 : Hid (GV (x4.alloc (.cells #[.slice ga N gc, .slice ga' N' gc', .int .i64 rep, .int .i64 rnx, .slice gu K guc, .slice gh M ghc] 38)) x1.heap.size bw wa N wc RX wa' N' wc' RY rep rnx wu K wuc lw wh M whc rhs wp L wpc rhl) := HAw3.out.stays HBb.out
  have HAx4 : Hid (VB (x4.alloc (.cells #[.slice ga N gc, .slice ga' N' gc', .int .i64 rep, .int .i64 rnx, .slice gu K guc, .slice gh M ghc] 38)) w2.heap.size bx (some ⟨g3, 0, none⟩) n0 n0 xs (some ⟨g3', 0, none⟩) n1 n1 ys ep nx (some ⟨gu3, 0, none⟩) un un l3 (some ⟨gh3, 0, none⟩) hn hn hs) := HAx.out.stays HBb.out
  have HB4 : Hid (Below w0.heap.size w0 (x4.alloc (.cells #[.slice ga N gc, .slice ga' N' gc', .int .i64 rep, .int .i64 rnx, .slice gu K guc, .slice gh M ghc] 38))) := HB3.out.trans (HBb.out.mono HB3.out.size)
  clear HAw3 HAx HBb HB3
  obtain ⟨p0, p1, p2, p3, p4, p5⟩ := (show _ ∧ _ ∧ _ ∧ _ ∧ _ ∧ _ from ⟨BoxN.cell HAw4.out.var.box 0 rfl, BoxN.cell HAw4.out.var.box 1 rfl, BoxN.cell HAw4.out.var.box 2 rfl, BoxN.cell HAw4.out.var.box 3 rfl, BoxN.cell HAw4.out.var.box 4 rfl, BoxN.cell HAw4.out.var.box 5 rfl⟩)
  obtain ⟨q0, q1, q2, q3, q4, q5⟩ := (show _ ∧ _ ∧ _ ∧ _ ∧ _ ∧ _ from ⟨BoxN.cell HAg.out.var.box 0 rfl, BoxN.cell HAg.out.var.box 1 rfl, BoxN.cell HAg.out.var.box 2 rfl, BoxN.cell HAg.out.var.box 3 rfl, BoxN.cell HAg.out.var.box 4 rfl, BoxN.cell HAg.out.var.box 5 rfl⟩)
  go_wp2_with fail
  obtain ⟨w4, hw4⟩ : ∃ w4, x4.alloc (.cells #[.slice ga N gc, .slice ga' N' gc', .int .i64 rep, .int .i64 rnx, .slice gu K guc, .slice gh M ghc] 38) = w4 := ⟨_, rfl⟩
  rw [hw4] at HAw4 HAx4 HAg HB4 ⊢
  clear hw4 p0 p1 p2 p3 p4 p5 q0 q1 q2 q3 q4 q5
  generalize x4.heap.size = bg at *
  refine (eqServer_same ga wa N gc wc RX ga' wa' N' gc' wc' RY rep rnx gu K guc w3.heap.size lg wu K wuc x1.heap.size lw gh wh M ghc whc rhs w4 HAg.out.var.sv.sto HAw4.out.var.sv.sto (by rw [HMg.out.1, HMw.out.1]) (by omega) (by omega) (by omega) (fun e he => by have := HMg.out.2.1 e he; omega) HAg.out.var.sv.held.helds HAw4.out.var.sv.held.helds (by omega)).mono ?_
  rintro e y4 ⟨rfl, hb5⟩
  have HAw5 : Hid (GV y4 x1.heap.size bw wa N wc RX wa' N' wc' RY rep rnx wu K wuc lw wh M whc rhs wp L wpc rhl) := HAw4.out.stays hb5
  have HAx5 : Hid (VB y4 w2.heap.size bx (some ⟨g3, 0, none⟩) n0 n0 xs (some ⟨g3', 0, none⟩) n1 n1 ys ep nx (some ⟨gu3, 0, none⟩) un un l3 (some ⟨gh3, 0, none⟩) hn hn hs) := HAx4.out.stays hb5
  have HAg5 : Hid (GV y4 w3.heap.size bg ga N gc RX ga' N' gc' RY rep rnx gu K guc lg gh M ghc rhs gp L gpc rhl) := HAg.out.stays hb5
  have HB5 : Hid (Below w0.heap.size w0 y4) := HB4.out.trans (hb5.mono HB4.out.size)
  clear hb5 HAw4 HAx4 HAg HB4
  go_wp2_with fail
  refine (eqHeldS_same gp wp L gpc wpc rhl y4 HAg5.out.lst.helds HAw5.out.lst.helds (by omega)).mono ?_
  rintro e x5 ⟨rfl, hb5⟩
  have HAw6 : Hid (GV x5 x1.heap.size bw wa N wc RX wa' N' wc' RY rep rnx wu K wuc lw wh M whc rhs wp L wpc rhl) := HAw5.out.stays hb5
  have HAx6 : Hid (VB x5 w2.heap.size bx (some ⟨g3, 0, none⟩) n0 n0 xs (some ⟨g3', 0, none⟩) n1 n1 ys ep nx (some ⟨gu3, 0, none⟩) un un l3 (some ⟨gh3, 0, none⟩) hn hn hs) := HAx5.out.stays hb5
  have HAg6 : Hid (GV x5 w3.heap.size bg ga N gc RX ga' N' gc' RY rep rnx gu K guc lg gh M ghc rhs gp L gpc rhl) := HAg5.out.stays hb5
  have HB6 : Hid (Below w0.heap.size w0 x5) := HB5.out.trans (hb5.mono HB5.out.size)
  clear hb5 HAw5 HAx5 HAg5 HB5
  obtain ⟨c0, c1, c2, c3, c4, c5⟩ := (show _ ∧ _ ∧ _ ∧ _ ∧ _ ∧ _ from ⟨BoxN.cell (HX.out _ HB6.out).1 0 rfl, BoxN.cell (HX.out _ HB6.out).1 1 rfl, BoxN.cell (HX.out _ HB6.out).1 2 rfl, BoxN.cell (HX.out _ HB6.out).1 3 rfl, BoxN.cell (HX.out _ HB6.out).1 4 rfl, BoxN.cell (HX.out _ HB6.out).1 5 rfl⟩)
  obtain ⟨d0, d1, d2, d3, d4, d5⟩ := (show _ ∧ _ ∧ _ ∧ _ ∧ _ ∧ _ from ⟨BoxN.cell HAx6.out.box 0 rfl, BoxN.cell HAx6.out.box 1 rfl, BoxN.cell HAx6.out.box 2 rfl, BoxN.cell HAx6.out.box 3 rfl, BoxN.cell HAx6.out.box 4 rfl, BoxN.cell HAx6.out.box 5 rfl⟩)
  go_upto_region 10 with fail
  go_region_held3 (fun W => (W.cell? ⟨bx, 0, none⟩ = some (.slice (some ⟨g3, 0, none⟩) n0 n0) ∧ W.cell? ⟨bx, 1, none⟩ = some (.slice (some ⟨g3', 0, none⟩) n1 n1) ∧ W.cell? ⟨bx, 2, none⟩ = some (.int .i64 ep) ∧ W.cell? ⟨bx, 3, none⟩ = some (.int .i64 nx) ∧ W.cell? ⟨bx, 4, none⟩ = some (.slice (some ⟨gu3, 0, none⟩) un un) ∧ W.cell? ⟨bx, 5, none⟩ = some (.slice (some ⟨gh3, 0, none⟩) hn hn)) ∧ W.cell? ⟨w.heap.size, 0, none⟩ = some (.slice a0 n0 ca0) ∧ W.cell? ⟨w.heap.size, 1, none⟩ = some (.slice a1 n1 ca1) ∧ W.cell? ⟨w.heap.size, 2, none⟩ = some (.int .i64 ep) ∧ W.cell? ⟨w.heap.size, 3, none⟩ = some (.int .i64 nx) ∧ W.cell? ⟨w.heap.size, 4, none⟩ = some (.slice ua un uc) ∧ W.cell? ⟨w.heap.size, 5, none⟩ = some (.slice ha hn hc)) (first | with_reducible exact ⟨⟨i0, i1, i2, i3, i4, i5⟩, e0, e1, e2, e3, e4, e5⟩ | with_reducible exact ⟨⟨d0, d1, d2, d3, d4, d5⟩, c0, c1, c2, c3, c4, c5⟩ | exact ⟨⟨d0, d1, d2, d3, d4, d5⟩, c0, c1, c2, c3, c4, c5⟩ | fail) (first
    | (go_at_call 7; refine (HTs.out _ (HB6.out.drew)).mono ?_; rintro _ x6 ⟨⟨g6, g6', gu6, l6, gh6, rfl, hs6, hm6, hz6, _⟩, hb6⟩
       have hb6' : Below x5.heap.size x5 x6 := (Below.refl x5.heap.size x5).drew.trans (hb6.mono (Nat.le_refl _))
       have hB6 : Below w0.heap.size w0 x6 := HB6.out.trans (hb6'.mono HB6.out.size)
       have e0 := BoxN.cell (HX.out _ hB6).1 0 rfl
       have e1 := BoxN.cell (HX.out _ hB6).1 1 rfl
       have e2 := BoxN.cell (HX.out _ hB6).1 2 rfl
       have e3 := BoxN.cell (HX.out _ hB6).1 3 rfl
       have e4 := BoxN.cell (HX.out _ hB6).1 4 rfl
       have e5 := BoxN.cell (HX.out _ hB6).1 5 rfl
       have i0 := BoxN.cell (HAx6.out.stays hb6').box 0 rfl
       have i1 := BoxN.cell (HAx6.out.stays hb6').box 1 rfl
       have i2 := BoxN.cell (HAx6.out.stays hb6').box 2 rfl
       have i3 := BoxN.cell (HAx6.out.stays hb6').box 3 rfl
       have i4 := BoxN.cell (HAx6.out.stays hb6').box 4 rfl
       have i5 := BoxN.cell (HAx6.out.stays hb6').box 5 rfl)
    | (go_at_call 9; refine (eqServer_same (some ⟨g3, 0, none⟩) (some ⟨g6, 0, none⟩) n0 n0 n0 xs (some ⟨g3', 0, none⟩) (some ⟨g6', 0, none⟩) n1 n1 n1 ys ep nx (some ⟨gu3, 0, none⟩) un un w2.heap.size l3 (some ⟨gu6, 0, none⟩) un un x5.heap.size l6 (some ⟨gh3, 0, none⟩) (some ⟨gh6, 0, none⟩) hn hn hn hs x6 (HAx6.out.stays hb6').sv.sto hs6.sto (by rw [HM3.out.1, hm6]) (by omega) (by omega) (by omega) (fun e he => by have := HM3.out.2.1 e he; omega) (HAx6.out.stays hb6').sv.held.helds hs6.held.helds (by omega)).mono ?_; rintro _ x7 ⟨rfl, hb7⟩
       have hb7' : Below x5.heap.size x5 x7 := hb6'.trans (hb7.mono hb6'.size)
       have hB7 : Below w0.heap.size w0 x7 := HB6.out.trans (hb7'.mono HB6.out.size)
       have e0 := BoxN.cell (HX.out _ hB7).1 0 rfl
       have e1 := BoxN.cell (HX.out _ hB7).1 1 rfl
       have e2 := BoxN.cell (HX.out _ hB7).1 2 rfl
       have e3 := BoxN.cell (HX.out _ hB7).1 3 rfl
       have e4 := BoxN.cell (HX.out _ hB7).1 4 rfl
       have e5 := BoxN.cell (HX.out _ hB7).1 5 rfl
       have i0 := BoxN.cell (HAx6.out.stays hb7').box 0 rfl
       have i1 := BoxN.cell (HAx6.out.stays hb7').box 1 rfl
       have i2 := BoxN.cell (HAx6.out.stays hb7').box 2 rfl
       have i3 := BoxN.cell (HAx6.out.stays hb7').box 3 rfl
       have i4 := BoxN.cell (HAx6.out.stays hb7').box 4 rfl
       have i5 := BoxN.cell (HAx6.out.stays hb7').box 5 rfl)
    | fail)
  have HAw7 : Hid (GV x7 x1.heap.size bw wa N wc RX wa' N' wc' RY rep rnx wu K wuc lw wh M whc rhs wp L wpc rhl) := HAw6.out.stays hb7'
  have HAx7 : Hid (VB x7 w2.heap.size bx (some ⟨g3, 0, none⟩) n0 n0 xs (some ⟨g3', 0, none⟩) n1 n1 ys ep nx (some ⟨gu3, 0, none⟩) un un l3 (some ⟨gh3, 0, none⟩) hn hn hs) := HAx6.out.stays hb7'
  have HAg7 : Hid (GV x7 w3.heap.size bg ga N gc RX ga' N' gc' RY rep rnx gu K guc lg gh M ghc rhs gp L gpc rhl) := HAg6.out.stays hb7'
  have HB7 : Hid (Below w0.heap.size w0 x7) := hB7
  clear hs6 hm6 hz6 hb6 hb6' hB6 hb7 hb7' hB7 e0 e1 e2 e3 e4 e5 i0 i1 i2 i3 i4 i5 c0 c1 c2 c3 c4 c5 d0 d1 d2 d3 d4 d5 HAw6 HAx6 HAg6 HB6
  obtain ⟨d0, d1, d2, d3, d4, d5⟩ := (show _ ∧ _ ∧ _ ∧ _ ∧ _ ∧ _ from ⟨BoxN.cell HAx7.out.box 0 rfl, BoxN.cell HAx7.out.box 1 rfl, BoxN.cell HAx7.out.box 2 rfl, BoxN.cell HAx7.out.box 3 rfl, BoxN.cell HAx7.out.box 4 rfl, BoxN.cell HAx7.out.box 5 rfl⟩)
  have HEnd : Hid (mkUEnd (1 + n0 + n1) l3 ≤ 1109526777856) := by
    have h1 := mkUEnd_le (1 + n0 + n1) 1048576 l3 HM3.out.2.1
    have h2 := HAx7.out.sv.sto.len
    have h3 : (3 + 1048576) * l3.length ≤ (3 + 1048576) * 1048576 := Nat.mul_le_mul_left _ (by omega)
    show _ ≤ _
    omega
  go_wp2_with fail
  refine (markServer_any w2.heap.size (some ⟨g3, 0, none⟩) n0 n0 xs (some ⟨g3', 0, none⟩) n1 n1 ys ep nx (some ⟨gu3, 0, none⟩) un un l3 (some ⟨gh3, 0, none⟩) hn hn hs 1 x7 HAx7.out.sv (by omega) (by omega) (by omega) (by omega) (by have := HEnd.out; omega) (by omega) bx HAx7.out.inn HM3.out.2.2 (Nat.le_of_lt HAx7.out.box.lt)).mono ?_
  rintro e x8 ⟨rfl, _, hw8⟩
  have hz2 := HZ2.out
  have hz4 := HZ4.out
  have hl3 : w2.heap.size ≤ bx := HAx7.out.lob
  have hl1x : x1.heap.size ≤ bw := HAw7.out.var.lob
  have HAw8 : Hid (GV x8 x1.heap.size bw wa N wc RX wa' N' wc' RY rep rnx wu K wuc lw wh M whc rhs wp L wpc rhl) := HAw7.out.kept hw8 (.inl (by omega))
  have HAg8 : Hid (GV x8 w3.heap.size bg ga N gc RX ga' N' gc' RY rep rnx gu K guc lg gh M ghc rhs gp L gpc rhl) := HAg7.out.kept hw8 (.inr (by omega))
  have HB8 : Hid (Below w0.heap.size w0 x8) := HB7.out.trans ((hw8.below (by have := HAw7.out.var.box.lt; have := HAx7.out.box.lt; omega)).mono (by omega))
  obtain ⟨kk, hkk⟩ : ∃ kk, mkUEnd (1 + n0 + n1) l3 + 3 * hn = kk := ⟨_, rfl⟩
  rw [hkk]
  have hkp : ¬ (kk : Int) < 0 := by omega
  have hkd : decide ((kk : Int) < 0) = false := by simp
  clear hkk hw8 d0 d1 d2 d3 d4 d5 HAw7 HAx7 HAg7 HB7
  obtain ⟨p0, p1, p2, p3, p4, p5⟩ := (show _ ∧ _ ∧ _ ∧ _ ∧ _ ∧ _ from ⟨BoxN.cell HAw8.out.var.box 0 rfl, BoxN.cell HAw8.out.var.box 1 rfl, BoxN.cell HAw8.out.var.box 2 rfl, BoxN.cell HAw8.out.var.box 3 rfl, BoxN.cell HAw8.out.var.box 4 rfl, BoxN.cell HAw8.out.var.box 5 rfl⟩)
  obtain ⟨q0, q1, q2, q3, q4, q5⟩ := (show _ ∧ _ ∧ _ ∧ _ ∧ _ ∧ _ from ⟨BoxN.cell HAg8.out.var.box 0 rfl, BoxN.cell HAg8.out.var.box 1 rfl, BoxN.cell HAg8.out.var.box 2 rfl, BoxN.cell HAg8.out.var.box 3 rfl, BoxN.cell HAg8.out.var.box 4 rfl, BoxN.cell HAg8.out.var.box 5 rfl⟩)
  go_wp2_with fail
  refine (eqServer_same ga wa N gc wc RX ga' wa' N' gc' wc' RY rep rnx gu K guc w3.heap.size lg wu K wuc x1.heap.size lw gh wh M ghc whc rhs x8 HAg8.out.var.sv.sto HAw8.out.var.sv.sto (by rw [HMg.out.1, HMw.out.1]) (by omega) (by omega) (by omega) (fun e he => by have := HMg.out.2.1 e he; omega) HAg8.out.var.sv.held.helds HAw8.out.var.sv.held.helds (by omega)).mono ?_
  rintro e y9 ⟨rfl, hb9⟩
  have HAw9 : Hid (GV y9 x1.heap.size bw wa N wc RX wa' N' wc' RY rep rnx wu K wuc lw wh M whc rhs wp L wpc rhl) := HAw8.out.stays hb9
  have HAg9 : Hid (GV y9 w3.heap.size bg ga N gc RX ga' N' gc' RY rep rnx gu K guc lg gh M ghc rhs gp L gpc rhl) := HAg8.out.stays hb9
  have HB9 : Hid (Below w0.heap.size w0 y9) := HB8.out.trans (hb9.mono HB8.out.size)
  clear hb9 p0 p1 p2 p3 p4 p5 q0 q1 q2 q3 q4 q5 HAw8 HAg8 HB8
  go_wp2_with fail
  refine (eqHeldS_same gp wp L gpc wpc rhl y9 HAg9.out.lst.helds HAw9.out.lst.helds (by omega)).mono ?_
  rintro e x9 ⟨rfl, hb9⟩
  have HAwA : Hid (GV x9 x1.heap.size bw wa N wc RX wa' N' wc' RY rep rnx wu K wuc lw wh M whc rhs wp L wpc rhl) := HAw9.out.stays hb9
  have HAgA : Hid (GV x9 w3.heap.size bg ga N gc RX ga' N' gc' RY rep rnx gu K guc lg gh M ghc rhs gp L gpc rhl) := HAg9.out.stays hb9
  have HBA : Hid (Below w0.heap.size w0 x9) := HB9.out.trans (hb9.mono HB9.out.size)
  clear hb9 HAw9 HAg9 HB9
  obtain ⟨q0, q1, q2, q3, q4, q5⟩ := (show _ ∧ _ ∧ _ ∧ _ ∧ _ ∧ _ from ⟨BoxN.cell HAgA.out.var.box 0 rfl, BoxN.cell HAgA.out.var.box 1 rfl, BoxN.cell HAgA.out.var.box 2 rfl, BoxN.cell HAgA.out.var.box 3 rfl, BoxN.cell HAgA.out.var.box 4 rfl, BoxN.cell HAgA.out.var.box 5 rfl⟩)
  go_wp2_with fail
  refine (markServer_gv w3.heap.size bg ga N gc RX ga' N' gc' RY rep rnx gu K guc lg gh M ghc rhs gp L gpc rhl x9 HAgA.out HMg.out.2.2.2.1 HMg.out.2.2.2.2 (by omega) (by omega) (by omega) (by have := HMg.out.2.2.1; omega) (by omega)).mono ?_
  rintro e y10 ⟨rfl, hm10, hw10⟩
  have hl9 : w3.heap.size ≤ bg := HAgA.out.var.lob
  have HAwB : Hid (GV y10 x1.heap.size bw wa N wc RX wa' N' wc' RY rep rnx wu K wuc lw wh M whc rhs wp L wpc rhl) := HAwA.out.kept hw10 (.inl (by omega))
  have HBxB : Hid (BoxN y10 bg 38 [.slice ga N gc, .slice ga' N' gc', .int .i64 rep, .int .i64 rnx, .slice gu K guc, .slice gh M ghc]) := (hw10.block bg HAgA.out.var.box.lt (.inr (Nat.le_refl _))).trans HAgA.out.var.box
  have HMkB : Hid (SvMkd y10 w3.heap.size 1 ga N gc ga' N' gc' gu K guc lg gh M ghc ∧ (L = 0 ∨ OwnH y10 w3.heap.size gp L gpc rhl)) := hm10
  have HlinB : Hid ((∀ q, gp.map (·.block) = some q → q < bg) ∧ (L = 0 ∨ M = 0) ∧ bg < y10.heap.size) := ⟨HAgA.out.lin, by rcases HMg.out.2.2.2.2 with h | h; exact .inl h; exact .inr h.2.1, Nat.lt_of_lt_of_le HAgA.out.var.box.lt hw10.size⟩
  have HBB : Hid (Below w0.heap.size w0 y10) := HBA.out.trans ((hw10.below (by have := HAgA.out.var.box.lt; omega)).mono (by omega))
  clear hm10 hw10 q0 q1 q2 q3 q4 q5 HAwA HAgA HBA
  obtain ⟨E1, hE1⟩ : ∃ E1, mkUEnd (1 + N + N') lg + 3 * M = E1 := ⟨_, rfl⟩
  have HE1 : Hid (mkUEnd (1 + N + N') lg + 3 * M = E1) := hE1
  have hE1b : E1 ≤ 2199023255552 := by have := HMg.out.2.2.1; omega
  rw [hE1]
  clear hE1
  go_wp2_with fail
  refine (markHS_gv w3.heap.size bg ga N gc ga' N' gc' gu K guc lg gh M ghc gp L gpc rhl E1 y10 HMkB.out HlinB.out.2.1 HlinB.out.1 (by omega) (by omega)).mono ?_
  rintro e x10 ⟨rfl, hm10, hw10⟩
  have HAwC : Hid (GV x10 x1.heap.size bw wa N wc RX wa' N' wc' RY rep rnx wu K wuc lw wh M whc rhs wp L wpc rhl) := HAwB.out.kept hw10 (.inl (by omega))
  have HBx : Hid (BoxN x10 bg 38 [.slice ga N gc, .slice ga' N' gc', .int .i64 rep, .int .i64 rnx, .slice gu K guc, .slice gh M ghc]) := (hw10.block bg HlinB.out.2.2 (.inr (Nat.le_refl _))).trans HBxB.out
  have HMk : Hid (SvMkd x10 w3.heap.size 1 ga N gc ga' N' gc' gu K guc lg gh M ghc ∧ Helds x10 gp L (marksH E1 L)) := hm10
  have HB10 : Hid (Below w0.heap.size w0 x10) := HBB.out.trans ((hw10.below (by have := HlinB.out.2.2; omega)).mono (by omega))
  clear hm10 hw10 HAwB HBxB HMkB HBB
  have HHG : Hid (∀ W : World, SvMkd W w3.heap.size 1 ga N gc ga' N' gc' gu K guc lg gh M ghc → Calls Tryz.prog 13 #[.agg #[.slice ga N gc, .slice ga' N' gc', .int .i64 rep, .int .i64 rnx, .slice gu K guc, .slice gh M ghc], .int .i64 1] W fun e w' => e = .returned (.int .i64 (E1 : Int)) ∧ Below W.heap.size W w') := fun W h => (heldServer_any w3.heap.size ga N gc ga' N' gc' rep rnx gu K guc lg gh M ghc 1 W h (by omega) (by omega) (by omega) (by omega) (by have := HMg.out.2.2.1; omega) (by omega)).mono (fun e w' ⟨h1, h2⟩ => ⟨by rw [h1, HE1.out], h2⟩)
  obtain ⟨F1, hF1⟩ : ∃ F1, E1 + 3 * L = F1 := ⟨_, rfl⟩
  have HHL : Hid (∀ W : World, Helds W gp L (marksH E1 L) → Calls Tryz.prog 14 #[.slice gp L gpc, .int .i64 (E1 : Int)] W fun e w' => e = .returned (.int .i64 (F1 : Int)) ∧ Below W.heap.size W w') := fun W h => (heldHS_any gp L gpc E1 W h (by omega) hE1b).mono (fun e w' ⟨h1, h2⟩ => ⟨by rw [h1, hF1], h2⟩)
  rw [hF1]
  clear hF1
  have hq1 : ¬ (E1 : Int) < 0 := by omega
  have hq2 : decide ((E1 : Int) < 0) = false := by simp
  have hq3 : ¬ (F1 : Int) < 0 := by omega
  have hq4 : decide ((F1 : Int) < 0) = false := by simp
  have hq5 : ((F1 : Int) != (F1 : Int)) = false := by simp
  obtain ⟨q0, q1, q2, q3, q4, q5⟩ := (show _ ∧ _ ∧ _ ∧ _ ∧ _ ∧ _ from ⟨BoxN.cell HBx.out 0 rfl, BoxN.cell HBx.out 1 rfl, BoxN.cell HBx.out 2 rfl, BoxN.cell HBx.out 3 rfl, BoxN.cell HBx.out 4 rfl, BoxN.cell HBx.out 5 rfl⟩)
  go_wp2_with fail
  refine (HHG.out _ HMk.out.1).mono ?_
  rintro e y11 ⟨rfl, hb11⟩
  have HAwD : Hid (GV y11 x1.heap.size bw wa N wc RX wa' N' wc' RY rep rnx wu K wuc lw wh M whc rhs wp L wpc rhl) := HAwC.out.stays hb11
  have HBxD : Hid (BoxN y11 bg 38 [.slice ga N gc, .slice ga' N' gc', .int .i64 rep, .int .i64 rnx, .slice gu K guc, .slice gh M ghc]) := HBx.out.stays hb11
  have HMkD : Hid (SvMkd y11 w3.heap.size 1 ga N gc ga' N' gc' gu K guc lg gh M ghc ∧ Helds y11 gp L (marksH E1 L)) := ⟨HMk.out.1.stays hb11, HMk.out.2.below hb11⟩
  have HBD : Hid (Below w0.heap.size w0 y11) := HB10.out.trans (hb11.mono HB10.out.size)
  clear hb11 q0 q1 q2 q3 q4 q5 HAwC HBx HMk HB10
  go_wp2_with fail
  refine (HHL.out _ HMkD.out.2).mono ?_
  rintro e x11 ⟨rfl, hb11⟩
  have HAw11 : Hid (GV x11 x1.heap.size bw wa N wc RX wa' N' wc' RY rep rnx wu K wuc lw wh M whc rhs wp L wpc rhl) := HAwD.out.stays hb11
  have HBx11 : Hid (BoxN x11 bg 38 [.slice ga N gc, .slice ga' N' gc', .int .i64 rep, .int .i64 rnx, .slice gu K guc, .slice gh M ghc]) := HBxD.out.stays hb11
  have HMk11 : Hid (SvMkd x11 w3.heap.size 1 ga N gc ga' N' gc' gu K guc lg gh M ghc ∧ Helds x11 gp L (marksH E1 L)) := ⟨HMkD.out.1.stays hb11, HMkD.out.2.below hb11⟩
  have HB11 : Hid (Below w0.heap.size w0 x11) := HBD.out.trans (hb11.mono HBD.out.size)
  clear hb11 HAwD HBxD HMkD HBD
  obtain ⟨c0, c1, c2, c3, c4, c5⟩ := (show _ ∧ _ ∧ _ ∧ _ ∧ _ ∧ _ from ⟨BoxN.cell (HX.out _ HB11.out).1 0 rfl, BoxN.cell (HX.out _ HB11.out).1 1 rfl, BoxN.cell (HX.out _ HB11.out).1 2 rfl, BoxN.cell (HX.out _ HB11.out).1 3 rfl, BoxN.cell (HX.out _ HB11.out).1 4 rfl, BoxN.cell (HX.out _ HB11.out).1 5 rfl⟩)
  go_wp2_with fail
  refine (HTs.out _ HB11.out).mono ?_
  rintro e x12 ⟨⟨g12, g12', gu12, l12, gh12, rfl, hs12, hm12, hz12, _⟩, hb12⟩
  have HS12 : Hid (SvAt x12 x11.heap.size (some ⟨g12, 0, none⟩) n0 n0 xs (some ⟨g12', 0, none⟩) n1 n1 ys (some ⟨gu12, 0, none⟩) un un l12 (some ⟨gh12, 0, none⟩) hn hn hs ∧ l12.map UE.u = l.map UE.u ∧ ∀ e ∈ l12, e.n ≤ 1048576) := ⟨hs12, hm12, hz12⟩
  have HC12 : Hid (Below x11.heap.size x11 x12) := hb12
  have HD12 : Hid (Below w.heap.size w x12) := (HX.out _ (HB11.out.trans (hb12.mono HB11.out.size))).2.2.2.2.1
  clear hs12 hm12 hz12 hb12 c0 c1 c2 c3 c4 c5
  go_wp2_with fail
  refine (HI.out _ _ _ _ _ l12 x12 HD12.out HSz.out hhn HS12.out.1 HS12.out.2.1 HS12.out.2.2).mono ?_
  rintro e x13 ⟨⟨vx13, ux13, rfl, hvx13⟩, hb13⟩
  obtain ⟨za, zc, za', zc', zu, zuc, lz, zh, zhc, zp, zpc, rfl, rfl, hsx13, hmx13, hpx13, hzx13, hEx13, hkx13⟩ := HAn.out _ _ _ _ _ hvx13
  have HAh : Hid (GV (x13.alloc (.cells #[.slice za N zc, .slice za' N' zc', .int .i64 rep, .int .i64 rnx, .slice zu K zuc, .slice zh M zhc] 38)) x12.heap.size x13.heap.size za N zc RX za' N' zc' RY rep rnx zu K zuc lz zh M zhc rhs zp L zpc rhl) := GV.new hsx13 hpx13 hb13.size
  have HC13 : Hid (Below x11.heap.size x11 (x13.alloc (.cells #[.slice za N zc, .slice za' N' zc', .int .i64 rep, .int .i64 rnx, .slice zu K zuc, .slice zh M zhc] 38))) := (HC12.out.trans (hb13.mono HC12.out.size)).alloc (HC12.out.trans (hb13.mono HC12.out.size)).size _
  have HMz : Hid (lz.map UE.u = rus ∧ ∀ e ∈ lz, e.n ≤ 1048576) := ⟨hmx13, hzx13⟩
  clear hvx13 hsx13 hmx13 hpx13 hzx13 hEx13 hkx13 hb13 HC12 HS12 HD12
  have HAw13 : Hid (GV (x13.alloc (.cells #[.slice za N zc, .slice za' N' zc', .int .i64 rep, .int .i64 rnx, .slice zu K zuc, .slice zh M zhc] 38)) x1.heap.size bw wa N wc RX wa' N' wc' RY rep rnx wu K wuc lw wh M whc rhs wp L wpc rhl) := HAw11.out.stays HC13.out
  obtain ⟨p0, p1, p2, p3, p4, p5⟩ := (show _ ∧ _ ∧ _ ∧ _ ∧ _ ∧ _ from ⟨BoxN.cell HAw13.out.var.box 0 rfl, BoxN.cell HAw13.out.var.box 1 rfl, BoxN.cell HAw13.out.var.box 2 rfl, BoxN.cell HAw13.out.var.box 3 rfl, BoxN.cell HAw13.out.var.box 4 rfl, BoxN.cell HAw13.out.var.box 5 rfl⟩)
  obtain ⟨q0, q1, q2, q3, q4, q5⟩ := (show _ ∧ _ ∧ _ ∧ _ ∧ _ ∧ _ from ⟨BoxN.cell HAh.out.var.box 0 rfl, BoxN.cell HAh.out.var.box 1 rfl, BoxN.cell HAh.out.var.box 2 rfl, BoxN.cell HAh.out.var.box 3 rfl, BoxN.cell HAh.out.var.box 4 rfl, BoxN.cell HAh.out.var.box 5 rfl⟩)
  go_wp2_with fail
  obtain ⟨w13, hw13⟩ : ∃ w13, x13.alloc (.cells #[.slice za N zc, .slice za' N' zc', .int .i64 rep, .int .i64 rnx, .slice zu K zuc, .slice zh M zhc] 38) = w13 := ⟨_, rfl⟩
  rw [hw13] at HAh HC13 HAw13 ⊢
  clear hw13 p0 p1 p2 p3 p4 p5 q0 q1 q2 q3 q4 q5
  refine (eqServer_same za wa N zc wc RX za' wa' N' zc' wc' RY rep rnx zu K zuc x12.heap.size lz wu K wuc x1.heap.size lw zh wh M zhc whc rhs w13 HAh.out.var.sv.sto HAw13.out.var.sv.sto (by rw [HMz.out.1, HMw.out.1]) (by omega) (by omega) (by omega) (fun e he => by have := HMz.out.2 e he; omega) HAh.out.var.sv.held.helds HAw13.out.var.sv.held.helds (by omega)).mono ?_
  rintro e y14 ⟨rfl, hb14⟩
  have HAhE : Hid (OwnH y14 x12.heap.size zp L zpc rhl) := HAh.out.lst.below hb14
  have HAwE : Hid (OwnH y14 x1.heap.size wp L wpc rhl) := HAw13.out.lst.below hb14
  have HCE : Hid (Below x11.heap.size x11 y14) := HC13.out.trans (hb14.mono HC13.out.size)
  clear hb14 HC13 HAh HAw13
  go_wp2_with fail
  refine (eqHeldS_same zp wp L zpc wpc rhl y14 HAhE.out.helds HAwE.out.helds (by omega)).mono ?_
  rintro e x14 ⟨rfl, hb14⟩
  have HC14 : Hid (Below x11.heap.size x11 x14) := HCE.out.trans (hb14.mono HCE.out.size)
  clear hb14 HCE HAhE HAwE
  have HBx14 : Hid (BoxN x14 bg 38 [.slice ga N gc, .slice ga' N' gc', .int .i64 rep, .int .i64 rnx, .slice gu K guc, .slice gh M ghc]) := HBx11.out.stays HC14.out
  have HMk14 : Hid (SvMkd x14 w3.heap.size 1 ga N gc ga' N' gc' gu K guc lg gh M ghc ∧ Helds x14 gp L (marksH E1 L)) := ⟨HMk11.out.1.stays HC14.out, HMk11.out.2.below HC14.out⟩
  obtain ⟨q0, q1, q2, q3, q4, q5⟩ := (show _ ∧ _ ∧ _ ∧ _ ∧ _ ∧ _ from ⟨BoxN.cell HBx14.out 0 rfl, BoxN.cell HBx14.out 1 rfl, BoxN.cell HBx14.out 2 rfl, BoxN.cell HBx14.out 3 rfl, BoxN.cell HBx14.out 4 rfl, BoxN.cell HBx14.out 5 rfl⟩)
  go_wp2_with fail
  refine (HHG.out _ HMk14.out.1).mono ?_
  rintro e y15 ⟨rfl, hb15⟩
  have HMk15 : Hid (Helds y15 gp L (marksH E1 L)) := HMk14.out.2.below hb15
  have HC15 : Hid (Below x11.heap.size x11 y15) := HC14.out.trans (hb15.mono HC14.out.size)
  clear hb15 q0 q1 q2 q3 q4 q5
  go_wp2_with fail
  refine (HHL.out _ HMk15.out).mono ?_
  rintro e x15 ⟨rfl, hb15⟩
  have HEn : Hid (Below w.heap.size w x15) := by
    have h1 : Below w0.heap.size w0 y15 := HB11.out.trans (HC15.out.mono HB11.out.size)
    exact (HX.out _ (h1.trans (hb15.mono h1.size))).2.2.2.2.1
  clear hb15
  go_wp2_with fail
  go_ret
  exact ⟨rfl, HEn.out⟩

end Go.Proofs.YtclkfjlnhcccdaaGreatDoor

namespace Go.Proofs.YtclkfjlnhcccdaaGreatDoor
open Go.RowKit
set_option linter.unusedVariables false

/-- A byte that may stand in an upload's name. -/
def idC (b : UInt8) : Bool := (decide (97 ≤ b.toNat) && decide (b.toNat ≤ 122)) || (decide (48 ≤ b.toNat) && decide (b.toNat ≤ 57))

/-- Whether a text is an upload's name. -/
def idB (s : List UInt8) : Bool := s.all idC && decide (1 ≤ s.length ∧ s.length ≤ 8)

/-- The greatest number of an op; -1: it has none. -/
def mostR (op : Int) : Int := if op = 1 ∨ op = 3 then 1000000000 else if op = 4 then 4294967295 else -1

/-- Whether a request is right. -/
def reqB (op : Int) (s : List UInt8) (n : Int) : Bool := decide (1 ≤ op ∧ op ≤ 6) && idB s && (if mostR op < 0 then n == 0 else decide (0 ≤ n ∧ n ≤ mostR op))

/-- Whether an answer is right. -/
def respB (st off : Int) : Bool := decide (100 ≤ st ∧ st ≤ 599) && decide (-1 ≤ off ∧ off ≤ 1000000000)

theorem idB_long {s : List UInt8} (h : ¬ (1 ≤ s.length ∧ s.length ≤ 8)) : idB s = false := by rw [idB, decide_eq_false h, Bool.and_false]

theorem idB_bad {s : List UInt8} {k : Nat} (hk : k < s.length) (h : idC s[k] = false) : idB s = false := by
  rw [idB, Bool.and_eq_false_iff]
  refine .inl ?_
  rw [List.all_eq_false]
  exact ⟨s[k], List.getElem_mem hk, by simp [h]⟩

theorem idB_good {s : List UInt8} (h : ∀ k (hk : k < s.length), idC s[k] = true) : idB s = decide (1 ≤ s.length ∧ s.length ≤ 8) := by
  have : s.all idC = true := by
    rw [List.all_eq_true]
    intro x hx
    obtain ⟨k, hk, rfl⟩ := List.mem_iff_getElem.1 hx
    exact h k hk
  rw [idB, this, Bool.true_and]

end Go.Proofs.YtclkfjlnhcccdaaGreatDoor

namespace Go.Proofs.YtclkfjlnhcccdaaGreatDoor
open Go.RowKit
set_option linter.unusedVariables false

theorem ret_bR {a b : Bool} (h : a = b) : Ending.returned (.bool a) = .returned (.bool b) := by rw [h]

set_option maxRecDepth 10000 in
set_option maxHeartbeats 800000 in
theorem implRespOk_any (st off : Int) (w : World) :
    Calls Tryz.prog 82 #[.agg #[.int .i64 st, .int .i64 off]] w fun e w' => e = .returned (.bool (respB st off)) ∧ Below w.heap.size w w' := by
  have HB0 : Hid (Below w.heap.size w (w.alloc (.cells #[.int .i64 st, .int .i64 off] 65))) := (Below.refl _ _).alloc (Nat.le_refl _) _
  have HR : Hid (respB st off = (decide (100 ≤ st ∧ st ≤ 599) && decide (-1 ≤ off ∧ off ≤ 1000000000))) := rfl
  by_cases h1 : 100 ≤ st
  · by_cases h2 : st ≤ 599
    · by_cases h3 : -1 ≤ off
      · have HF : Hid (respB st off = decide (off ≤ 1000000000)) := by
          show _ = _
          rw [HR.out, decide_eq_true ⟨h1, h2⟩, Bool.true_and, Bool.eq_iff_iff, decide_eq_true_eq, decide_eq_true_eq]
          omega
        go_enter Tryz.func82, Tryz.ntmps82
        go_wp2_with fail
        go_ret
        exact ⟨ret_bR HF.out.symm, HB0.out⟩
      · have HF : Hid (respB st off = false) := by show _ = _; rw [HR.out, decide_eq_false (p := -1 ≤ off ∧ _) (by omega), Bool.and_false]
        go_enter Tryz.func82, Tryz.ntmps82
        go_wp2_with fail
        go_ret
        exact ⟨ret_bR HF.out.symm, HB0.out⟩
    · have HF : Hid (respB st off = false) := by show _ = _; rw [HR.out, decide_eq_false (p := 100 ≤ st ∧ _) (by omega), Bool.false_and]
      go_enter Tryz.func82, Tryz.ntmps82
      go_wp2_with fail
      go_ret
      exact ⟨ret_bR HF.out.symm, HB0.out⟩
  · have HF : Hid (respB st off = false) := by show _ = _; rw [HR.out, decide_eq_false (p := 100 ≤ st ∧ _) (by omega), Bool.false_and]
    go_enter Tryz.func82, Tryz.ntmps82
    go_wp2_with fail
    go_ret
    exact ⟨ret_bR HF.out.symm, HB0.out⟩

end Go.Proofs.YtclkfjlnhcccdaaGreatDoor
