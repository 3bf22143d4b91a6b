/- Marks laid on a row of truths. The walk of the law FnExactCrashServer; under contracts of both functions. -/
import Derived.Test.YtclkfjlnhcccdaaGreatDoorP01
import Derived.Test.YtclkfjlnhcccdaaGreatDoorM09
import Derived.Test.YtclkfjlnhcccdaaGreatDoorM08
import Derived.Test.YtclkfjlnhcccdaaGreatDoorM12
import Derived.Test.YtclkfjlnhcccdaaGreatDoorP02
import Derived.Deep.RegionHeld3
namespace Go.Proofs.YtclkfjlnhcccdaaGreatDoor
open Go.RowKit
set_option linter.unusedVariables false

/-- The mark of a number. -/
def mb (k : Nat) : Bool := decide (k % 3 = 0)

/-- The marks of n truths, from the number k on. -/
def marksB (k n : Nat) : List Bool := (List.range n).map fun j => mb (k + j)
theorem marksB_len (k n : Nat) : (marksB k n).length = n := by simp [marksB]
theorem marksB_at (k n j : Nat) (hj : j < n) : (marksB k n)[j]? = some (mb (k + j)) := by simp [marksB, hj]

/-- Texts of which the first j are marked. -/
def bmarkTo (k : Nat) (xs : List Bool) (j : Nat) : List Bool := marksB k j ++ xs.drop j

theorem bmarkTo_len (k : Nat) (xs : List Bool) (j : Nat) (h : j ≤ xs.length) : (bmarkTo k xs j).length = xs.length := by
  simp [bmarkTo, marksB_len]
  omega

theorem bmarkTo_step (k : Nat) (xs : List Bool) (j : Nat) (h : j < xs.length) : (bmarkTo k xs j).set j (mb (k + j)) = bmarkTo k xs (j + 1) := by
  rw [bmarkTo, bmarkTo, List.set_append_right j _ (by rw [marksB_len]; exact Nat.le_refl _), marksB_len, Nat.sub_self, List.drop_eq_getElem_cons h, List.set_cons_zero]
  simp [marksB, List.range_succ]

set_option maxRecDepth 10000 in
set_option maxHeartbeats 1600000 in
theorem markBoolS_any (base : Nat) (a : Option Addr) (n cap k : Nat) (xs : List Bool) (w : World) (h : OwnBo w base (.slice a n cap) n xs) (hn : n ≤ 1099511627776) (hk : k ≤ 2199023255552) :
    Calls Tryz.prog 19 #[.slice a n cap, .int .i64 (k : Int)] w fun e w' => e = .returned (.int .i64 ((k + n : Nat) : Int)) ∧ OwnBo w' base (.slice a n cap) n (marksB k n) ∧ w.grownBy w' (a.map (·.block)) := by
  have hlen := h.len
  have HO0 : Hid (w.ownsRow base 4 1 (.slice a n cap) n (bcells (bmarkTo k xs 0))) := h.1
  clear h
  go_enter Tryz.func19, Tryz.ntmps19
  go_wp2_with fail
  go_loopw [1, 5] (fun q i wr => ∃ j : Nat, j ≤ n ∧ i = .int .i64 j ∧ q = .int .i64 ((k + j : Nat) : Int) ∧ Hid (wr.ownsRow base 4 1 (.slice a n cap) n (bcells (bmarkTo k xs j))) ∧ Hid (w.grownBy wr (a.map (·.block)))) (fun _ i _ => n - (intOf i).toNat)
  case atStart => exact ⟨0, Nat.zero_le _, rfl, rfl, HO0, grown_refl _ _⟩
  case round =>
    clear HO0
    obtain ⟨j, hj, rfl, rfl, HO, HG⟩ := hrel
    by_cases hlt : j < n
    · obtain ⟨g, rfl⟩ : ∃ g, a = some ⟨g, 0, none⟩ := by
        rcases HO.out.2 with ⟨_, h0⟩ | ⟨g, cap', cur, he, _⟩
        · omega
        · injection he with e1 _ _
          exact ⟨g, e1⟩
      have hji : (j : Int) < (n : Int) := by omega
      have hmb : (((k + j : Nat) : Int) % 3 == 0) = mb (k + j) := by
        rw [mb]
        by_cases h : (k + j) % 3 = 0
        · rw [decide_eq_true h, beq_iff_eq]; omega
        · rw [decide_eq_false h, beq_eq_false_iff_ne]; omega
      have HSt : Hid ((bmarkTo k xs j).set j (mb (k + j)) = bmarkTo k xs (j + 1)) := bmarkTo_step k xs j (by omega)
      have HLn : Hid ((bmarkTo k xs j).length = n) := by show _ = _; rw [bmarkTo_len k xs j (by omega), hlen]
      generalize mb (k + j) = m1 at *
      generalize bmarkTo k xs j = L at *
      obtain ⟨K1, hK1⟩ : ∃ K1, k + (j + 1) = K1 := ⟨_, rfl⟩
      obtain ⟨K0, hK0⟩ : ∃ K0, k + j = K0 := ⟨_, rfl⟩
      have hq1 : (K0 : Int) + 1 = (K1 : Int) := by omega
      rw [hK0] at hmb ⊢
      have HK1 : Hid (k + (j + 1) = K1) := hK1
      have hK0b : (K0 : Int) ≤ 4398046511104 := by omega
      clear hK0 hK1
      have HO1 : Hid (wr.ownsRow base 4 1 (.slice (some ⟨g, 0, none⟩) n cap) n (bcells L)) := HO.out
      have HG1 : Hid (w.grownBy wr (some g)) := HG.out
      clear HO HG
      have hln : (bcells L).length = n := by rw [bcells_len, HLn.out]
      have f0 : wr.frozen? ⟨g, j, none⟩ = false := HO1.out.frozenAt _
      obtain ⟨u0, hu0⟩ : ∃ u, wr.cell? ⟨g, j, none⟩ = some u := by
        rw [HO1.out.cellAt _ (by omega)]
        exact ⟨_, List.getElem?_eq_getElem (by omega)⟩
      have hst := HO1.out.stored j (.bool m1)
      have HO4 : Hid ((wr.setCell ⟨g, j, none⟩ (.bool m1)).ownsRow base 4 1 (.slice (some ⟨g, 0, none⟩) n cap) n (bcells (bmarkTo k xs (j + 1)))) := by
        have h1 := hst.1
        rw [bcells_set, HSt.out] at h1
        exact h1
      have HG4 : Hid (w.grownBy (wr.setCell ⟨g, j, none⟩ (.bool m1)) (some g)) := grown_trans HG1.out hst.2
      clear hst hln HO1 HG1
      go_wp2_with fail
      go_roundw
      case rel => exact ⟨j + 1, by omega, by go_num, by rw [HK1.out], HO4, HG4⟩
      case measure => simp [intOf]; omega
    · have hjn : j = n := by omega
      subst hjn
      go_wp2_with fail
      go_ret
      have hd : bmarkTo k xs j = marksB k j := by
        rw [bmarkTo, List.drop_eq_nil_of_le (by omega), List.append_nil]
      have h1 := HO.out
      rw [hd] at h1
      exact ⟨rfl, ⟨h1, trivial⟩, HG.out⟩

end Go.Proofs.YtclkfjlnhcccdaaGreatDoor

namespace Go.Proofs.YtclkfjlnhcccdaaGreatDoor
open Go.RowKit
set_option linter.unusedVariables false

set_option maxRecDepth 10000 in
set_option maxHeartbeats 6400000 in
theorem crashWalk (a0 : Option Addr) (n0 ca0 : Nat) (xs : List ByteArray) (a1 : Option Addr) (n1 ca1 : Nat) (ys : List ByteArray) (ep nx : Int) (ua : Option Addr) (un uc : Nat) (l : List UE) (ha : Option Addr) (hn hc : Nat) (hs : List Hd) (ka : Option Addr) (m kc : Nat) (ks : List Bool) (w : World) (hl0 : n0 ≤ maxLen) (hl1 : n1 ≤ maxLen) (hlu : un ≤ maxLen) (hlh : hn ≤ maxLen) (h1 : Strs w a0 n0 xs) (h2 : Strs w a1 n1 ys) (hu : UpsI w ua un l) (hh : Helds w ha hn hs) (hlk : m ≤ maxLen) (hk : Bools w ka m ks) (RX RY : List ByteArray) (rep rnx : Int) (rus : List U) (rhs : List Hd) (rc : Bool) (hRX : SzS n0 xs n1 ys un l → hn ≤ 1048576 → RX.length ≤ 1048576 ∧ RY.length ≤ 1048576 ∧ rus.length ≤ 1048576 ∧ (∀ u ∈ rus, u.zs.length ≤ 1048576) ∧ rhs.length ≤ 1048576)
    (HSp : ∀ (g g' gu gh kb lo : Nat) (l' : List UE) (W : World), Below w.heap.size w W → SzS n0 xs n1 ys un l → hn ≤ 1048576 → m ≤ 1048576 → SvAt W lo (some ⟨g, 0, none⟩) n0 n0 xs (some ⟨g', 0, none⟩) n1 n1 ys (some ⟨gu, 0, none⟩) un un l' (some ⟨gh, 0, none⟩) hn hn hs → l'.map UE.u = l.map UE.u → (∀ e ∈ l', e.n ≤ 1048576) → Bools W (some ⟨kb, 0, none⟩) m ks → Calls Tryz.prog 15 #[.agg #[.slice (some ⟨g, 0, none⟩) n0 n0, .slice (some ⟨g', 0, none⟩) n1 n1, .int .i64 ep, .int .i64 nx, .slice (some ⟨gu, 0, none⟩) un un, .slice (some ⟨gh, 0, none⟩) hn hn], .slice (some ⟨kb, 0, none⟩) m m] W fun e w' => (∃ v, e = .returned (.tuple #[v, .bool rc]) ∧ AnsV false W.heap.size RX RY rep rnx rus rhs v w') ∧ Below W.heap.size W w')
    (HIm : ∀ (g g' gu gh kb lo : Nat) (l' : List UE) (W : World), Below w.heap.size w W → SzS n0 xs n1 ys un l → hn ≤ 1048576 → m ≤ 1048576 → SvAt W lo (some ⟨g, 0, none⟩) n0 n0 xs (some ⟨g', 0, none⟩) n1 n1 ys (some ⟨gu, 0, none⟩) un un l' (some ⟨gh, 0, none⟩) hn hn hs → l'.map UE.u = l.map UE.u → (∀ e ∈ l', e.n ≤ 1048576) → Bools W (some ⟨kb, 0, none⟩) m ks → Calls Tryz.prog 17 #[.agg #[.slice (some ⟨g, 0, none⟩) n0 n0, .slice (some ⟨g', 0, none⟩) n1 n1, .int .i64 ep, .int .i64 nx, .slice (some ⟨gu, 0, none⟩) un un, .slice (some ⟨gh, 0, none⟩) hn hn], .slice (some ⟨kb, 0, none⟩) m m] W fun e w' => (∃ v, e = .returned (.tuple #[v, .bool rc]) ∧ AnsV true W.heap.size RX RY rep rnx rus rhs v w') ∧ Below W.heap.size W w') :
    Calls Tryz.prog 4 #[.agg #[.slice a0 n0 ca0, .slice a1 n1 ca1, .int .i64 ep, .int .i64 nx, .slice ua un uc, .slice ha hn hc], .slice ka m kc] w fun e w' => e = .returned (.bool true) ∧ Below w.heap.size w w' := by
  have hmm : maxLen < 9223372036854775808 := by decide
  obtain ⟨w0, hw0⟩ : ∃ w0, w.alloc (.cells #[.slice a0 n0 ca0, .slice a1 n1 ca1, .int .i64 ep, .int .i64 nx, .slice ua un uc, .slice ha hn hc] 30) = w0 := ⟨_, rfl⟩
  have HE : Hid (w.alloc (.cells #[.slice a0 n0 ca0, .slice a1 n1 ca1, .int .i64 ep, .int .i64 nx, .slice ua un uc, .slice ha hn hc] 30) = w0) := hw0
  have hB0 : Below w.heap.size w w0 := by rw [← hw0]; exact (Below.refl _ _).alloc (Nat.le_refl _) _
  have hQ0 : BoxN w0 w.heap.size 30 [.slice a0 n0 ca0, .slice a1 n1 ca1, .int .i64 ep, .int .i64 nx, .slice ua un uc, .slice ha hn hc] := by rw [← hw0]; exact BoxN.new _ _ _
  have HX : Hid (∀ W, Below w0.heap.size w0 W → BoxN W w.heap.size 30 [.slice a0 n0 ca0, .slice a1 n1 ca1, .int .i64 ep, .int .i64 nx, .slice ua un uc, .slice ha hn hc] ∧ Strs W a0 n0 xs ∧ Strs W a1 n1 ys ∧ UpsI W ua un l ∧ Below w.heap.size w W ∧ Helds W ha hn hs ∧ Bools W ka m ks) := fun W hb => ⟨hQ0.stays hb, (h1.below hB0).below hb, (h2.below hB0).below hb, (hu.below hB0).below hb, hB0.trans (hb.mono hB0.size), (hh.below hB0).below hb, (hk.below hB0).below hb⟩
  have hww : w.heap.size < w0.heap.size := hQ0.lt
  have HP : Hid (∀ (g g' gu gh kb lo : Nat) (l' : List UE) (W : World), Below w.heap.size w W → SzS n0 xs n1 ys un l → hn ≤ 1048576 → m ≤ 1048576 → SvAt W lo (some ⟨g, 0, none⟩) n0 n0 xs (some ⟨g', 0, none⟩) n1 n1 ys (some ⟨gu, 0, none⟩) un un l' (some ⟨gh, 0, none⟩) hn hn hs → l'.map UE.u = l.map UE.u → (∀ e ∈ l', e.n ≤ 1048576) → Bools W (some ⟨kb, 0, none⟩) m ks → Calls Tryz.prog 15 #[.agg #[.slice (some ⟨g, 0, none⟩) n0 n0, .slice (some ⟨g', 0, none⟩) n1 n1, .int .i64 ep, .int .i64 nx, .slice (some ⟨gu, 0, none⟩) un un, .slice (some ⟨gh, 0, none⟩) hn hn], .slice (some ⟨kb, 0, none⟩) m m] W fun e w' => (∃ v, e = .returned (.tuple #[v, .bool rc]) ∧ AnsV false W.heap.size RX RY rep rnx rus rhs v w') ∧ Below W.heap.size W w') := HSp
  have HI : Hid (∀ (g g' gu gh kb lo : Nat) (l' : List UE) (W : World), Below w.heap.size w W → SzS n0 xs n1 ys un l → hn ≤ 1048576 → m ≤ 1048576 → SvAt W lo (some ⟨g, 0, none⟩) n0 n0 xs (some ⟨g', 0, none⟩) n1 n1 ys (some ⟨gu, 0, none⟩) un un l' (some ⟨gh, 0, none⟩) hn hn hs → l'.map UE.u = l.map UE.u → (∀ e ∈ l', e.n ≤ 1048576) → Bools W (some ⟨kb, 0, none⟩) m ks → Calls Tryz.prog 17 #[.agg #[.slice (some ⟨g, 0, none⟩) n0 n0, .slice (some ⟨g', 0, none⟩) n1 n1, .int .i64 ep, .int .i64 nx, .slice (some ⟨gu, 0, none⟩) un un, .slice (some ⟨gh, 0, none⟩) hn hn], .slice (some ⟨kb, 0, none⟩) m m] W fun e w' => (∃ v, e = .returned (.tuple #[v, .bool rc]) ∧ AnsV true W.heap.size RX RY rep rnx rus rhs v w') ∧ Below W.heap.size W w') := HIm
  have HA0 : Hid (Below w0.heap.size w0 w0) := Below.refl _ _
  clear hw0 h1 h2 hu hh hk HSp HIm hQ0 hB0
  obtain ⟨c0, c1, c2, c3, c4, c5⟩ := (show _ ∧ _ ∧ _ ∧ _ ∧ _ ∧ _ from ⟨BoxN.cell (HX.out _ HA0.out).1 0 rfl, BoxN.cell (HX.out _ HA0.out).1 1 rfl, BoxN.cell (HX.out _ HA0.out).1 2 rfl, BoxN.cell (HX.out _ HA0.out).1 3 rfl, BoxN.cell (HX.out _ HA0.out).1 4 rfl, BoxN.cell (HX.out _ HA0.out).1 5 rfl⟩)
  by_cases hkb : (1048576 : Int) < (m : Int)
  · have HBw : Hid (Below w.heap.size w w0) := (HX.out _ HA0.out).2.2.2.2.1
    have hkd : decide ((1048576 : Int) < (m : Int)) = true := by simpa using hkb
    clear HX HP HI HA0 c0 c1 c2 c3 c4 c5
    go_enter Tryz.func4, Tryz.ntmps4
    go_upto_region 1 with fail
    rw [HE.out]
    clear HE
    go_wp2_with fail
    go_ret
    exact ⟨rfl, HBw.out⟩
  have hkd : decide ((1048576 : Int) < (m : Int)) = false := by simpa using hkb
  have hm1 : m ≤ 1048576 := by omega
  go_enter Tryz.func4, Tryz.ntmps4
  go_upto_region 1 with fail
  rw [HE.out]
  clear HE
  go_wp2_with fail
  refine (szServer_any a0 n0 ca0 xs a1 n1 ca1 ys ep nx ua un uc l ha hn hc hs w0 (HX.out _ HA0.out).2.1 (HX.out _ HA0.out).2.2.1 (HX.out _ HA0.out).2.2.2.1 hl0 hl1 hlu hlh).mono ?_
  rintro e x0 ⟨⟨L0, rfl, hL⟩, hb0⟩
  have HB0 : Hid (Below w0.heap.size w0 x0) := hb0
  clear hb0 c0 c1 c2 c3 c4 c5
  by_cases hneg : L0 < 0
  · have HBw : Hid (Below w.heap.size w x0) := (HX.out _ HB0.out).2.2.2.2.1
    clear hL
    go_wp2_with fail
    go_ret
    exact ⟨rfl, HBw.out⟩
  have hsz : SzS n0 xs n1 ys un l ∧ hn ≤ 1048576 := by
    rcases hL with h | h
    · exact absurd h (by omega)
    · exact ⟨h.1, h.2.1⟩
  have HSz : Hid (SzS n0 xs n1 ys un l) := hsz.1
  have hhn : hn ≤ 1048576 := hsz.2
  have hun1 : un ≤ 1048576 := HSz.out.2.2.2.2.1
  have hn01 : n0 ≤ 1048576 := HSz.out.1
  have hn11 : n1 ≤ 1048576 := HSz.out.2.1
  clear hL hsz
  have HTs : Hid (∀ W, Below w0.heap.size w0 W → Calls Tryz.prog 7 #[.agg #[.slice a0 n0 ca0, .slice a1 n1 ca1, .int .i64 ep, .int .i64 nx, .slice ua un uc, .slice ha hn hc]] W fun r w' => (∃ g g' gu l' gh, r = .returned (.agg #[.slice (some ⟨g, 0, none⟩) n0 n0, .slice (some ⟨g', 0, none⟩) n1 n1, .int .i64 ep, .int .i64 nx, .slice (some ⟨gu, 0, none⟩) un un, .slice (some ⟨gh, 0, none⟩) hn hn]) ∧ SvAt w' W.heap.size (some ⟨g, 0, none⟩) n0 n0 xs (some ⟨g', 0, none⟩) n1 n1 ys (some ⟨gu, 0, none⟩) un un l' (some ⟨gh, 0, none⟩) hn hn hs ∧ l'.map UE.u = l.map UE.u ∧ (∀ e ∈ l', e.n ≤ 1048576) ∧ SvBeh W.heap.size (some ⟨g, 0, none⟩) (some ⟨g', 0, none⟩) (some ⟨gu, 0, none⟩) l' (some ⟨gh, 0, none⟩)) ∧ Below W.heap.size W w') := fun W hb => (toServer_in a0 n0 ca0 xs a1 n1 ca1 ys ep nx ua un uc l ha hn hc hs W (HX.out _ hb).2.1 (HX.out _ hb).2.2.1 (HX.out _ hb).2.2.2.1 (HX.out _ hb).2.2.2.2.2.1 HSz.out hhn).mono (fun r w' ⟨⟨g, g', gu, l', gh, h1, h2, h3, h4, h5, h6, h7⟩, h8⟩ => ⟨⟨g, g', gu, l', gh, h1, ⟨h2, h3⟩, h4, h5, ⟨gh, h7, h6, fun q e => by have e2 : gh = q := (by simpa using e); omega⟩⟩, h8⟩)
  have HTb : Hid (∀ W, Below w0.heap.size w0 W → Calls Tryz.prog 16 #[.slice ka m kc] W fun r w' => r = .returned (.slice (some ⟨W.heap.size, 0, none⟩) m m) ∧ OwnBo w' W.heap.size (.slice (some ⟨W.heap.size, 0, none⟩) m m) m ks ∧ Below W.heap.size W w') := fun W hb => toBoolS_own ka m kc ks W (HX.out _ hb).2.2.2.2.2.2 hm1
  obtain ⟨N, hN⟩ : ∃ N, RX.length = N := ⟨_, rfl⟩
  obtain ⟨N', hN'⟩ : ∃ N', RY.length = N' := ⟨_, rfl⟩
  obtain ⟨K, hK⟩ : ∃ K, rus.length = K := ⟨_, rfl⟩
  obtain ⟨M, hM⟩ : ∃ M, rhs.length = M := ⟨_, rfl⟩
  have hRb := hRX HSz.out hhn
  rw [hN, hN', hK, hM] at hRb
  have hNb : N ≤ 1048576 := hRb.1
  have hNb' : N' ≤ 1048576 := hRb.2.1
  have hKb : K ≤ 1048576 := hRb.2.2.1
  have hMb : M ≤ 1048576 := hRb.2.2.2.2
  have hrn : (rc != rc) = false := by simp
  have HAn : Hid (∀ k base v W, AnsV k base RX RY rep rnx rus rhs v W → ∃ a c a' c' ua uc lx h hc, v = .agg #[.slice a N c, .slice a' N' c', .int .i64 rep, .int .i64 rnx, .slice ua K uc, .slice h M hc] ∧ SvAt W base a N c RX a' N' c' RY ua K uc lx h M hc rhs ∧ lx.map UE.u = rus ∧ (∀ e ∈ lx, e.n ≤ 1048576) ∧ mkUEnd (1 + N + N') lx ≤ 1109526777856 ∧ (k = true → SvBeh base a a' ua lx h)) := fun k base v W h => by
    obtain ⟨a, c, a', c', ua, uc, lx, hh, hc, h1, h3, h4, h6⟩ := h.get
    rw [hN, hN', hK, hM] at h1 h3
    have hz : ∀ e ∈ lx, e.n ≤ 1048576 := fun e he => by
      have h7 := (h3.sto.ups.2.1 e he).seg.1
      have h8 := hRb.2.2.2.1 e.u (by rw [← h4]; exact List.mem_map_of_mem he)
      omega
    refine ⟨a, c, a', c', ua, uc, lx, hh, hc, h1, h3, h4, hz, ?_, h6⟩
    have h7 := mkUEnd_le (1 + N + N') 1048576 lx hz
    have h8 := h3.sto.len
    have h9 : (3 + 1048576) * lx.length ≤ (3 + 1048576) * 1048576 := Nat.mul_le_mul_left _ (by omega)
    omega
  clear hN hN' hK hM hRb hRX
  obtain ⟨c0, c1, c2, c3, c4, c5⟩ := (show _ ∧ _ ∧ _ ∧ _ ∧ _ ∧ _ from ⟨BoxN.cell (HX.out _ HB0.out).1 0 rfl, BoxN.cell (HX.out _ HB0.out).1 1 rfl, BoxN.cell (HX.out _ HB0.out).1 2 rfl, BoxN.cell (HX.out _ HB0.out).1 3 rfl, BoxN.cell (HX.out _ HB0.out).1 4 rfl, BoxN.cell (HX.out _ HB0.out).1 5 rfl⟩)
  go_wp2_with fail
  refine (HTs.out _ HB0.out).mono ?_
  rintro e x1 ⟨⟨g1, g1', gu1, l1, gh1, rfl, hs1, hm1', hz1, _⟩, hb1⟩
  have HB1 : Hid (Below w0.heap.size w0 x1) := HB0.out.trans (hb1.mono HB0.out.size)
  have HS1 : Hid (SvAt x1 x0.heap.size (some ⟨g1, 0, none⟩) n0 n0 xs (some ⟨g1', 0, none⟩) n1 n1 ys (some ⟨gu1, 0, none⟩) un un l1 (some ⟨gh1, 0, none⟩) hn hn hs ∧ l1.map UE.u = l.map UE.u ∧ ∀ e ∈ l1, e.n ≤ 1048576) := ⟨hs1, hm1', hz1⟩
  clear hs1 hm1' hz1 hb1 c0 c1 c2 c3 c4 c5
  go_wp2_with fail
  refine (HTb.out _ HB1.out).mono ?_
  rintro e y1 ⟨rfl, hbo1, hb1⟩
  have HBy1 : Hid (Below w0.heap.size w0 y1) := HB1.out.trans (hb1.mono HB1.out.size)
  have HSy1 : Hid (SvAt y1 x0.heap.size (some ⟨g1, 0, none⟩) n0 n0 xs (some ⟨g1', 0, none⟩) n1 n1 ys (some ⟨gu1, 0, none⟩) un un l1 (some ⟨gh1, 0, none⟩) hn hn hs) := HS1.out.1.stays hb1
  have HOy1 : Hid (OwnBo y1 x1.heap.size (.slice (some ⟨x1.heap.size, 0, none⟩) m m) m ks) := hbo1
  clear hbo1 hb1
  go_wp2_with fail
  refine (HP.out _ _ _ _ _ _ l1 y1 (HX.out _ HBy1.out).2.2.2.2.1 HSz.out hhn hm1 HSy1.out HS1.out.2.1 HS1.out.2.2 HOy1.out.strs).mono ?_
  rintro e x2 ⟨⟨vx2, rfl, hvx2⟩, hb2⟩
  obtain ⟨wa, wc, wa', wc', wu, wuc, lw, wh, whc, rfl, hsx2, hmx2, hzx2, hEx2, hkx2⟩ := HAn.out _ _ _ _ hvx2
  have HAw : Hid (VB (x2.alloc (.cells #[.slice wa N wc, .slice wa' N' wc', .int .i64 rep, .int .i64 rnx, .slice wu K wuc, .slice wh M whc] 38)) y1.heap.size x2.heap.size wa N wc RX wa' N' wc' RY rep rnx wu K wuc lw wh M whc rhs) := VB.new hsx2 hb2.size
  have HB2 : Hid (Below w0.heap.size w0 (x2.alloc (.cells #[.slice wa N wc, .slice wa' N' wc', .int .i64 rep, .int .i64 rnx, .slice wu K wuc, .slice wh M whc] 38))) := (HBy1.out.trans (hb2.mono HBy1.out.size)).alloc (HBy1.out.trans (hb2.mono HBy1.out.size)).size _
  have HZ2 : Hid ((x2.alloc (.cells #[.slice wa N wc, .slice wa' N' wc', .int .i64 rep, .int .i64 rnx, .slice wu K wuc, .slice wh M whc] 38)).heap.size = x2.heap.size + 1) := by show _ = _; simp
  have HMw : Hid (lw.map UE.u = rus ∧ ∀ e ∈ lw, e.n ≤ 1048576) := ⟨hmx2, hzx2⟩
  have hz12 : y1.heap.size ≤ x2.heap.size := hb2.size
  have hz01 : w0.heap.size ≤ y1.heap.size := HBy1.out.size
  clear hvx2 hsx2 hmx2 hzx2 hEx2 hkx2 hb2 HS1 HP HSy1 HOy1 HBy1 HB1
  obtain ⟨c0, c1, c2, c3, c4, c5⟩ := (show _ ∧ _ ∧ _ ∧ _ ∧ _ ∧ _ from ⟨BoxN.cell (HX.out _ HB2.out).1 0 rfl, BoxN.cell (HX.out _ HB2.out).1 1 rfl, BoxN.cell (HX.out _ HB2.out).1 2 rfl, BoxN.cell (HX.out _ HB2.out).1 3 rfl, BoxN.cell (HX.out _ HB2.out).1 4 rfl, BoxN.cell (HX.out _ HB2.out).1 5 rfl⟩)
  go_wp2_with fail
  obtain ⟨w2, hw2⟩ : ∃ w2, x2.alloc (.cells #[.slice wa N wc, .slice wa' N' wc', .int .i64 rep, .int .i64 rnx, .slice wu K wuc, .slice wh M whc] 38) = w2 := ⟨_, rfl⟩
  rw [hw2] at HAw HB2 HZ2 ⊢
  clear hw2
  generalize x2.heap.size = bw at *
  refine (HTs.out _ HB2.out).mono ?_
  rintro e x3 ⟨⟨g3, g3', gu3, l3, gh3, rfl, hs3, hm3, hz3, hk3⟩, hb3⟩
  have HAx : Hid (VB (x3.alloc (.cells #[.slice (some ⟨g3, 0, none⟩) n0 n0, .slice (some ⟨g3', 0, none⟩) n1 n1, .int .i64 ep, .int .i64 nx, .slice (some ⟨gu3, 0, none⟩) un un, .slice (some ⟨gh3, 0, none⟩) hn hn] 38)) w2.heap.size x3.heap.size (some ⟨g3, 0, none⟩) n0 n0 xs (some ⟨g3', 0, none⟩) n1 n1 ys ep nx (some ⟨gu3, 0, none⟩) un un l3 (some ⟨gh3, 0, none⟩) hn hn hs) := VB.new hs3 hb3.size
  have HM3 : Hid (l3.map UE.u = l.map UE.u ∧ (∀ e ∈ l3, e.n ≤ 1048576) ∧ SvBeh w2.heap.size (some ⟨g3, 0, none⟩) (some ⟨g3', 0, none⟩) (some ⟨gu3, 0, none⟩) l3 (some ⟨gh3, 0, none⟩)) := ⟨hm3, hz3, hk3⟩
  have HBa : Hid (Below w2.heap.size w2 (x3.alloc (.cells #[.slice (some ⟨g3, 0, none⟩) n0 n0, .slice (some ⟨g3', 0, none⟩) n1 n1, .int .i64 ep, .int .i64 nx, .slice (some ⟨gu3, 0, none⟩) un un, .slice (some ⟨gh3, 0, none⟩) hn hn] 38))) := hb3.alloc hb3.size _
  have HZ4 : Hid ((x3.alloc (.cells #[.slice (some ⟨g3, 0, none⟩) n0 n0, .slice (some ⟨g3', 0, none⟩) n1 n1, .int .i64 ep, .int .i64 nx, .slice (some ⟨gu3, 0, none⟩) un un, .slice (some ⟨gh3, 0, none⟩) hn hn] 38)).heap.size = x3.heap.size + 1) := by show _ = _; simp
  have hz23 : w2.heap.size ≤ x3.heap.size := hb3.size
  clear hs3 hm3 hz3 hk3 hb3 c0 c1 c2 c3 c4 c5
  obtain ⟨d0, d1, d2, d3, d4, d5⟩ := (show _ ∧ _ ∧ _ ∧ _ ∧ _ ∧ _ from ⟨BoxN.cell HAx.out.box 0 rfl, BoxN.cell HAx.out.box 1 rfl, BoxN.cell HAx.out.box 2 rfl, BoxN.cell HAx.out.box 3 rfl, BoxN.cell HAx.out.box 4 rfl, BoxN.cell HAx.out.box 5 rfl⟩)
  go_upto_region 9 with fail
  obtain ⟨w3, hw3⟩ : ∃ w3, x3.alloc (.cells #[.slice (some ⟨g3, 0, none⟩) n0 n0, .slice (some ⟨g3', 0, none⟩) n1 n1, .int .i64 ep, .int .i64 nx, .slice (some ⟨gu3, 0, none⟩) un un, .slice (some ⟨gh3, 0, none⟩) hn hn] 38) = w3 := ⟨_, rfl⟩
  rw [hw3] at HAx HBa HZ4 ⊢
  clear hw3 d0 d1 d2 d3 d4 d5
  have HB3 : Hid (Below w0.heap.size w0 w3) := HB2.out.trans (HBa.out.mono HB2.out.size)
  have HAw3 : Hid (VB w3 y1.heap.size bw wa N wc RX wa' N' wc' RY rep rnx wu K wuc lw wh M whc rhs) := HAw.out.stays HBa.out
  clear HAw HBa HB2
  generalize x3.heap.size = bx at *
  go_wp2_with fail
  refine (HTb.out _ HB3.out).mono ?_
  rintro e y3 ⟨rfl, hbo3, hb3⟩
  have HBy : Hid (Below w0.heap.size w0 y3) := HB3.out.trans (hb3.mono HB3.out.size)
  have HAwy : Hid (VB y3 y1.heap.size bw wa N wc RX wa' N' wc' RY rep rnx wu K wuc lw wh M whc rhs) := HAw3.out.stays hb3
  have HAxy : Hid (VB y3 w2.heap.size bx (some ⟨g3, 0, none⟩) n0 n0 xs (some ⟨g3', 0, none⟩) n1 n1 ys ep nx (some ⟨gu3, 0, none⟩) un un l3 (some ⟨gh3, 0, none⟩) hn hn hs) := HAx.out.stays hb3
  have HZ5 : Hid (bx < w3.heap.size ∧ w3.heap.size < y3.heap.size) := ⟨by have := HZ4.out; omega, by rcases hbo3.1.2 with ⟨h, _⟩ | ⟨g9, cap9, cur9, he9, _, hg9, _⟩; cases h; injection he9 with e1; injection e1 with e1; injection e1 with e1; rw [e1]; exact (Array.getElem?_eq_some_iff.1 hg9).1⟩
  obtain ⟨kb, hkb⟩ : ∃ kb, w3.heap.size = kb := ⟨_, rfl⟩
  rw [hkb] at hbo3 HZ5 ⊢
  have HOy : Hid (OwnBo y3 kb (.slice (some ⟨kb, 0, none⟩) m m) m ks) := hbo3
  clear hbo3 hb3 HAx HAw3 HB3 hkb HZ4
  obtain ⟨d0, d1, d2, d3, d4, d5⟩ := (show _ ∧ _ ∧ _ ∧ _ ∧ _ ∧ _ from ⟨BoxN.cell HAxy.out.box 0 rfl, BoxN.cell HAxy.out.box 1 rfl, BoxN.cell HAxy.out.box 2 rfl, BoxN.cell HAxy.out.box 3 rfl, BoxN.cell HAxy.out.box 4 rfl, BoxN.cell HAxy.out.box 5 rfl⟩)
  go_wp2_with fail
  refine (HI.out _ _ _ _ _ _ l3 y3 (HX.out _ HBy.out).2.2.2.2.1 HSz.out hhn hm1 HAxy.out.sv HM3.out.1 HM3.out.2.1 HOy.out.strs).mono ?_
  rintro e x4 ⟨⟨vx4, rfl, hvx4⟩, hb4⟩
  obtain ⟨ga, gc, ga', gc', gu, guc, lg, gh, ghc, rfl, hsx4, hmx4, hzx4, hEx4, hkx4⟩ := HAn.out _ _ _ _ hvx4
  have HAg : Hid (VB (x4.alloc (.cells #[.slice ga N gc, .slice ga' N' gc', .int .i64 rep, .int .i64 rnx, .slice gu K guc, .slice gh M ghc] 38)) y3.heap.size x4.heap.size ga N gc RX ga' N' gc' RY rep rnx gu K guc lg gh M ghc rhs) := VB.new hsx4 hb4.size
  have HBb : Hid (Below y3.heap.size y3 (x4.alloc (.cells #[.slice ga N gc, .slice ga' N' gc', .int .i64 rep, .int .i64 rnx, .slice gu K guc, .slice gh M ghc] 38))) := hb4.alloc hb4.size _
  have HMg : Hid (lg.map UE.u = rus ∧ (∀ e ∈ lg, e.n ≤ 1048576) ∧ mkUEnd (1 + N + N') lg ≤ 1109526777856 ∧ SvBeh y3.heap.size ga ga' gu lg gh) := ⟨hmx4, hzx4, hEx4, hkx4 rfl⟩
  have hz34 : y3.heap.size ≤ x4.heap.size := hb4.size
  clear hvx4 hsx4 hmx4 hzx4 hEx4 hkx4 hb4 d0 d1 d2 d3 d4 d5
  have HAw4 : Hid (VB (x4.alloc (.cells #[.slice ga N gc, .slice ga' N' gc', .int .i64 rep, .int .i64 rnx, .slice gu K guc, .slice gh M ghc] 38)) y1.heap.size bw wa N wc RX wa' N' wc' RY rep rnx wu K wuc lw wh M whc rhs) := HAwy.out.stays HBb.out
  have HAx4 : Hid (VB (x4.alloc (.cells #[.slice ga N gc, .slice ga' N' gc', .int .i64 rep, .int .i64 rnx, .slice gu K guc, .slice gh M ghc] 38)) w2.heap.size bx (some ⟨g3, 0, none⟩) n0 n0 xs (some ⟨g3', 0, none⟩) n1 n1 ys ep nx (some ⟨gu3, 0, none⟩) un un l3 (some ⟨gh3, 0, none⟩) hn hn hs) := HAxy.out.stays HBb.out
  have HO4 : Hid (OwnBo (x4.alloc (.cells #[.slice ga N gc, .slice ga' N' gc', .int .i64 rep, .int .i64 rnx, .slice gu K guc, .slice gh M ghc] 38)) kb (.slice (some ⟨kb, 0, none⟩) m m) m ks) := HOy.out.below HBb.out
  have HB4 : Hid (Below w0.heap.size w0 (x4.alloc (.cells #[.slice ga N gc, .slice ga' N' gc', .int .i64 rep, .int .i64 rnx, .slice gu K guc, .slice gh M ghc] 38))) := HBy.out.trans (HBb.out.mono HBy.out.size)
  clear HAwy HAxy HBb HBy HOy
  obtain ⟨p0, p1, p2, p3, p4, p5⟩ := (show _ ∧ _ ∧ _ ∧ _ ∧ _ ∧ _ from ⟨BoxN.cell HAw4.out.box 0 rfl, BoxN.cell HAw4.out.box 1 rfl, BoxN.cell HAw4.out.box 2 rfl, BoxN.cell HAw4.out.box 3 rfl, BoxN.cell HAw4.out.box 4 rfl, BoxN.cell HAw4.out.box 5 rfl⟩)
  obtain ⟨q0, q1, q2, q3, q4, q5⟩ := (show _ ∧ _ ∧ _ ∧ _ ∧ _ ∧ _ from ⟨BoxN.cell HAg.out.box 0 rfl, BoxN.cell HAg.out.box 1 rfl, BoxN.cell HAg.out.box 2 rfl, BoxN.cell HAg.out.box 3 rfl, BoxN.cell HAg.out.box 4 rfl, BoxN.cell HAg.out.box 5 rfl⟩)
  go_wp2_with fail
  obtain ⟨w4, hw4⟩ : ∃ w4, x4.alloc (.cells #[.slice ga N gc, .slice ga' N' gc', .int .i64 rep, .int .i64 rnx, .slice gu K guc, .slice gh M ghc] 38) = w4 := ⟨_, rfl⟩
  rw [hw4] at HAw4 HAx4 HAg HB4 HO4 ⊢
  clear hw4 p0 p1 p2 p3 p4 p5 q0 q1 q2 q3 q4 q5
  generalize x4.heap.size = bg at *
  refine (eqServer_same ga wa N gc wc RX ga' wa' N' gc' wc' RY rep rnx gu K guc y3.heap.size lg wu K wuc y1.heap.size lw gh wh M ghc whc rhs w4 HAg.out.sv.sto HAw4.out.sv.sto (by rw [HMg.out.1, HMw.out.1]) (by omega) (by omega) (by omega) (fun e he => by have := HMg.out.2.1 e he; omega) HAg.out.sv.held.helds HAw4.out.sv.held.helds (by omega)).mono ?_
  rintro e x5 ⟨rfl, hb5⟩
  have HAw6 : Hid (VB x5 y1.heap.size bw wa N wc RX wa' N' wc' RY rep rnx wu K wuc lw wh M whc rhs) := HAw4.out.stays hb5
  have HAx6 : Hid (VB x5 w2.heap.size bx (some ⟨g3, 0, none⟩) n0 n0 xs (some ⟨g3', 0, none⟩) n1 n1 ys ep nx (some ⟨gu3, 0, none⟩) un un l3 (some ⟨gh3, 0, none⟩) hn hn hs) := HAx4.out.stays hb5
  have HAg6 : Hid (VB x5 y3.heap.size bg ga N gc RX ga' N' gc' RY rep rnx gu K guc lg gh M ghc rhs) := HAg.out.stays hb5
  have HO6 : Hid (OwnBo x5 kb (.slice (some ⟨kb, 0, none⟩) m m) m ks) := HO4.out.below hb5
  have HB6 : Hid (Below w0.heap.size w0 x5) := HB4.out.trans (hb5.mono HB4.out.size)
  clear hb5 HAw4 HAx4 HAg HB4 HO4
  obtain ⟨c0, c1, c2, c3, c4, c5⟩ := (show _ ∧ _ ∧ _ ∧ _ ∧ _ ∧ _ from ⟨BoxN.cell (HX.out _ HB6.out).1 0 rfl, BoxN.cell (HX.out _ HB6.out).1 1 rfl, BoxN.cell (HX.out _ HB6.out).1 2 rfl, BoxN.cell (HX.out _ HB6.out).1 3 rfl, BoxN.cell (HX.out _ HB6.out).1 4 rfl, BoxN.cell (HX.out _ HB6.out).1 5 rfl⟩)
  obtain ⟨d0, d1, d2, d3, d4, d5⟩ := (show _ ∧ _ ∧ _ ∧ _ ∧ _ ∧ _ from ⟨BoxN.cell HAx6.out.box 0 rfl, BoxN.cell HAx6.out.box 1 rfl, BoxN.cell HAx6.out.box 2 rfl, BoxN.cell HAx6.out.box 3 rfl, BoxN.cell HAx6.out.box 4 rfl, BoxN.cell HAx6.out.box 5 rfl⟩)
  go_upto_region 13 with fail
  go_region_held3 (fun W => (W.cell? ⟨bx, 0, none⟩ = some (.slice (some ⟨g3, 0, none⟩) n0 n0) ∧ W.cell? ⟨bx, 1, none⟩ = some (.slice (some ⟨g3', 0, none⟩) n1 n1) ∧ W.cell? ⟨bx, 2, none⟩ = some (.int .i64 ep) ∧ W.cell? ⟨bx, 3, none⟩ = some (.int .i64 nx) ∧ W.cell? ⟨bx, 4, none⟩ = some (.slice (some ⟨gu3, 0, none⟩) un un) ∧ W.cell? ⟨bx, 5, none⟩ = some (.slice (some ⟨gh3, 0, none⟩) hn hn)) ∧ W.cell? ⟨w.heap.size, 0, none⟩ = some (.slice a0 n0 ca0) ∧ W.cell? ⟨w.heap.size, 1, none⟩ = some (.slice a1 n1 ca1) ∧ W.cell? ⟨w.heap.size, 2, none⟩ = some (.int .i64 ep) ∧ W.cell? ⟨w.heap.size, 3, none⟩ = some (.int .i64 nx) ∧ W.cell? ⟨w.heap.size, 4, none⟩ = some (.slice ua un uc) ∧ W.cell? ⟨w.heap.size, 5, none⟩ = some (.slice ha hn hc)) (first | with_reducible exact ⟨⟨i0, i1, i2, i3, i4, i5⟩, e0, e1, e2, e3, e4, e5⟩ | with_reducible exact ⟨⟨d0, d1, d2, d3, d4, d5⟩, c0, c1, c2, c3, c4, c5⟩ | exact ⟨⟨d0, d1, d2, d3, d4, d5⟩, c0, c1, c2, c3, c4, c5⟩ | fail) (first
    | (go_at_call 7; refine (HTs.out _ (HB6.out.drew)).mono ?_; rintro _ x6 ⟨⟨g6, g6', gu6, l6, gh6, rfl, hs6, hm6, hz6, _⟩, hb6⟩
       have hb6' : Below x5.heap.size x5 x6 := (Below.refl x5.heap.size x5).drew.trans (hb6.mono (Nat.le_refl _))
       have hB6 : Below w0.heap.size w0 x6 := HB6.out.trans (hb6'.mono HB6.out.size)
       have e0 := BoxN.cell (HX.out _ hB6).1 0 rfl
       have e1 := BoxN.cell (HX.out _ hB6).1 1 rfl
       have e2 := BoxN.cell (HX.out _ hB6).1 2 rfl
       have e3 := BoxN.cell (HX.out _ hB6).1 3 rfl
       have e4 := BoxN.cell (HX.out _ hB6).1 4 rfl
       have e5 := BoxN.cell (HX.out _ hB6).1 5 rfl
       have i0 := BoxN.cell (HAx6.out.stays hb6').box 0 rfl
       have i1 := BoxN.cell (HAx6.out.stays hb6').box 1 rfl
       have i2 := BoxN.cell (HAx6.out.stays hb6').box 2 rfl
       have i3 := BoxN.cell (HAx6.out.stays hb6').box 3 rfl
       have i4 := BoxN.cell (HAx6.out.stays hb6').box 4 rfl
       have i5 := BoxN.cell (HAx6.out.stays hb6').box 5 rfl)
    | (go_at_call 9; refine (eqServer_same (some ⟨g3, 0, none⟩) (some ⟨g6, 0, none⟩) n0 n0 n0 xs (some ⟨g3', 0, none⟩) (some ⟨g6', 0, none⟩) n1 n1 n1 ys ep nx (some ⟨gu3, 0, none⟩) un un w2.heap.size l3 (some ⟨gu6, 0, none⟩) un un x5.heap.size l6 (some ⟨gh3, 0, none⟩) (some ⟨gh6, 0, none⟩) hn hn hn hs x6 (HAx6.out.stays hb6').sv.sto hs6.sto (by rw [HM3.out.1, hm6]) (by omega) (by omega) (by omega) (fun e he => by have := HM3.out.2.1 e he; omega) (HAx6.out.stays hb6').sv.held.helds hs6.held.helds (by omega)).mono ?_; rintro _ x7 ⟨rfl, hb7⟩
       have hb7' : Below x5.heap.size x5 x7 := hb6'.trans (hb7.mono hb6'.size)
       have hB7 : Below w0.heap.size w0 x7 := HB6.out.trans (hb7'.mono HB6.out.size)
       have e0 := BoxN.cell (HX.out _ hB7).1 0 rfl
       have e1 := BoxN.cell (HX.out _ hB7).1 1 rfl
       have e2 := BoxN.cell (HX.out _ hB7).1 2 rfl
       have e3 := BoxN.cell (HX.out _ hB7).1 3 rfl
       have e4 := BoxN.cell (HX.out _ hB7).1 4 rfl
       have e5 := BoxN.cell (HX.out _ hB7).1 5 rfl
       have i0 := BoxN.cell (HAx6.out.stays hb7').box 0 rfl
       have i1 := BoxN.cell (HAx6.out.stays hb7').box 1 rfl
       have i2 := BoxN.cell (HAx6.out.stays hb7').box 2 rfl
       have i3 := BoxN.cell (HAx6.out.stays hb7').box 3 rfl
       have i4 := BoxN.cell (HAx6.out.stays hb7').box 4 rfl
       have i5 := BoxN.cell (HAx6.out.stays hb7').box 5 rfl)
    | fail)
  have HAw7 : Hid (VB x7 y1.heap.size bw wa N wc RX wa' N' wc' RY rep rnx wu K wuc lw wh M whc rhs) := HAw6.out.stays hb7'
  have HAx7 : Hid (VB x7 w2.heap.size bx (some ⟨g3, 0, none⟩) n0 n0 xs (some ⟨g3', 0, none⟩) n1 n1 ys ep nx (some ⟨gu3, 0, none⟩) un un l3 (some ⟨gh3, 0, none⟩) hn hn hs) := HAx6.out.stays hb7'
  have HAg7 : Hid (VB x7 y3.heap.size bg ga N gc RX ga' N' gc' RY rep rnx gu K guc lg gh M ghc rhs) := HAg6.out.stays hb7'
  have HO7 : Hid (OwnBo x7 kb (.slice (some ⟨kb, 0, none⟩) m m) m ks) := HO6.out.below hb7'
  have HB7 : Hid (Below w0.heap.size w0 x7) := hB7
  clear hs6 hm6 hz6 hb6 hb6' hB6 hb7 hb7' hB7 e0 e1 e2 e3 e4 e5 i0 i1 i2 i3 i4 i5 c0 c1 c2 c3 c4 c5 d0 d1 d2 d3 d4 d5 HAw6 HAx6 HAg6 HB6 HO6
  go_wp2_with fail
  refine (HTb.out _ HB7.out).mono ?_
  rintro e y7 ⟨rfl, hbo7, hb7⟩
  have HOz : Hid (Bools y7 (some ⟨kb, 0, none⟩) m ks ∧ Bools y7 (some ⟨x7.heap.size, 0, none⟩) m ks) := ⟨(HO7.out.below hb7).strs, hbo7.strs⟩
  have HC7 : Hid (Below x7.heap.size x7 y7) := hb7
  clear hbo7 hb7
  go_wp2_with fail
  refine (eqBoolS_same (some ⟨kb, 0, none⟩) (some ⟨x7.heap.size, 0, none⟩) m m m ks y7 HOz.out.1 HOz.out.2 (by omega)).mono ?_
  rintro e z7 ⟨rfl, hb7⟩
  have HC8 : Hid (Below x7.heap.size x7 z7) := HC7.out.trans (hb7.mono HC7.out.size)
  have HAw8 : Hid (VB z7 y1.heap.size bw wa N wc RX wa' N' wc' RY rep rnx wu K wuc lw wh M whc rhs) := HAw7.out.stays HC8.out
  have HAx8 : Hid (VB z7 w2.heap.size bx (some ⟨g3, 0, none⟩) n0 n0 xs (some ⟨g3', 0, none⟩) n1 n1 ys ep nx (some ⟨gu3, 0, none⟩) un un l3 (some ⟨gh3, 0, none⟩) hn hn hs) := HAx7.out.stays HC8.out
  have HAg8 : Hid (VB z7 y3.heap.size bg ga N gc RX ga' N' gc' RY rep rnx gu K guc lg gh M ghc rhs) := HAg7.out.stays HC8.out
  have HO8 : Hid (OwnBo z7 kb (.slice (some ⟨kb, 0, none⟩) m m) m ks) := HO7.out.below HC8.out
  have HB8 : Hid (Below w0.heap.size w0 z7) := HB7.out.trans (HC8.out.mono HB7.out.size)
  clear hb7 HC7 HC8 HOz HAw7 HAx7 HAg7 HO7 HB7
  obtain ⟨d0, d1, d2, d3, d4, d5⟩ := (show _ ∧ _ ∧ _ ∧ _ ∧ _ ∧ _ from ⟨BoxN.cell HAx8.out.box 0 rfl, BoxN.cell HAx8.out.box 1 rfl, BoxN.cell HAx8.out.box 2 rfl, BoxN.cell HAx8.out.box 3 rfl, BoxN.cell HAx8.out.box 4 rfl, BoxN.cell HAx8.out.box 5 rfl⟩)
  have HEnd : Hid (mkUEnd (1 + n0 + n1) l3 ≤ 1109526777856) := by
    have h1 := mkUEnd_le (1 + n0 + n1) 1048576 l3 HM3.out.2.1
    have h2 := HAx8.out.sv.sto.len
    have h3 : (3 + 1048576) * l3.length ≤ (3 + 1048576) * 1048576 := Nat.mul_le_mul_left _ (by omega)
    show _ ≤ _
    omega
  go_wp2_with fail
  refine (markServer_any w2.heap.size (some ⟨g3, 0, none⟩) n0 n0 xs (some ⟨g3', 0, none⟩) n1 n1 ys ep nx (some ⟨gu3, 0, none⟩) un un l3 (some ⟨gh3, 0, none⟩) hn hn hs 1 z7 HAx8.out.sv (by omega) (by omega) (by omega) (by omega) (by have := HEnd.out; omega) (by omega) bx HAx8.out.inn HM3.out.2.2 (Nat.le_of_lt HAx8.out.box.lt)).mono ?_
  rintro e x8 ⟨rfl, _, hw8⟩
  have hz2 := HZ2.out
  have hz5 := HZ5.out
  have hl3 : w2.heap.size ≤ bx := HAx8.out.lob
  have hl1x : y1.heap.size ≤ bw := HAw8.out.lob
  have HAw9 : Hid (VB x8 y1.heap.size bw wa N wc RX wa' N' wc' RY rep rnx wu K wuc lw wh M whc rhs) := HAw8.out.kept hw8 (.inl (by omega))
  have HAg9 : Hid (VB x8 y3.heap.size bg ga N gc RX ga' N' gc' RY rep rnx gu K guc lg gh M ghc rhs) := HAg8.out.kept hw8 (.inr (by omega))
  have HO9 : Hid (OwnBo x8 kb (.slice (some ⟨kb, 0, none⟩) m m) m ks) := ⟨own_same HO8.out.1 (fun q e => by
    have e2 : kb = q := by simpa [Value.ownBlock] using e
    exact hw8.block q (by have := HAg8.out.box.lt; have := HAg8.out.lob; omega) (.inr (by omega))), HO8.out.2⟩
  have HB9 : Hid (Below w0.heap.size w0 x8) := HB8.out.trans ((hw8.below (by have := HAw8.out.box.lt; have := HAx8.out.box.lt; omega)).mono (by omega))
  have HKx : Hid (bg < x8.heap.size) := HAg9.out.box.lt
  obtain ⟨kk, hkk⟩ : ∃ kk, mkUEnd (1 + n0 + n1) l3 + 3 * hn = kk := ⟨_, rfl⟩
  have hkk2 : kk ≤ 1099511627776 ∨ True := .inr trivial
  have HKb : Hid (kk ≤ 2199023255552) := by have := HEnd.out; show _ ≤ _; omega
  rw [hkk]
  clear hkk hkk2 hw8 d0 d1 d2 d3 d4 d5 HAw8 HAg8 HB8 HO8 HAx8
  go_wp2_with fail
  refine (markBoolS_any kb (some ⟨kb, 0, none⟩) m m kk ks x8 HO9.out (by omega) (by have := HKb.out; omega)).mono ?_
  rintro e y8 ⟨rfl, _, hg8⟩
  have hw8 : Within x8 y8 kb (kb + 1) := within_grown hg8 (fun q e => by have e2 : kb = q := (by simpa using e); omega)
  have HAwA : Hid (VB y8 y1.heap.size bw wa N wc RX wa' N' wc' RY rep rnx wu K wuc lw wh M whc rhs) := HAw9.out.kept hw8 (.inl (by omega))
  have HAgA : Hid (VB y8 y3.heap.size bg ga N gc RX ga' N' gc' RY rep rnx gu K guc lg gh M ghc rhs) := HAg9.out.kept hw8 (.inr (by omega))
  have HBA : Hid (Below w0.heap.size w0 y8) := HB9.out.trans ((hw8.below (by have := HAg9.out.box.lt; have := HAg9.out.lob; omega)).mono (by omega))
  obtain ⟨kk2, hkk2⟩ : ∃ kk2, kk + m = kk2 := ⟨_, rfl⟩
  rw [hkk2]
  have hkp : ¬ (kk2 : Int) < 0 := by omega
  have hkd2 : decide ((kk2 : Int) < 0) = false := by simp
  clear hkk2 hg8 hw8 HAw9 HAg9 HB9 HO9
  obtain ⟨p0, p1, p2, p3, p4, p5⟩ := (show _ ∧ _ ∧ _ ∧ _ ∧ _ ∧ _ from ⟨BoxN.cell HAwA.out.box 0 rfl, BoxN.cell HAwA.out.box 1 rfl, BoxN.cell HAwA.out.box 2 rfl, BoxN.cell HAwA.out.box 3 rfl, BoxN.cell HAwA.out.box 4 rfl, BoxN.cell HAwA.out.box 5 rfl⟩)
  obtain ⟨q0, q1, q2, q3, q4, q5⟩ := (show _ ∧ _ ∧ _ ∧ _ ∧ _ ∧ _ from ⟨BoxN.cell HAgA.out.box 0 rfl, BoxN.cell HAgA.out.box 1 rfl, BoxN.cell HAgA.out.box 2 rfl, BoxN.cell HAgA.out.box 3 rfl, BoxN.cell HAgA.out.box 4 rfl, BoxN.cell HAgA.out.box 5 rfl⟩)
  go_wp2_with fail
  refine (eqServer_same ga wa N gc wc RX ga' wa' N' gc' wc' RY rep rnx gu K guc y3.heap.size lg wu K wuc y1.heap.size lw gh wh M ghc whc rhs y8 HAgA.out.sv.sto HAwA.out.sv.sto (by rw [HMg.out.1, HMw.out.1]) (by omega) (by omega) (by omega) (fun e he => by have := HMg.out.2.1 e he; omega) HAgA.out.sv.held.helds HAwA.out.sv.held.helds (by omega)).mono ?_
  rintro e x9 ⟨rfl, hb9⟩
  have HAwB : Hid (VB x9 y1.heap.size bw wa N wc RX wa' N' wc' RY rep rnx wu K wuc lw wh M whc rhs) := HAwA.out.stays hb9
  have HAgB : Hid (VB x9 y3.heap.size bg ga N gc RX ga' N' gc' RY rep rnx gu K guc lg gh M ghc rhs) := HAgA.out.stays hb9
  have HBB : Hid (Below w0.heap.size w0 x9) := HBA.out.trans (hb9.mono HBA.out.size)
  clear hb9 p0 p1 p2 p3 p4 p5 q0 q1 q2 q3 q4 q5 HAwA HAgA HBA
  obtain ⟨q0, q1, q2, q3, q4, q5⟩ := (show _ ∧ _ ∧ _ ∧ _ ∧ _ ∧ _ from ⟨BoxN.cell HAgB.out.box 0 rfl, BoxN.cell HAgB.out.box 1 rfl, BoxN.cell HAgB.out.box 2 rfl, BoxN.cell HAgB.out.box 3 rfl, BoxN.cell HAgB.out.box 4 rfl, BoxN.cell HAgB.out.box 5 rfl⟩)
  go_wp2_with fail
  refine (markServer_any y3.heap.size ga N gc RX ga' N' gc' RY rep rnx gu K guc lg gh M ghc rhs 1 x9 HAgB.out.sv (by omega) (by omega) (by omega) (by omega) (by have := HMg.out.2.2.1; omega) (by omega) bg HAgB.out.inn HMg.out.2.2.2 (Nat.le_of_lt HAgB.out.box.lt)).mono ?_
  rintro e x10 ⟨rfl, hm10, hw10⟩
  have hl9 : y3.heap.size ≤ bg := HAgB.out.lob
  have HAwC : Hid (VB x10 y1.heap.size bw wa N wc RX wa' N' wc' RY rep rnx wu K wuc lw wh M whc rhs) := HAwB.out.kept hw10 (.inl (by omega))
  have HBx : Hid (BoxN x10 bg 38 [.slice ga N gc, .slice ga' N' gc', .int .i64 rep, .int .i64 rnx, .slice gu K guc, .slice gh M ghc]) := (hw10.block bg HAgB.out.box.lt (.inr (Nat.le_refl _))).trans HAgB.out.box
  have HMk : Hid (SvMkd x10 y3.heap.size 1 ga N gc ga' N' gc' gu K guc lg gh M ghc) := hm10
  have HB10 : Hid (Below w0.heap.size w0 x10) := HBB.out.trans ((hw10.below (by have := HAgB.out.box.lt; omega)).mono (by omega))
  clear hm10 hw10 q0 q1 q2 q3 q4 q5 HAwB HAgB HBB
  obtain ⟨E1, hE1⟩ : ∃ E1, mkUEnd (1 + N + N') lg + 3 * M = E1 := ⟨_, rfl⟩
  have HE1 : Hid (mkUEnd (1 + N + N') lg + 3 * M = E1) := hE1
  rw [hE1]
  clear hE1
  have HHG : Hid (∀ W : World, SvMkd W y3.heap.size 1 ga N gc ga' N' gc' gu K guc lg gh M ghc → Calls Tryz.prog 13 #[.agg #[.slice ga N gc, .slice ga' N' gc', .int .i64 rep, .int .i64 rnx, .slice gu K guc, .slice gh M ghc], .int .i64 1] W fun e w' => e = .returned (.int .i64 (E1 : Int)) ∧ Below W.heap.size W w') := fun W h => (heldServer_any y3.heap.size ga N gc ga' N' gc' rep rnx gu K guc lg gh M ghc 1 W h (by omega) (by omega) (by omega) (by omega) (by have := HMg.out.2.2.1; omega) (by omega)).mono (fun e w' ⟨h1, h2⟩ => ⟨by rw [h1, HE1.out], h2⟩)
  have hq1 : ¬ (E1 : Int) < 0 := by omega
  have hq2 : decide ((E1 : Int) < 0) = false := by simp
  have hq5 : ((E1 : Int) != (E1 : Int)) = false := by simp
  obtain ⟨q0, q1, q2, q3, q4, q5⟩ := (show _ ∧ _ ∧ _ ∧ _ ∧ _ ∧ _ from ⟨BoxN.cell HBx.out 0 rfl, BoxN.cell HBx.out 1 rfl, BoxN.cell HBx.out 2 rfl, BoxN.cell HBx.out 3 rfl, BoxN.cell HBx.out 4 rfl, BoxN.cell HBx.out 5 rfl⟩)
  go_wp2_with fail
  refine (HHG.out _ HMk.out).mono ?_
  rintro e x11 ⟨rfl, hb11⟩
  have HAw11 : Hid (VB x11 y1.heap.size bw wa N wc RX wa' N' wc' RY rep rnx wu K wuc lw wh M whc rhs) := HAwC.out.stays hb11
  have HBx11 : Hid (BoxN x11 bg 38 [.slice ga N gc, .slice ga' N' gc', .int .i64 rep, .int .i64 rnx, .slice gu K guc, .slice gh M ghc]) := HBx.out.stays hb11
  have HMk11 : Hid (SvMkd x11 y3.heap.size 1 ga N gc ga' N' gc' gu K guc lg gh M ghc) := HMk.out.stays hb11
  have HB11 : Hid (Below w0.heap.size w0 x11) := HB10.out.trans (hb11.mono HB10.out.size)
  clear hb11 q0 q1 q2 q3 q4 q5 HAwC HBx HMk HB10
  obtain ⟨c0, c1, c2, c3, c4, c5⟩ := (show _ ∧ _ ∧ _ ∧ _ ∧ _ ∧ _ from ⟨BoxN.cell (HX.out _ HB11.out).1 0 rfl, BoxN.cell (HX.out _ HB11.out).1 1 rfl, BoxN.cell (HX.out _ HB11.out).1 2 rfl, BoxN.cell (HX.out _ HB11.out).1 3 rfl, BoxN.cell (HX.out _ HB11.out).1 4 rfl, BoxN.cell (HX.out _ HB11.out).1 5 rfl⟩)
  go_wp2_with fail
  refine (HTs.out _ HB11.out).mono ?_
  rintro e x12 ⟨⟨g12, g12', gu12, l12, gh12, rfl, hs12, hm12, hz12, _⟩, hb12⟩
  have HS12 : Hid (SvAt x12 x11.heap.size (some ⟨g12, 0, none⟩) n0 n0 xs (some ⟨g12', 0, none⟩) n1 n1 ys (some ⟨gu12, 0, none⟩) un un l12 (some ⟨gh12, 0, none⟩) hn hn hs ∧ l12.map UE.u = l.map UE.u ∧ ∀ e ∈ l12, e.n ≤ 1048576) := ⟨hs12, hm12, hz12⟩
  have HC12 : Hid (Below x11.heap.size x11 x12) := hb12
  have HD12 : Hid (Below w0.heap.size w0 x12) := HB11.out.trans (hb12.mono HB11.out.size)
  clear hs12 hm12 hz12 hb12 c0 c1 c2 c3 c4 c5
  go_wp2_with fail
  refine (HTb.out _ HD12.out).mono ?_
  rintro e y12 ⟨rfl, hbo12, hb12⟩
  have HSy12 : Hid (SvAt y12 x11.heap.size (some ⟨g12, 0, none⟩) n0 n0 xs (some ⟨g12', 0, none⟩) n1 n1 ys (some ⟨gu12, 0, none⟩) un un l12 (some ⟨gh12, 0, none⟩) hn hn hs) := HS12.out.1.stays hb12
  have HOy12 : Hid (Bools y12 (some ⟨x12.heap.size, 0, none⟩) m ks) := hbo12.strs
  have HCy12 : Hid (Below x11.heap.size x11 y12) := HC12.out.trans (hb12.mono HC12.out.size)
  have HDy12 : Hid (Below w.heap.size w y12) := (HX.out _ (HD12.out.trans (hb12.mono HD12.out.size))).2.2.2.2.1
  clear hbo12 hb12 HC12 HD12
  go_wp2_with fail
  refine (HI.out _ _ _ _ _ _ l12 y12 HDy12.out HSz.out hhn hm1 HSy12.out HS12.out.2.1 HS12.out.2.2 HOy12.out).mono ?_
  rintro e x13 ⟨⟨vx13, rfl, hvx13⟩, hb13⟩
  obtain ⟨za, zc, za', zc', zu, zuc, lz, zh, zhc, rfl, hsx13, hmx13, hzx13, hEx13, hkx13⟩ := HAn.out _ _ _ _ hvx13
  have HAh : Hid (VB (x13.alloc (.cells #[.slice za N zc, .slice za' N' zc', .int .i64 rep, .int .i64 rnx, .slice zu K zuc, .slice zh M zhc] 38)) y12.heap.size x13.heap.size za N zc RX za' N' zc' RY rep rnx zu K zuc lz zh M zhc rhs) := VB.new hsx13 hb13.size
  have HC13 : Hid (Below x11.heap.size x11 (x13.alloc (.cells #[.slice za N zc, .slice za' N' zc', .int .i64 rep, .int .i64 rnx, .slice zu K zuc, .slice zh M zhc] 38))) := (HCy12.out.trans (hb13.mono HCy12.out.size)).alloc (HCy12.out.trans (hb13.mono HCy12.out.size)).size _
  have HMz : Hid (lz.map UE.u = rus ∧ ∀ e ∈ lz, e.n ≤ 1048576) := ⟨hmx13, hzx13⟩
  clear hvx13 hsx13 hmx13 hzx13 hEx13 hkx13 hb13 HCy12 HS12 HSy12 HOy12 HDy12
  have HAw13 : Hid (VB (x13.alloc (.cells #[.slice za N zc, .slice za' N' zc', .int .i64 rep, .int .i64 rnx, .slice zu K zuc, .slice zh M zhc] 38)) y1.heap.size bw wa N wc RX wa' N' wc' RY rep rnx wu K wuc lw wh M whc rhs) := HAw11.out.stays HC13.out
  obtain ⟨p0, p1, p2, p3, p4, p5⟩ := (show _ ∧ _ ∧ _ ∧ _ ∧ _ ∧ _ from ⟨BoxN.cell HAw13.out.box 0 rfl, BoxN.cell HAw13.out.box 1 rfl, BoxN.cell HAw13.out.box 2 rfl, BoxN.cell HAw13.out.box 3 rfl, BoxN.cell HAw13.out.box 4 rfl, BoxN.cell HAw13.out.box 5 rfl⟩)
  obtain ⟨q0, q1, q2, q3, q4, q5⟩ := (show _ ∧ _ ∧ _ ∧ _ ∧ _ ∧ _ from ⟨BoxN.cell HAh.out.box 0 rfl, BoxN.cell HAh.out.box 1 rfl, BoxN.cell HAh.out.box 2 rfl, BoxN.cell HAh.out.box 3 rfl, BoxN.cell HAh.out.box 4 rfl, BoxN.cell HAh.out.box 5 rfl⟩)
  go_wp2_with fail
  obtain ⟨w13, hw13⟩ : ∃ w13, x13.alloc (.cells #[.slice za N zc, .slice za' N' zc', .int .i64 rep, .int .i64 rnx, .slice zu K zuc, .slice zh M zhc] 38) = w13 := ⟨_, rfl⟩
  rw [hw13] at HAh HC13 HAw13 ⊢
  clear hw13 p0 p1 p2 p3 p4 p5 q0 q1 q2 q3 q4 q5
  refine (eqServer_same za wa N zc wc RX za' wa' N' zc' wc' RY rep rnx zu K zuc y12.heap.size lz wu K wuc y1.heap.size lw zh wh M zhc whc rhs w13 HAh.out.sv.sto HAw13.out.sv.sto (by rw [HMz.out.1, HMw.out.1]) (by omega) (by omega) (by omega) (fun e he => by have := HMz.out.2 e he; omega) HAh.out.sv.held.helds HAw13.out.sv.held.helds (by omega)).mono ?_
  rintro e x14 ⟨rfl, hb14⟩
  have HC14 : Hid (Below x11.heap.size x11 x14) := HC13.out.trans (hb14.mono HC13.out.size)
  clear hb14 HC13 HAh HAw13
  have HBx14 : Hid (BoxN x14 bg 38 [.slice ga N gc, .slice ga' N' gc', .int .i64 rep, .int .i64 rnx, .slice gu K guc, .slice gh M ghc]) := HBx11.out.stays HC14.out
  have HMk14 : Hid (SvMkd x14 y3.heap.size 1 ga N gc ga' N' gc' gu K guc lg gh M ghc) := HMk11.out.stays HC14.out
  obtain ⟨q0, q1, q2, q3, q4, q5⟩ := (show _ ∧ _ ∧ _ ∧ _ ∧ _ ∧ _ from ⟨BoxN.cell HBx14.out 0 rfl, BoxN.cell HBx14.out 1 rfl, BoxN.cell HBx14.out 2 rfl, BoxN.cell HBx14.out 3 rfl, BoxN.cell HBx14.out 4 rfl, BoxN.cell HBx14.out 5 rfl⟩)
  go_wp2_with fail
  refine (HHG.out _ HMk14.out).mono ?_
  rintro e x15 ⟨rfl, hb15⟩
  have HEn : Hid (Below w.heap.size w x15) := by
    have h1 : Below w0.heap.size w0 x14 := HB11.out.trans (HC14.out.mono HB11.out.size)
    exact (HX.out _ (h1.trans (hb15.mono h1.size))).2.2.2.2.1
  clear hb15 q0 q1 q2 q3 q4 q5
  go_wp2_with fail
  go_ret
  exact ⟨rfl, HEn.out⟩

end Go.Proofs.YtclkfjlnhcccdaaGreatDoor
