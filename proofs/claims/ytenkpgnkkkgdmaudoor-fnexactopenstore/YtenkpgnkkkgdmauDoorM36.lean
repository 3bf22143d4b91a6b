/- What the specification's FoldRecs answers. What the specification's DiskOk answers. What the test of a range answers. -/
import Derived.Test.YtenkpgnkkkgdmauDoorM35
import Derived.Test.YtenkpgnkkkgdmauDoorM22
import Derived.Test.YtenkpgnkkkgdmauDoorM22
import Derived.Test.YtenkpgnkkkgdmauDoorM04
import Derived.Test.YtenkpgnkkkgdmauDoorM04
import Derived.Test.YtenkpgnkkkgdmauDoorM23
import Derived.Test.YtenkpgnkkkgdmauDoorM01
namespace Go.Proofs.YtenkpgnkkkgdmauDoor
open Go.RowKit
set_option linter.unusedVariables false

set_option maxRecDepth 10000 in
set_option maxHeartbeats 1600000 in
theorem specFold_any (a : Option Addr) (n c lo : Nat) (rs : List RE) (B : Nat) (w : World) (h : RcRow w lo (.slice a n c) rs) (hn : n = rs.length) (hl : n ≤ 1099511627776) (hB : ∀ e ∈ rs, e.n ≤ B) (hnB : n * B ≤ 1099511627776) (hB2 : B ≤ 1099511627776) :
    Calls Tryd.prog 16 #[.slice a n c] w fun e w' => (∃ x l', e = .returned (.tuple #[x, .bool (foldU (rs.map RE.r)).isSome]) ∧ UpRow w' w.heap.size x l' ∧ l'.map UE.u = (foldU (rs.map RE.r)).getD [] ∧ l'.length ≤ 10) ∧ Below w.heap.size w w' := by
  have HX : Hid (∀ W, Below w.heap.size w W → RcRow W lo (.slice a n c) rs) := fun W hb => h.stays hb
  have HN : Hid (n = rs.length) := hn
  have HB : Hid (∀ e ∈ rs, e.n ≤ B) := hB
  clear h hn hB
  have HO0 : Hid (UpRow (w.alloc (.cells #[] 64)) w.heap.size (.slice (some ⟨w.heap.size, 0, none⟩) 0 0) []) := UpRow.nil w
  have HB0 : Hid (Below w.heap.size w (w.alloc (.cells #[] 64))) := (Below.refl _ _).alloc (Nat.le_refl _) _
  go_enter Tryd.func16, Tryd.ntmps16
  go_wp2_with fail
  go_loopw [4, 5] (fun v i wr => ∃ (k : Nat) (l : List UE), k ≤ n ∧ i = .int .i64 (k : Int) ∧ l.length ≤ 10 ∧ Hid (UpRow wr w.heap.size v l) ∧ Hid (foldU ((rs.map RE.r).take k) = some (l.map UE.u)) ∧ Hid (∀ u ∈ l.map UE.u, u.zs.length ≤ k * B) ∧ Hid (Below w.heap.size w wr)) (fun _ i _ => n - (intOf i).toNat)
  case atStart => exact ⟨0, [], Nat.zero_le _, rfl, Nat.zero_le _, HO0, rfl, (fun u hu => absurd hu (by simp)), HB0⟩
  case round =>
    clear HO0 HB0
    obtain ⟨k, l, hk, rfl, hl10, HO, HF, HS, HW⟩ := hrel
    obtain ⟨va, vc, hve⟩ := HO.out.shape
    subst hve
    by_cases hlt : k < n
    case neg =>
      obtain rfl : k = n := by omega
      have HE : Hid (foldU (rs.map RE.r) = some (l.map UE.u)) := by show _ = _; rw [← HF.out, List.take_of_length_le (by rw [List.length_map, HN.out]; exact Nat.le_refl _)]
      clear HF HS
      go_wp2_with fail
      go_ret2
      exact ⟨⟨_, l, by rw [HE.out]; rfl, HO.out, by rw [HE.out]; rfl, hl10⟩, HW.out⟩
    have hkl : k < rs.length := by rw [← HN.out]; exact hlt
    have hki : (k : Int) < (n : Int) := by omega
    have hk0 : (0 : Int) ≤ (k : Int) := by omega
    have hkB : k * B ≤ 1099511627776 := Nat.le_trans (Nat.mul_le_mul_right _ hk) hnB
    obtain ⟨g, rfl, g0, g1, g2, g3, g4, g5, _⟩ := (HX.out _ HW.out).at HN.out hkl
    have HSg : Hid (Seg wr (rs[k]).a (rs[k]).n (rs[k]).r.zs) := ((HX.out _ HW.out).2.1 (rs[k]) (List.getElem_mem hkl)).seg
    have hen : (rs[k]).n ≤ B := HB.out _ (List.getElem_mem hkl)
    have HSt : Hid (foldU ((rs.map RE.r).take (k + 1)) = oneU (l.map UE.u) (rs[k]).r) := by
      show _ = _
      rw [foldU_step (rs.map RE.r) k (rs[k]).r (by rw [List.getElem?_map, List.getElem?_eq_getElem hkl]; rfl), HF.out]
      rfl
    have HSp : Hid (foldU ((rs.map RE.r).take (k + 1)) = none → foldU (rs.map RE.r) = none) := foldU_stop _ _
    generalize rs[k] = e at *
    have HZl : Hid (∀ x ∈ l, x.n ≤ 1099511627776) := fun x hx => by
      have h1 := (HO.out.2.1 x hx).seg.1
      have h2 := HS.out x.u (List.mem_map_of_mem hx)
      omega
    have hen2 : e.n ≤ 1099511627776 := by omega
    clear HF
    go_wp2_with fail
    refine (specOne_any va l.length vc w.heap.size l e.r e.a e.n e.c wr HO.out rfl (by omega) HZl.out HSg.out hen2).mono ?_
    rintro _ x1 ⟨⟨v1, rfl, hans⟩, hb1⟩
    have HB1 : Hid (Below w.heap.size w x1) := HW.out.trans (hb1.mono HW.out.size)
    have hwl : w.heap.size ≤ wr.heap.size := HW.out.size
    cases ho : oneU (l.map UE.u) e.r with
    | none =>
      rw [ho] at hans
      obtain ⟨x, rfl⟩ := hans
      have HE : Hid (foldU (rs.map RE.r) = none) := HSp.out (by rw [HSt.out]; exact ho)
      have HU : Hid (UpRow (x1.alloc (.cells #[] 64)) w.heap.size (.slice (some ⟨x1.heap.size, 0, none⟩) 0 0) []) := (UpRow.nil x1).low (by have := HB1.out.size; omega)
      have HBf : Hid (Below w.heap.size w (x1.alloc (.cells #[] 64))) := HB1.out.alloc HB1.out.size _
      clear hb1 ho HO HSt HSp HSg HS
      go_wp2_with fail
      go_ret2
      exact ⟨⟨_, [], by rw [HE.out]; rfl, HU.out, by rw [HE.out]; rfl, Nat.zero_le _⟩, HBf.out⟩
    | some L =>
      rw [ho] at hans
      obtain ⟨x, l', rfl, hrow, hmp⟩ := hans
      have HU : Hid (UpRow x1 w.heap.size x l') := hrow.low hwl
      have HF2 : Hid (foldU ((rs.map RE.r).take (k + 1)) = some (l'.map UE.u)) := by show _ = _; rw [HSt.out, ho, hmp]
      have HS2 : Hid (∀ u ∈ l'.map UE.u, u.zs.length ≤ (k + 1) * B) := fun u hu => by
        have h1 := oneU_zs ho HS.out u (by rw [← hmp]; exact hu)
        have h2 := HSg.out.1
        rw [Nat.add_mul, Nat.one_mul]
        omega
      have h10 : l'.length ≤ 10 := by
        have h1 := oneU_len ho
        have h2 := congrArg List.length hmp
        rw [List.length_map] at h1 h2
        omega
      clear hb1 ho hrow hmp HO HSt HSp HSg HS
      go_wp2_with fail
      go_roundw
      case rel => exact ⟨k + 1, l', by omega, by go_num, h10, HU, HF2, HS2, HB1⟩
      case measure => simp [intOf]; omega

end Go.Proofs.YtenkpgnkkkgdmauDoor

namespace Go.Proofs.YtenkpgnkkkgdmauDoor
open Go.RowKit
set_option linter.unusedVariables false

set_option maxRecDepth 10000 in
set_option maxHeartbeats 1600000 in
theorem specDok_any (a : Option Addr) (n ca : Nat) (xs : List ByteArray) (a' : Option Addr) (n' ca' : Nat) (ys : List ByteArray) (w : World) (h1 : Strs w a n xs) (h3 : Strs w a' n' ys) (hn : n ≤ 1099511627776) (hn' : n' ≤ 1099511627776) :
    Calls Tryd.prog 14 #[.agg #[.slice a n ca, .slice a' n' ca']] w fun e w' => e = .returned (.bool (okD xs ys)) ∧ Below w.heap.size w w' := by
  have HX : Hid (∀ W, Below w.heap.size w W → Strs W a n xs ∧ Strs W a' n' ys) := fun W h => ⟨h1.below h, h3.below h⟩
  have HL : Hid (xs.length = n ∧ ys.length = n') := ⟨h1.1, h3.1⟩
  have HM : Hid ((∀ x ∈ xs, x.size ≤ maxLen) ∧ (∀ x ∈ ys, x.size ≤ maxLen)) := ⟨h1.2.1, h3.2.1⟩
  clear h1 h3
  have HA : Hid (Box2R (w.alloc (Obj.cells #[Value.slice a n ca, Value.slice a' n' ca'] 26)) w.heap.size 26 (.slice a n ca) (.slice a' n' ca')) := Box2R.new _ _ _ _
  have HB : Hid (Below w.heap.size w (w.alloc (Obj.cells #[Value.slice a n ca, Value.slice a' n' ca'] 26))) := (Below.refl _ _).alloc (Nat.le_refl _) _
  by_cases hne : n = n'
  case neg =>
    have HF : Hid (okD xs ys = false) := okD_len (fun h => hne (by rw [← HL.out.1, ← HL.out.2]; exact h.1))
    have e1 : ((n : Int) != (n' : Int)) = true := by simp; omega
    go_enter Tryd.func14, Tryd.ntmps14
    go_wp2_with fail
    go_ret
    exact ⟨by rw [HF.out]; rfl, HB.out⟩
  subst hne
  have e1 : ((n : Int) != (n : Int)) = false := by simp
  by_cases hbig : 200 < n
  · have HF : Hid (okD xs ys = false) := okD_len (fun h => by have := HL.out; omega)
    go_enter Tryd.func14, Tryd.ntmps14
    go_wp2_with fail
    go_ret
    exact ⟨by rw [HF.out]; rfl, HB.out⟩
  go_enter Tryd.func14, Tryd.ntmps14
  go_wp2_with fail
  obtain ⟨w0, hw0⟩ : ∃ w0, w.alloc (Obj.cells #[Value.slice a n ca, Value.slice a' n ca'] 26) = w0 := ⟨_, rfl⟩
  rw [hw0] at HA HB ⊢
  clear hw0
  go_loopw [3] (fun i wr => ∃ k : Nat, k ≤ n ∧ i = .int .i64 (k : Int) ∧ Hid (Below w0.heap.size w0 wr) ∧ Hid (∀ (i : Nat) (x y : ByteArray), i < k → xs[i]? = some x → ys[i]? = some y → x.size ≤ 64 ∧ y.size ≤ 64)) (fun i _ => n - (intOf i).toNat)
  case atStart => exact ⟨0, Nat.zero_le _, rfl, Below.refl _ _, fun i x y h => by omega⟩
  case round =>
    obtain ⟨k, hk, rfl, HW, HG⟩ := hrel
    obtain ⟨c0, c1⟩ := (HA.out.stays HW.out).cells
    by_cases hlt : k < n
    · have hb := HB.out.trans (HW.out.mono HB.out.size)
      obtain ⟨p, po, x, rfl, _, hkx, hp⟩ := (HX.out _ hb).1.at hlt
      obtain ⟨q, qo, y, rfl, _, hky, hq⟩ := (HX.out _ hb).2.at hlt
      have HK : Hid (xs[k]? = some x ∧ ys[k]? = some y) := ⟨hkx, hky⟩
      have hxm : x.size ≤ maxLen := HM.out.1 x (List.mem_of_getElem? hkx)
      have hym : y.size ≤ maxLen := HM.out.2 y (List.mem_of_getElem? hky)
      have hmm : maxLen < 9223372036854775808 := by decide
      clear hkx hky hb
      have hki : (k : Int) < (n : Int) := by omega
      have hk0 : (0 : Int) ≤ (k : Int) := by omega
      by_cases hx : 64 < x.size
      · have HF : Hid (okD xs ys = false) := okD_bad HK.out.1 HK.out.2 (.inl hx)
        go_wp2_with fail
        go_ret
        exact ⟨by rw [HF.out]; rfl, HB.out.trans (HW.out.mono HB.out.size)⟩
      by_cases hy : 64 < y.size
      · have HF : Hid (okD xs ys = false) := okD_bad HK.out.1 HK.out.2 (.inr hy)
        go_wp2_with fail
        go_ret
        exact ⟨by rw [HF.out]; rfl, HB.out.trans (HW.out.mono HB.out.size)⟩
      have HG2 : Hid (∀ (i : Nat) (x y : ByteArray), i < k + 1 → xs[i]? = some x → ys[i]? = some y → x.size ≤ 64 ∧ y.size ≤ 64) := by
        intro i x' y' hi h1 h2
        by_cases hik : i = k
        · subst hik
          rw [HK.out.1] at h1
          rw [HK.out.2] at h2
          injection h1 with h1
          injection h2 with h2
          subst h1 h2
          exact ⟨by omega, by omega⟩
        · exact HG.out i x' y' (by omega) h1 h2
      clear HG
      go_wp2_with fail
      go_roundw
      case rel => exact ⟨k + 1, by omega, by go_num, HW, HG2⟩
      case measure => simp [intOf]; omega
    · have HF : Hid (okD xs ys = true) := okD_good (by have := HL.out; omega) (by have := HL.out; omega) (fun i x y h1 h2 => HG.out i x y (by have := HL.out; have := (List.getElem?_eq_some_iff.1 h1).1; omega) h1 h2)
      clear HG
      go_wp2_with fail
      go_ret
      exact ⟨by rw [HF.out]; rfl, HB.out.trans (HW.out.mono HB.out.size)⟩

end Go.Proofs.YtenkpgnkkkgdmauDoor

namespace Go.Proofs.YtenkpgnkkkgdmauDoor
open Go.RowKit
set_option linter.unusedVariables false

set_option maxHeartbeats 400000 in
theorem l1In_yes (x lo hi : Int) (w : World) (h1 : lo ≤ x) (h2 : x ≤ hi) : Calls Tryd.prog 62 #[.int .i64 x, .int .i64 lo, .int .i64 hi] w fun e w' => e = .returned (.bool true) ∧ w' = w := by
  go_enter Tryd.func62, Tryd.ntmps62
  go_wp2
  go_ret
  exact ⟨rfl, rfl⟩

set_option maxHeartbeats 400000 in
theorem l1In_no (x lo hi : Int) (w : World) (h : x < lo ∨ hi < x) : Calls Tryd.prog 62 #[.int .i64 x, .int .i64 lo, .int .i64 hi] w fun e w' => e = .returned (.bool false) ∧ w' = w := by
  by_cases h1 : x < lo
  · clear h
    go_enter Tryd.func62, Tryd.ntmps62
    go_wp2
    go_ret
    exact ⟨rfl, rfl⟩
  · have h2 : hi < x := by omega
    clear h
    go_enter Tryd.func62, Tryd.ntmps62
    go_wp2
    go_ret
    exact ⟨ret_bool (by simp; omega), rfl⟩

theorem l1In_any (x lo hi : Int) (w : World) : Calls Tryd.prog 62 #[.int .i64 x, .int .i64 lo, .int .i64 hi] w fun e w' => e = .returned (.bool (decide (lo ≤ x ∧ x ≤ hi))) ∧ w' = w := by
  by_cases h : lo ≤ x ∧ x ≤ hi
  · rw [decide_eq_true h]
    exact l1In_yes x lo hi w h.1 h.2
  · rw [decide_eq_false h]
    exact l1In_no x lo hi w (by omega)

end Go.Proofs.YtenkpgnkkkgdmauDoor
