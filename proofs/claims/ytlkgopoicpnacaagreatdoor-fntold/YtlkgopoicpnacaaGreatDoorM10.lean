/- What the specification's FoldRecs answers. Bytes as a text, wherever they stand. -/
import Derived.Test.YtlkgopoicpnacaaGreatDoorM09
import Derived.Test.YtlkgopoicpnacaaGreatDoorM05
import Derived.Test.YtlkgopoicpnacaaGreatDoorM05
import Derived.Test.YtlkgopoicpnacaaGreatDoorM07
namespace Go.Proofs.YtlkgopoicpnacaaGreatDoor
open Go.RowKit
set_option linter.unusedVariables false

set_option maxRecDepth 10000 in
set_option maxHeartbeats 1600000 in
theorem specFold_any (a : Option Addr) (n c lo : Nat) (rs : List RE) (B : Nat) (w : World) (h : RcRow w lo (.slice a n c) rs) (hn : n = rs.length) (hl : n ≤ 1099511627776) (hB : ∀ e ∈ rs, e.n ≤ B) (hnB : n * B ≤ 1099511627776) (hB2 : B ≤ 1099511627776) :
    Calls Tryz.prog 76 #[.slice a n c] w fun e w' => (∃ x l', e = .returned (.tuple #[x, .bool (foldU (rs.map RE.r)).isSome]) ∧ UpRow w' w.heap.size x l' ∧ l'.map UE.u = (foldU (rs.map RE.r)).getD [] ∧ l'.length ≤ 10) ∧ Below w.heap.size w w' := by
  have HX : Hid (∀ W, Below w.heap.size w W → RcRow W lo (.slice a n c) rs) := fun W hb => h.stays hb
  have HN : Hid (n = rs.length) := hn
  have HB : Hid (∀ e ∈ rs, e.n ≤ B) := hB
  clear h hn hB
  have HO0 : Hid (UpRow (w.alloc (.cells #[] 64)) w.heap.size (.slice (some ⟨w.heap.size, 0, none⟩) 0 0) []) := UpRow.nil w
  have HB0 : Hid (Below w.heap.size w (w.alloc (.cells #[] 64))) := (Below.refl _ _).alloc (Nat.le_refl _) _
  go_enter Tryz.func76, Tryz.ntmps76
  go_wp2_with fail
  go_loopw [4, 5] (fun v i wr => ∃ (k : Nat) (l : List UE), k ≤ n ∧ i = .int .i64 (k : Int) ∧ l.length ≤ 10 ∧ Hid (UpRow wr w.heap.size v l) ∧ Hid (foldU ((rs.map RE.r).take k) = some (l.map UE.u)) ∧ Hid (∀ u ∈ l.map UE.u, u.zs.length ≤ k * B) ∧ Hid (Below w.heap.size w wr)) (fun _ i _ => n - (intOf i).toNat)
  case atStart => exact ⟨0, [], Nat.zero_le _, rfl, Nat.zero_le _, HO0, rfl, (fun u hu => absurd hu (by simp)), HB0⟩
  case round =>
    clear HO0 HB0
    obtain ⟨k, l, hk, rfl, hl10, HO, HF, HS, HW⟩ := hrel
    obtain ⟨va, vc, hve⟩ := HO.out.shape
    subst hve
    by_cases hlt : k < n
    case neg =>
      obtain rfl : k = n := by omega
      have HE : Hid (foldU (rs.map RE.r) = some (l.map UE.u)) := by show _ = _; rw [← HF.out, List.take_of_length_le (by rw [List.length_map, HN.out]; exact Nat.le_refl _)]
      clear HF HS
      go_wp2_with fail
      go_ret2
      exact ⟨⟨_, l, by rw [HE.out]; rfl, HO.out, by rw [HE.out]; rfl, hl10⟩, HW.out⟩
    have hkl : k < rs.length := by rw [← HN.out]; exact hlt
    have hki : (k : Int) < (n : Int) := by omega
    have hk0 : (0 : Int) ≤ (k : Int) := by omega
    have hkB : k * B ≤ 1099511627776 := Nat.le_trans (Nat.mul_le_mul_right _ hk) hnB
    obtain ⟨g, rfl, g0, g1, g2, g3, g4, g5, _⟩ := (HX.out _ HW.out).at HN.out hkl
    have HSg : Hid (Seg wr (rs[k]).a (rs[k]).n (rs[k]).r.zs) := ((HX.out _ HW.out).2.1 (rs[k]) (List.getElem_mem hkl)).seg
    have hen : (rs[k]).n ≤ B := HB.out _ (List.getElem_mem hkl)
    have HSt : Hid (foldU ((rs.map RE.r).take (k + 1)) = oneU (l.map UE.u) (rs[k]).r) := by
      show _ = _
      rw [foldU_step (rs.map RE.r) k (rs[k]).r (by rw [List.getElem?_map, List.getElem?_eq_getElem hkl]; rfl), HF.out]
      rfl
    have HSp : Hid (foldU ((rs.map RE.r).take (k + 1)) = none → foldU (rs.map RE.r) = none) := foldU_stop _ _
    generalize rs[k] = e at *
    have HZl : Hid (∀ x ∈ l, x.n ≤ 1099511627776) := fun x hx => by
      have h1 := (HO.out.2.1 x hx).seg.1
      have h2 := HS.out x.u (List.mem_map_of_mem hx)
      omega
    have hen2 : e.n ≤ 1099511627776 := by omega
    clear HF
    go_wp2_with fail
    refine (specOne_any va l.length vc w.heap.size l e.r e.a e.n e.c wr HO.out rfl (by omega) HZl.out HSg.out hen2).mono ?_
    rintro _ x1 ⟨⟨v1, rfl, hans⟩, hb1⟩
    have HB1 : Hid (Below w.heap.size w x1) := HW.out.trans (hb1.mono HW.out.size)
    have hwl : w.heap.size ≤ wr.heap.size := HW.out.size
    cases ho : oneU (l.map UE.u) e.r with
    | none =>
      rw [ho] at hans
      obtain ⟨x, rfl⟩ := hans
      have HE : Hid (foldU (rs.map RE.r) = none) := HSp.out (by rw [HSt.out]; exact ho)
      have HU : Hid (UpRow (x1.alloc (.cells #[] 64)) w.heap.size (.slice (some ⟨x1.heap.size, 0, none⟩) 0 0) []) := (UpRow.nil x1).low (by have := HB1.out.size; omega)
      have HBf : Hid (Below w.heap.size w (x1.alloc (.cells #[] 64))) := HB1.out.alloc HB1.out.size _
      clear hb1 ho HO HSt HSp HSg HS
      go_wp2_with fail
      go_ret2
      exact ⟨⟨_, [], by rw [HE.out]; rfl, HU.out, by rw [HE.out]; rfl, Nat.zero_le _⟩, HBf.out⟩
    | some L =>
      rw [ho] at hans
      obtain ⟨x, l', rfl, hrow, hmp⟩ := hans
      have HU : Hid (UpRow x1 w.heap.size x l') := hrow.low hwl
      have HF2 : Hid (foldU ((rs.map RE.r).take (k + 1)) = some (l'.map UE.u)) := by show _ = _; rw [HSt.out, ho, hmp]
      have HS2 : Hid (∀ u ∈ l'.map UE.u, u.zs.length ≤ (k + 1) * B) := fun u hu => by
        have h1 := oneU_zs ho HS.out u (by rw [← hmp]; exact hu)
        have h2 := HSg.out.1
        rw [Nat.add_mul, Nat.one_mul]
        omega
      have h10 : l'.length ≤ 10 := by
        have h1 := oneU_len ho
        have h2 := congrArg List.length hmp
        rw [List.length_map] at h1 h2
        omega
      clear hb1 ho hrow hmp HO HSt HSp HSg HS
      go_wp2_with fail
      go_roundw
      case rel => exact ⟨k + 1, l', by omega, by go_num, h10, HU, HF2, HS2, HB1⟩
      case measure => simp [intOf]; omega

end Go.Proofs.YtlkgopoicpnacaaGreatDoor

namespace Go.Proofs.YtlkgopoicpnacaaGreatDoor
open Go.RowKit
set_option linter.unusedVariables false

theorem conv_bytes {W : World} {a : Option Addr} {M c : Nat} {zs : List Int} (h : Seg W a M zs) : (convert 22 9 (.slice a M c)).run Tryz.prog W = .ok (.string (txU zs)) W := by
  rcases h.2.2 with h0 | ⟨b, off, e, _⟩
  · subst h0
    obtain rfl : zs = [] := List.eq_nil_of_length_eq_zero h.1
    cases a with
    | none => simp [go_sem, convert, txU, Conv.bytesToString, loadCells]; rfl
    | some ad => simp [go_sem, convert, txU, Conv.bytesToString, loadCells]; rfl
  · subst e
    exact conv_txt_at h

theorem txU_same {xs ys : List Int} (hx : ∀ z ∈ xs, 0 ≤ z ∧ z ≤ 255) (hy : ∀ z ∈ ys, 0 ≤ z ∧ z ≤ 255) : txU xs = txU ys ↔ xs = ys :=
  ⟨fun h => by rw [← txI_txU xs hx, h, txI_txU ys hy], fun h => by rw [h]⟩

end Go.Proofs.YtlkgopoicpnacaaGreatDoor
