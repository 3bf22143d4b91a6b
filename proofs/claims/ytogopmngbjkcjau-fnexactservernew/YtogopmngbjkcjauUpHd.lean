/- The marks of a row of uploads, asked for. -/
import Derived.Test.YtogopmngbjkcjauUpMk
import Derived.Test.YtogopmngbjkcjauQuietB
namespace Go.Proofs.Ytogopmngbjkcjau
open Go.RowKit
set_option linter.unusedVariables false

theorem held_intU (base : Nat) (a : Option Addr) (n cap k : Nat) (kk : Int) (w : World) (h : Owns w base a n cap (marks k n)) (hn : n ≤ 2199023255552) (hk : k ≤ 2199023255552) (hkk : kk = (k : Int)) :
    Calls Try.prog 32 #[.slice a n cap, .int .i64 kk] w fun e w' => e = .returned (.int .i64 ((k + n : Nat) : Int)) ∧ w' = w := by
  subst hkk
  exact held_any base a n cap k w h hn hk

set_option maxRecDepth 10000 in
set_option maxHeartbeats 3200000 in
theorem heldUpS_any (base : Nat) (a : Option Addr) (n cap k : Nat) (l : List UE) (w : World) (h : UpRow w base (.slice a n cap) (mkUp k l)) (hn : l.length = n) (hk : mkUEnd k l ≤ 2199023255552) (hnb : n ≤ 1099511627776) :
    Calls Try.prog 52 #[.slice a n cap, .int .i64 (k : Int)] w fun e w' => e = .returned (.int .i64 (mkUEnd k l : Int)) ∧ Below w.heap.size w w' := by
  have HO : Hid (UpRow w base (.slice a n cap) (mkUp k l)) := h
  have HN : Hid (l.length = n) := hn
  have HK : Hid (mkUEnd k l ≤ 2199023255552) := hk
  clear h hn hk
  go_enter Try.func52, Try.ntmps52
  go_wp2
  go_loopw [1, 5] (fun v i wr => ∃ j : Nat, j ≤ n ∧ i = .int .i64 j ∧ v = .int .i64 (mkUEnd k (l.take j) : Int) ∧ Hid (Below w.heap.size w wr)) (fun _ i _ => n - (intOf i).toNat)
  case atStart => exact ⟨0, Nat.zero_le _, rfl, rfl, Below.refl _ _⟩
  case round =>
    obtain ⟨j, hj, rfl, rfl, HW⟩ := hrel
    by_cases hlt : j < n
    · have hjl : j < l.length := by have := HN.out; omega
      have ht : l.take (j + 1) = l.take j ++ [l[j]] := List.take_succ_eq_append_getElem hjl
      have hml : (mkUp k (l.take j)).length = j := by rw [mkUp_len, List.length_take]; omega
      have HEnd : Hid (mkUEnd k (l.take (j + 1)) = mkUEnd k (l.take j) + 3 + (l[j]).n) := by show _ = _; rw [ht, mkUEnd_append]; rfl
      have hKb : mkUEnd k (l.take j) + 3 + (l[j]).n ≤ 2199023255552 := by
        have h1 := HK.out
        rw [← List.take_append_drop (j + 1) l, mkUEnd_append] at h1
        have h2 := mkUEnd_ge (mkUEnd k (l.take (j + 1))) (l.drop (j + 1))
        have h3 := HEnd.out
        omega
      have hFr : mkUp k l = mkUp k (l.take j) ++ mkU1 (mkUEnd k (l.take j)) (l[j]) :: mkUp (mkUEnd k (l.take j) + 3 + (l[j]).n) (l.drop (j + 1)) := by
        have hd : l = l.take j ++ l[j] :: l.drop (j + 1) := by rw [← List.drop_eq_getElem_cons hjl]; exact (List.take_append_drop j l).symm
        rw [show mkUp k l = mkUp k (l.take j ++ l[j] :: l.drop (j + 1)) from congrArg (mkUp k) hd, mkUp_append]
        rfl
      have hlen : (mkUp k l).length = n := by rw [mkUp_len]; exact HN.out
      have hge : (mkUp k l)[j]'(by omega) = mkU1 (mkUEnd k (l.take j)) (l[j]) := by
        have h1 : (mkUp k l)[j]? = some (mkU1 (mkUEnd k (l.take j)) (l[j])) := by
          rw [hFr, List.getElem?_append_right (by omega), hml, Nat.sub_self]
          rfl
        rw [List.getElem?_eq_getElem (by omega)] at h1
        exact Option.some.inj h1
      have HAt : Hid (∀ W, Below w.heap.size w W → ∃ g, a = some ⟨g, 0, none⟩ ∧ W.cell? ⟨g, j * 4, none⟩ = some (.string (mt (mkUEnd k (l.take j)))) ∧ W.cell? ⟨g, j * 4 + 1, none⟩ = some (.int .i64 ((mkUEnd k (l.take j) : Int) + 1)) ∧ W.cell? ⟨g, j * 4 + 2, none⟩ = some (.slice (l[j]).a (l[j]).n (l[j]).c) ∧ W.cell? ⟨g, j * 4 + 3, none⟩ = some (.bool (mbU (mkUEnd k (l.take j) + 2 + (l[j]).n))) ∧ Owns W base (l[j]).a (l[j]).n (l[j]).c (marks (mkUEnd k (l.take j) + 2) (l[j]).n)) := fun W hb => by
        have hO := HO.out.stays hb
        have hat := hO.at hlen.symm (i := j) (by omega)
        have hin := hO.2.1 ((mkUp k l)[j]'(by omega)) (List.getElem_mem _)
        rw [hge] at hat hin
        obtain ⟨g, h1, h2, h3, h4, h5, _⟩ := hat
        exact ⟨g, h1, h2, h3, h4, h5, hin⟩
      clear hge hFr ht hml hlen
      generalize mkUEnd k (l.take j) = K at *
      generalize l[j] = e at *
      obtain ⟨r, ea, en, ec⟩ := e
      dsimp only at *
      obtain ⟨g, rfl, _⟩ := HAt.out _ HW.out
      have hKi : (K : Int) ≤ 2199023255552 := by omega
      have hji : (j : Int) < (n : Int) := by omega
      have hj0 : (0 : Int) ≤ (j : Int) := by omega
      have hC : ∀ P : Past wr, P.world.cell? ⟨g, j * 4, none⟩ = some (.string (mt K)) := fun P => by
        obtain ⟨g', hg, h1, _⟩ := HAt.out _ (HW.out.trans (P.below.mono HW.out.size))
        injection hg with hg
        injection hg with hg
        subst hg
        exact h1
      have HTx : Hid (∀ P : Past wr, Calls Try.prog 47 #[.int .i64 (K : Int)] P.world fun e w' => e = .returned (.string (mt K)) ∧ Below P.world.heap.size P.world w') := fun P => markText_any K P.world (by omega)
      have hnp := past_some wr
      generalize mt K = T3 at *
      have n3 : (T3.toList != T3.toList) = false := by simp
      go_wp2_with fail
      refine wp_region_past (by kernel_rfl) (by kernel_rfl) ?_
      repeat (quiet_step ((first | (go_at_call 47; with_reducible exact calls_past (HTx.out _)) | fail)))
      refine wpQuiet_nil ?_
      rintro _ ⟨z, rfl⟩
      have HB2 : Hid (Below w.heap.size w z.world) := HW.out.trans (z.below.mono HW.out.size)
      obtain ⟨x1, hx1⟩ : ∃ x1, z.world = x1 := ⟨_, rfl⟩
      rw [hx1] at HB2 ⊢
      clear hx1 z hnp hC HTx HW
      obtain ⟨g', hg, _, c1, c2, c3, ho⟩ := HAt.out _ HB2.out
      injection hg with hg
      injection hg with hg
      subst hg
      have HE : Hid (Owns x1 base ea en ec (marks (K + 2) en)) := ho
      have n1 : ((K : Int) + 1 != (K : Int) + 1) = false := by simp
      clear ho HAt
      go_wp2_with fail
      refine (held_intU base ea en ec (K + 2) _ _ HE.out (by omega) (by omega) (by omega)).mono ?_
      rintro _ x1 ⟨rfl, rfl⟩
      obtain ⟨K4, hK4⟩ : ∃ K4, K + 2 + en = K4 := ⟨_, rfl⟩
      have HK4 : Hid (K + 2 + en = K4) := hK4
      rw [hK4] at c3 ⊢
      have hmb := mbU_is K4
      have hK4i : (K4 : Int) ≤ 2199023255552 := by omega
      have hK4p : ¬ (K4 : Int) < 0 := by omega
      have n4 : (mbU K4 != mbU K4) = false := by simp
      clear hK4
      go_wp2
      go_roundw
      case rel =>
        refine ⟨j + 1, by omega, by go_num, ?_, HB2⟩
        rw [HEnd.out]
        have := HK4.out
        go_num
      case measure => simp [intOf]; omega
    · have hjn : j = n := by omega
      subst hjn
      have hl := HN.out
      have HE : Hid (mkUEnd k (l.take j) = mkUEnd k l) := by show _ = _; rw [List.take_of_length_le (by omega)]
      generalize mkUEnd k (l.take j) = K at *
      go_wp2
      go_ret
      exact ⟨ret_int (by rw [HE.out]), HW.out⟩

end Go.Proofs.Ytogopmngbjkcjau
