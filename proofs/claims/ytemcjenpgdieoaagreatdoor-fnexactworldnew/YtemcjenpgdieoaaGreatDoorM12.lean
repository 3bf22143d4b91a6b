/- What the program's idOk answers: whether a text is an upload's name. What the program's ClientOk answers. What the program's clientsOk answers. What the program's RespOk answers. What the program's ServerOk asks of the answers that wait. What the specification's RespOk answers. -/
import Derived.Test.YtemcjenpgdieoaaGreatDoorM10
import Derived.Lib.ConvBytes
import Derived.Lib.AtoiErrMem
import Derived.Lib.Strings
import Derived.WalkKit
import Derived.Test.YtemcjenpgdieoaaGreatDoorM03
import Derived.Deep.CutBlock
import Derived.Test.YtemcjenpgdieoaaGreatDoorM11
import Derived.Test.YtemcjenpgdieoaaGreatDoorM05
import Derived.Test.YtemcjenpgdieoaaGreatDoorM07
namespace Go.Proofs.YtemcjenpgdieoaaGreatDoor
open Go.RowKit
set_option linter.unusedVariables false

theorem data_at (s : ByteArray) (k : Nat) (h : k < s.size) : s.data.toList.getD k 0 = s[k] := by
  have h2 : k < s.data.toList.length := by rw [Array.length_toList]; exact h
  rw [List.getD, List.getElem?_eq_getElem h2, Option.getD_some, Array.getElem_toList]
  rfl

theorem data_get (s : ByteArray) (k : Nat) (h : k < s.size) : s.data.toList[k]'(by rw [Array.length_toList]; exact h) = s[k] := by
  rw [Array.getElem_toList]
  rfl

theorem ret_bool' {a b : Bool} (h : a = b) : Ending.returned (.bool a) = .returned (.bool b) := by rw [h]

set_option maxRecDepth 10000 in
set_option maxHeartbeats 800000 in
theorem implId_any (s : ByteArray) (w : World) (hm : s.size ≤ 9223372036854775807) :
    Calls Tryz.prog 86 #[.string s] w fun e w' => e = .returned (.bool (idB s.data.toList)) ∧ Below w.heap.size w w' := by
  have HL : Hid (s.data.toList.length = s.size) := Array.length_toList
  by_cases hsz : 1 ≤ s.size ∧ s.size ≤ 8
  case neg =>
    have HF : Hid (idB s.data.toList = false) := idB_long (by rw [HL.out]; exact hsz)
    by_cases h0 : s.size < 1
    · have hi : (s.size : Int) < 1 := by omega
      clear hsz
      go_enter Tryz.func86, Tryz.ntmps86
      go_wp2_with fail
      go_ret
      exact ⟨ret_bool' HF.out.symm, Below.refl _ _⟩
    · have hi : ¬ (s.size : Int) < 1 := by omega
      have hj : (8 : Int) < (s.size : Int) := by omega
      clear hsz
      go_enter Tryz.func86, Tryz.ntmps86
      go_wp2_with fail
      go_ret
      exact ⟨ret_bool' HF.out.symm, Below.refl _ _⟩
  obtain ⟨hs1, hs8⟩ := hsz
  have hi : ¬ (s.size : Int) < 1 := by omega
  have hj : ¬ (8 : Int) < (s.size : Int) := by omega
  have hcv := Lib.run_convert_string_bytes (P := Tryz.prog) w 9 47 5 s (u := .string) Tryz.underlying9 Tryz.underlying47 Tryz.underlying5
  have HC : Hid (∀ j (hj : j < s.size), (Lib.bytesWorld w 5 s).cell? ⟨w.heap.size, j, none⟩ = some (.int .u8 (s[j].toNat : Int))) := fun j hj => by rw [Lib.bytesWorld_cell w 5 s j hj, data_at s j hj]
  have HB : Hid (Below w.heap.size w (Lib.bytesWorld w 5 s)) := Lib.bytesWorld_below w 5 s
  obtain ⟨W1, hW1⟩ : ∃ W1, Lib.bytesWorld w 5 s = W1 := ⟨_, rfl⟩
  rw [hW1] at hcv HC HB
  clear hW1
  go_enter Tryz.func86, Tryz.ntmps86
  go_wp2_with fail
  go_loop [16] (fun v => ∃ k : Nat, k ≤ s.size ∧ v = .int .i64 k ∧ Hid (∀ j (hj : j < s.data.toList.length), j < k → idC s.data.toList[j] = true)) (fun v => s.size - (intOf v).toNat)
  case atStart => exact ⟨0, Nat.zero_le _, rfl, fun j _ hj => absurd hj (Nat.not_lt_zero _)⟩
  case round =>
    obtain ⟨k, hk, rfl, HN⟩ := hrel
    by_cases hlt : k < s.size
    · have hki : (k : Int) < (s.size : Int) := by omega
      have hc := HC.out k hlt
      have hc0 : (0 : Int) ≤ (s[k].toNat : Int) := by omega
      have hc1 : (s[k].toNat : Int) ≤ 255 := by have := s[k].toNat_lt; omega
      have HA : Hid (idC (s.data.toList[k]'(by rw [Array.length_toList]; exact hlt)) = ((decide (97 ≤ s[k].toNat) && decide (s[k].toNat ≤ 122)) || (decide (48 ≤ s[k].toNat) && decide (s[k].toNat ≤ 57)))) := by show _ = _; rw [data_get s k hlt, idC]
      have HG : Hid (idC (s.data.toList[k]'(by rw [Array.length_toList]; exact hlt)) = true → ∀ j (hj : j < s.data.toList.length), j < k + 1 → idC s.data.toList[j] = true) := fun h j hj hjk => by
        by_cases e : j = k
        · subst e; exact h
        · exact HN.out j hj (by omega)
      have HBd : Hid (idC (s.data.toList[k]'(by rw [Array.length_toList]; exact hlt)) = false → idB s.data.toList = false) := fun h => idB_bad (by rw [Array.length_toList]; exact hlt) h
      have HS : Hid (idC (s.data.toList[k]'(by rw [Array.length_toList]; exact hlt)) = true ∧ ((97 ≤ (s[k].toNat : Int) ∧ (s[k].toNat : Int) ≤ 122) ∨ (48 ≤ (s[k].toNat : Int) ∧ (s[k].toNat : Int) ≤ 57)) ∨ idC (s.data.toList[k]'(by rw [Array.length_toList]; exact hlt)) = false ∧ ¬ (97 ≤ (s[k].toNat : Int) ∧ (s[k].toNat : Int) ≤ 122) ∧ ¬ (48 ≤ (s[k].toNat : Int) ∧ (s[k].toNat : Int) ≤ 57)) := by
        show _ ∨ _
        rw [HA.out]
        by_cases h1 : 97 ≤ s[k].toNat ∧ s[k].toNat ≤ 122
        · exact .inl ⟨by rw [decide_eq_true h1.1, decide_eq_true h1.2]; rfl, .inl (by omega)⟩
        · by_cases h2 : 48 ≤ s[k].toNat ∧ s[k].toNat ≤ 57
          · exact .inl ⟨by rw [decide_eq_true h2.1, decide_eq_true h2.2]; simp, .inr (by omega)⟩
          · refine .inr ⟨?_, by omega, by omega⟩
            rw [Bool.or_eq_false_iff, Bool.and_eq_false_iff, Bool.and_eq_false_iff]
            simp only [decide_eq_false_iff_not]
            omega
      clear HA HC HN
      generalize (s[k].toNat : Int) = c at *
      rcases HS.out with ⟨hok, hr⟩ | ⟨hno, hr1, hr2⟩
      · have HT : Hid (∀ j (hj : j < s.data.toList.length), j < k + 1 → idC s.data.toList[j] = true) := HG.out hok
        clear HG HBd HS hok
        rcases hr with ⟨r1, r2⟩ | ⟨r1, r2⟩
        · have q1 : ¬ c < 97 := by omega
          have q2 : ¬ (122 : Int) < c := by omega
          go_wp2_with fail
          go_round
          case rel => exact ⟨k + 1, by omega, by go_num, HT⟩
          case measure => simp [intOf]; omega
        · have q1 : c < 97 := by omega
          have q3 : ¬ c < 48 := by omega
          have q4 : ¬ (57 : Int) < c := by omega
          go_wp2_with fail
          go_round
          case rel => exact ⟨k + 1, by omega, by go_num, HT⟩
          case measure => simp [intOf]; omega
      · have HF : Hid (idB s.data.toList = false) := HBd.out hno
        clear HG HBd HS hno
        by_cases q1 : c < 97
        · by_cases q3 : c < 48
          · clear hr1 hr2
            go_wp2_with fail
            go_ret
            exact ⟨ret_bool' HF.out.symm, HB.out⟩
          · have q4 : (57 : Int) < c := by omega
            clear hr1 hr2
            go_wp2_with fail
            go_ret
            exact ⟨ret_bool' HF.out.symm, HB.out⟩
        · have q2 : (122 : Int) < c := by omega
          have q3 : ¬ c < 48 := by omega
          have q4 : (57 : Int) < c := by omega
          clear hr1 hr2
          go_wp2_with fail
          go_ret
          exact ⟨ret_bool' HF.out.symm, HB.out⟩
    · have hkl : k = s.size := by omega
      subst hkl
      have HE : Hid (idB s.data.toList = true) := by
        show _ = _
        rw [idB_good fun j hj => HN.out j hj (by rw [HL.out] at hj; exact hj), HL.out, decide_eq_true_eq]
        omega
      clear HN
      go_wp2_with fail
      go_ret
      exact ⟨ret_bool' HE.out.symm, HB.out⟩

end Go.Proofs.YtemcjenpgdieoaaGreatDoor

namespace Go.Proofs.YtemcjenpgdieoaaGreatDoor
open Go.RowKit
set_option linter.unusedVariables false

set_option maxRecDepth 10000 in
set_option maxHeartbeats 1600000 in
theorem implClOk_any (id : ByteArray) (a : Option Addr) (n ca : Nat) (st off : Int) (w : World) (hi : id.size ≤ maxLen) (hn : n ≤ 1099511627776) :
    Calls Tryz.prog 90 #[.agg #[.string id, .slice a n ca, .int .i64 st, .int .i64 off]] w fun e w' => e = .returned (.bool (okC id n st off)) ∧ Below w.heap.size w w' := by
  have HI : Hid (okC id n st off = true ↔ idB id.data.toList = true ∧ n ≤ 400 ∧ (1 ≤ st ∧ st ≤ 6) ∧ 0 ≤ off ∧ off ≤ (n : Int)) := okC_iff
  have hmm : maxLen < 9223372036854775808 := by decide
  obtain ⟨w0, hw0⟩ : ∃ w0, w.alloc (.cells #[.string id, .slice a n ca, .int .i64 st, .int .i64 off] 51) = w0 := ⟨_, rfl⟩
  have HE : Hid (w.alloc (.cells #[.string id, .slice a n ca, .int .i64 st, .int .i64 off] 51) = w0) := hw0
  have HQ0 : Hid (BoxN w0 w.heap.size 51 [.string id, .slice a n ca, .int .i64 st, .int .i64 off]) := by show BoxN _ _ _ _; rw [← hw0]; exact BoxN.new _ _ _
  have HB : Hid (Below w.heap.size w w0) := by show Below _ _ _; rw [← hw0]; exact (Below.refl _ _).alloc (Nat.le_refl _) _
  clear hw0
  obtain ⟨c0, c1, c2, c3⟩ := (show _ ∧ _ ∧ _ ∧ _ from ⟨HQ0.out.cell 0 rfl, HQ0.out.cell 1 rfl, HQ0.out.cell 2 rfl, HQ0.out.cell 3 rfl⟩)
  go_enter Tryz.func90, Tryz.ntmps90
  go_upto_region 1 with fail
  rw [HE.out]
  clear HE
  go_wp2_with fail
  refine (implId_any id _ (by omega)).mono ?_
  rintro e w2 ⟨rfl, hb2⟩
  have HB2 : Hid (Below w.heap.size w w2) := HB.out.trans (hb2.mono HB.out.size)
  have HQ2 : Hid (BoxN w2 w.heap.size 51 [.string id, .slice a n ca, .int .i64 st, .int .i64 off]) := HQ0.out.stays hb2
  clear hb2 HB HQ0 c0 c1 c2 c3
  obtain ⟨c0, c1, c2, c3⟩ := (show _ ∧ _ ∧ _ ∧ _ from ⟨HQ2.out.cell 0 rfl, HQ2.out.cell 1 rfl, HQ2.out.cell 2 rfl, HQ2.out.cell 3 rfl⟩)
  by_cases hb1 : idB id.data.toList = true
  case neg =>
    have HF : Hid (okC id n st off = false) := by show _ = _; rw [Bool.eq_false_iff]; intro h; exact hb1 (HI.out.1 h).1
    rw [Bool.not_eq_true] at hb1
    rw [hb1]
    clear hb1
    go_wp2_with fail
    go_ret
    exact ⟨ret_bool' HF.out.symm, HB2.out⟩
  have HB1 : Hid (idB id.data.toList = true) := hb1
  rw [hb1]
  clear hb1
  by_cases q0 : n ≤ 400
  case neg =>
    have HF : Hid (okC id n st off = false) := by show _ = _; rw [Bool.eq_false_iff]; intro h; have := HI.out.1 h; omega
    have g0 : ¬ (n : Int) ≤ 400 := by omega
    clear q0
    go_wp2_with fail
    go_ret
    exact ⟨ret_bool' HF.out.symm, HB2.out⟩
  have g0 : (n : Int) ≤ 400 := by omega
  by_cases q1 : 1 ≤ st
  case neg =>
    have HF : Hid (okC id n st off = false) := by show _ = _; rw [Bool.eq_false_iff]; intro h; have := HI.out.1 h; omega
    have g1 : ¬ (1 : Int) ≤ st := by omega
    clear q1
    go_wp2_with fail
    go_ret
    exact ⟨ret_bool' HF.out.symm, HB2.out⟩
  have g1 : (1 : Int) ≤ st := by omega
  by_cases q2 : st ≤ 6
  case neg =>
    have HF : Hid (okC id n st off = false) := by show _ = _; rw [Bool.eq_false_iff]; intro h; have := HI.out.1 h; omega
    have g2 : ¬ st ≤ 6 := by omega
    clear q2
    go_wp2_with fail
    go_ret
    exact ⟨ret_bool' HF.out.symm, HB2.out⟩
  have g2 : st ≤ 6 := by omega
  by_cases q3 : 0 ≤ off
  case neg =>
    have HF : Hid (okC id n st off = false) := by show _ = _; rw [Bool.eq_false_iff]; intro h; have := HI.out.1 h; omega
    have g3 : ¬ (0 : Int) ≤ off := by omega
    clear q3
    go_wp2_with fail
    go_ret
    exact ⟨ret_bool' HF.out.symm, HB2.out⟩
  have g3 : (0 : Int) ≤ off := by omega
  by_cases q4 : off ≤ (n : Int)
  case neg =>
    have HF : Hid (okC id n st off = false) := by show _ = _; rw [Bool.eq_false_iff]; intro h; have := HI.out.1 h; omega
    have g4 : ¬ off ≤ (n : Int) := by omega
    clear q4
    go_wp2_with fail
    go_ret
    exact ⟨ret_bool' (by simp [HF.out, g4]), HB2.out⟩
  have g4 : off ≤ (n : Int) := by omega
  have HF : Hid (okC id n st off = true) := HI.out.2 ⟨HB1.out, q0, ⟨q1, q2⟩, q3, q4⟩
  clear q0 q1 q2 q3 q4
  go_wp2_with fail
  go_ret
  exact ⟨ret_bool' (by simp [HF.out]), HB2.out⟩

end Go.Proofs.YtemcjenpgdieoaaGreatDoor

namespace Go.Proofs.YtemcjenpgdieoaaGreatDoor
open Go.RowKit
set_option linter.unusedVariables false

theorem ClRow.len {W : World} {base : Nat} {v : Value} {l : List CE} (h : ClRow W base v l) : ∀ e ∈ l, e.n = e.u.zs.length := fun e he => ((h.2.1 e he).seg.1).symm

/-- The first clients of a row. -/
theorem ClRow.first {W : World} {base n c k : Nat} {a : Option Addr} {l : List CE} (h : ClRow W base (.slice a n c) l) (hn : n = l.length) (hk : k ≤ n) : ClRow W base (.slice a k c) (l.take k) := by
  have hlen : (l.take k).length = k := by rw [List.length_take]; omega
  have ht : ceCells (l.take k) = (ceCells l).take (k * 4) := by
    have h1 : ceCells l = ceCells (l.take k) ++ ceCells (l.drop k) := by rw [← ceCells_append, List.take_append_drop]
    rw [h1, List.take_left' (by rw [ceCells_len, hlen])]
  refine ⟨?_, fun e he => h.2.1 e (List.mem_of_mem_take he), h.2.2.sublist (List.take_sublist k l)⟩
  rw [hlen]
  refine ⟨by rw [ceCells_len, hlen], ?_⟩
  rcases h.1.2 with ⟨he, h0⟩ | ⟨g, cap, cur, he, hb, hg, hnc, hcm, hcs, ht2⟩
  · injection he with e1 e2 e3
    subst e1 e3
    obtain rfl : k = 0 := by omega
    exact .inl ⟨rfl, rfl⟩
  · injection he with e1 e2 e3
    subst e1 e3
    refine .inr ⟨g, c, cur, rfl, hb, hg, by omega, hcm, hcs, ?_⟩
    rw [ht, ← ht2, List.take_take, Nat.min_eq_left (by rw [← hn]; exact Nat.mul_le_mul_right 4 hk)]

set_option maxRecDepth 10000 in
set_option maxHeartbeats 1600000 in
theorem implCls_any (a : Option Addr) (n c lo : Nat) (l : List CE) (w : World) (h : ClRow w lo (.slice a n c) l) (hn : n = l.length) (hl : n ≤ 1048576) (hz : ∀ e ∈ l, e.u.id.size ≤ maxLen ∧ e.n ≤ 1048576) :
    Calls Tryz.prog 58 #[.slice a n c] w fun e w' => e = .returned (.bool (clsB (l.map CE.u))) ∧ Below w.heap.size w w' := by
  have HR : Hid (∀ W, Below w.heap.size w W → ClRow W lo (.slice a n c) l) := fun W hb => h.stays hb
  have HZ : Hid (n = l.length ∧ ∀ e ∈ l, e.u.id.size ≤ maxLen ∧ e.n ≤ 1048576) := ⟨hn, hz⟩
  have HL : Hid (∀ e ∈ l, e.n = e.u.zs.length) := h.len
  clear h hn hz
  by_cases hlong : (n : Int) > 6
  · have HC : Hid (clsB (l.map CE.u) = false) := clsB_long (by rw [List.length_map, ← HZ.out.1]; omega)
    go_enter Tryz.func58, Tryz.ntmps58
    go_wp2_with fail
    go_ret
    exact ⟨by rw [HC.out]; rfl, Below.refl _ _⟩
  go_enter Tryz.func58, Tryz.ntmps58
  go_wp2_with fail
  go_loopw [11] (fun v wr => ∃ k : Nat, k ≤ n ∧ v = .int .i64 k ∧ Hid (Below w.heap.size w wr) ∧ Hid (∀ j, j < k → oneOk (l.map CE.u) j)) (fun v _ => n - (intOf v).toNat)
  case atStart => exact ⟨0, Nat.zero_le _, rfl, Below.refl _ _, fun j hj => absurd hj (Nat.not_lt_zero _)⟩
  case round =>
    obtain ⟨k, hk, rfl, HB, HJ⟩ := hrel
    by_cases hlt : k < n
    · have hkl : k < l.length := by rw [← HZ.out.1]; exact hlt
      have hkm : k < (l.map CE.u).length := by rw [List.length_map]; exact hkl
      have hki : (k : Int) < (n : Int) := by omega
      have hk0 : (0 : Int) ≤ (k : Int) := by omega
      obtain ⟨g, rfl, g0, g1, g2, g3, _⟩ := (HR.out _ HB.out).at HZ.out.1 hkl
      have hz2 := HZ.out.2 _ (List.getElem_mem hkl)
      have hln := HL.out _ (List.getElem_mem hkl)
      have hgm : (l.map CE.u)[k] = (l[k]).u := by simp
      have HOk : Hid (okCu (l[k]).u = okC (l[k]).u.id (l[k]).n (l[k]).u.st (l[k]).u.off) := by show _ = _; rw [okCu, hln]
      have HBad : Hid (okCu (l[k]).u = false → ¬ oneOk (l.map CE.u) k) := fun h => oneOk_bad hkm (by rw [hgm]; exact h)
      have HTw : Hid (atC ((l.map CE.u).take k) (l[k]).u.id ≠ none → ¬ oneOk (l.map CE.u) k) := fun h => oneOk_twice hkm (by rw [hgm]; exact h)
      have HYes : Hid (okCu (l[k]).u = true → atC ((l.map CE.u).take k) (l[k]).u.id = none → oneOk (l.map CE.u) k) := fun h h2 => oneOk_yes hkm (by rw [hgm]; exact h) (by rw [hgm]; exact h2)
      have HNot : Hid (¬ oneOk (l.map CE.u) k → clsB (l.map CE.u) = false) := fun h => clsB_not hkm h
      have HFr : Hid (∀ W, Below w.heap.size w W → ClRow W lo (.slice (some ⟨g, 0, none⟩) k c) (l.take k) ∧ k = (l.take k).length ∧ (l.take k).map CE.u = (l.map CE.u).take k) := fun W hb => ⟨(HR.out W hb).first HZ.out.1 hk, by rw [List.length_take]; omega, (List.map_take).symm ▸ rfl⟩
      have hcap : n ≤ c := by
        rcases (HR.out _ HB.out).1.2 with ⟨_, h0⟩ | ⟨g', cap, cur, he, _, _, hnc, _⟩
        · have := HZ.out.1; omega
        · injection he with e1 e2 e3
          have := HZ.out.1; omega
      have hkc : (k : Int) ≤ (c : Int) := by omega
      have HJk : Hid (oneOk (l.map CE.u) k → ∀ j, j < k + 1 → oneOk (l.map CE.u) j) := fun h j hj => by
        by_cases e : j = k
        · subst e; exact h
        · exact HJ.out j (by omega)
      clear hgm hkm hln HJ
      generalize l[k] = x at *
      cases hok : okCu x.u
      case false =>
        have HF : Hid (clsB (l.map CE.u) = false) := HNot.out (HBad.out hok)
        have HOk2 : Hid (okC x.u.id x.n x.u.st x.u.off = false) := by show _ = _; rw [← HOk.out]; exact hok
        clear HTw HYes HFr HJk HBad HNot HOk hok
        go_wp2_with fail
        refine (implClOk_any x.u.id x.a x.n x.c x.u.st x.u.off _ hz2.1 (by omega)).mono ?_
        rintro e w1 ⟨rfl, hb1⟩
        have HB1 : Hid (Below w.heap.size w w1) := (HB.out.alloc HB.out.size _).trans (hb1.mono (by simp; have := HB.out.size; omega))
        rw [HOk2.out]
        clear hb1
        go_wp2_with fail
        go_ret
        exact ⟨by rw [HF.out]; rfl, HB1.out⟩
      case true =>
        have HOk2 : Hid (okC x.u.id x.n x.u.st x.u.off = true) := by show _ = _; rw [← HOk.out]; exact hok
        have HYes2 := HYes.out hok
        have HY : Hid (atC ((l.map CE.u).take k) x.u.id = none → oneOk (l.map CE.u) k) := HYes2
        clear HYes HYes2 HBad HOk hok
        obtain ⟨x1, hx1⟩ : ∃ x1, wr.alloc (.cells #[.string x.u.id, .slice x.a x.n x.c, .int .i64 x.u.st, .int .i64 x.u.off] 51) = x1 := ⟨_, rfl⟩
        have HE1 : Hid (wr.alloc (.cells #[.string x.u.id, .slice x.a x.n x.c, .int .i64 x.u.st, .int .i64 x.u.off] 51) = x1) := hx1
        have HB1 : Hid (Below w.heap.size w x1) := by show Below _ _ _; rw [← hx1]; exact HB.out.alloc HB.out.size _
        have HU1 : Hid (BoxN x1 wr.heap.size 51 [.string x.u.id, .slice x.a x.n x.c, .int .i64 x.u.st, .int .i64 x.u.off]) := by show BoxN _ _ _ _; rw [← hx1]; exact BoxN.new _ _ _
        clear hx1
        have u0 := HU1.out.cell 0 rfl
        have u1 := HU1.out.cell 1 rfl
        have u2 := HU1.out.cell 2 rfl
        have u3 := HU1.out.cell 3 rfl
        go_upto_region 7 with fail
        rw [HE1.out]
        clear HE1 g0 g1 g2 g3
        go_wp2_with fail
        refine (implClOk_any x.u.id x.a x.n x.c x.u.st x.u.off _ hz2.1 (by omega)).mono ?_
        rintro e w1 ⟨rfl, hb1⟩
        have HB2 : Hid (Below w.heap.size w w1) := HB1.out.trans (hb1.mono HB1.out.size)
        have HU2 : Hid (BoxN w1 wr.heap.size 51 [.string x.u.id, .slice x.a x.n x.c, .int .i64 x.u.st, .int .i64 x.u.off]) := HU1.out.stays hb1
        rw [HOk2.out]
        clear hb1 u0 u1 u2 u3 HU1
        have u0 := HU2.out.cell 0 rfl
        go_wp2_with fail
        refine (implReachC_any (some ⟨g, 0, none⟩) k c lo x.u.id (l.take k) _ (HFr.out _ HB2.out).1 (HFr.out _ HB2.out).2.1 (by omega)).mono ?_
        rintro e w2 ⟨rfl, hb2⟩
        have HB3 : Hid (Below w.heap.size w w2) := HB2.out.trans (hb2.mono HB2.out.size)
        rw [(HFr.out _ HB2.out).2.2]
        clear hb2 u0 HU2
        cases hat : atC ((l.map CE.u).take k) x.u.id
        case some m =>
          have HF : Hid (clsB (l.map CE.u) = false) := HNot.out (HTw.out (by rw [hat]; simp))
          clear HY HTw HNot HJk HFr hat
          simp only [reachCO]
          go_wp2_with fail
          go_ret
          exact ⟨by rw [HF.out]; rfl, HB3.out⟩
        case none =>
          have HJ2 : Hid (∀ j, j < k + 1 → oneOk (l.map CE.u) j) := HJk.out (HY.out hat)
          clear HY HTw HNot HJk HFr hat
          simp only [reachCO_none]
          go_wp2_with fail
          go_roundw
          case rel => exact ⟨k + 1, by omega, by go_num, HB3, HJ2⟩
          case measure => simp [intOf]; omega
    · have HF : Hid (clsB (l.map CE.u) = true) := clsB_yes (by rw [List.length_map, ← HZ.out.1]; omega) (fun i hi => HJ.out i (by rw [List.length_map, ← HZ.out.1] at hi; omega))
      clear HJ
      go_wp2_with fail
      go_ret
      exact ⟨by rw [HF.out]; rfl, HB.out⟩

end Go.Proofs.YtemcjenpgdieoaaGreatDoor

namespace Go.Proofs.YtemcjenpgdieoaaGreatDoor
open Go.RowKit
set_option linter.unusedVariables false

theorem ret_bR {a b : Bool} (h : a = b) : Ending.returned (.bool a) = .returned (.bool b) := by rw [h]

set_option maxRecDepth 10000 in
set_option maxHeartbeats 800000 in
theorem implRespOk_any (st off : Int) (w : World) :
    Calls Tryz.prog 87 #[.agg #[.int .i64 st, .int .i64 off]] w fun e w' => e = .returned (.bool (respB st off)) ∧ Below w.heap.size w w' := by
  have HB0 : Hid (Below w.heap.size w (w.alloc (.cells #[.int .i64 st, .int .i64 off] 86))) := (Below.refl _ _).alloc (Nat.le_refl _) _
  have HR : Hid (respB st off = (decide (100 ≤ st ∧ st ≤ 599) && decide (-1 ≤ off ∧ off ≤ 1000000000))) := rfl
  by_cases h1 : 100 ≤ st
  · by_cases h2 : st ≤ 599
    · by_cases h3 : -1 ≤ off
      · have HF : Hid (respB st off = decide (off ≤ 1000000000)) := by
          show _ = _
          rw [HR.out, decide_eq_true ⟨h1, h2⟩, Bool.true_and, Bool.eq_iff_iff, decide_eq_true_eq, decide_eq_true_eq]
          omega
        go_enter Tryz.func87, Tryz.ntmps87
        go_wp2_with fail
        go_ret
        exact ⟨ret_bR HF.out.symm, HB0.out⟩
      · have HF : Hid (respB st off = false) := by show _ = _; rw [HR.out, decide_eq_false (p := -1 ≤ off ∧ _) (by omega), Bool.and_false]
        go_enter Tryz.func87, Tryz.ntmps87
        go_wp2_with fail
        go_ret
        exact ⟨ret_bR HF.out.symm, HB0.out⟩
    · have HF : Hid (respB st off = false) := by show _ = _; rw [HR.out, decide_eq_false (p := 100 ≤ st ∧ _) (by omega), Bool.false_and]
      go_enter Tryz.func87, Tryz.ntmps87
      go_wp2_with fail
      go_ret
      exact ⟨ret_bR HF.out.symm, HB0.out⟩
  · have HF : Hid (respB st off = false) := by show _ = _; rw [HR.out, decide_eq_false (p := 100 ≤ st ∧ _) (by omega), Bool.false_and]
    go_enter Tryz.func87, Tryz.ntmps87
    go_wp2_with fail
    go_ret
    exact ⟨ret_bR HF.out.symm, HB0.out⟩

end Go.Proofs.YtemcjenpgdieoaaGreatDoor

namespace Go.Proofs.YtemcjenpgdieoaaGreatDoor
open Go.RowKit
set_option linter.unusedVariables false

/-- Whether an answer is right. -/
def fitsH (h : Hd) : Bool := respB h.2.1 h.2.2

theorem ret_bH {b c : Bool} (h : b = c) : (Ending.returned (.bool b)) = .returned (.bool c) := by rw [h]

set_option maxRecDepth 10000 in
set_option maxHeartbeats 800000 in
theorem implHeldW_any (x0 x1 x2 : Int) (w : World) :
    Calls Tryz.prog 55 #[.agg #[.int .i64 x0, .int .i64 x1, .int .i64 x2]] w fun e w' => e = .returned (.bool (!fitsH (x0, x1, x2))) ∧ Below w.heap.size w w' := by
  have HB : Hid (Below w.heap.size w (w.alloc (.cells #[.int .i64 x0, .int .i64 x1, .int .i64 x2] 88))) := (Below.refl _ _).alloc (Nat.le_refl _) _
  have HC : Hid (∀ W : World, Calls Tryz.prog 87 #[.agg #[.int .i64 x1, .int .i64 x2]] W fun e w' => e = .returned (.bool (fitsH (x0, x1, x2))) ∧ Below W.heap.size W w') := fun W => implRespOk_any x1 x2 W
  obtain ⟨r, hr⟩ : ∃ r, fitsH (x0, x1, x2) = r := ⟨_, rfl⟩
  rw [hr] at HC ⊢
  clear hr
  go_enter Tryz.func55, Tryz.ntmps55
  go_wp2_with fail
  refine (HC.out _).mono ?_
  rintro e w1 ⟨rfl, hb1⟩
  have HB1 : Hid (Below w.heap.size w w1) := HB.out.trans (hb1.mono HB.out.size)
  clear hb1 HB HC
  go_wp2_with fail
  go_ret
  exact ⟨rfl, HB1.out⟩

/-- Whether one of the answers is wrong. -/
def anyH (xs : List Hd) : Bool := !xs.all fitsH

theorem anyH_false {xs : List Hd} (h : ∀ (k : Nat) (x : Hd), xs[k]? = some x → fitsH x = true) : anyH xs = false := by
  have : xs.all fitsH = true := by
    rw [List.all_eq_true]
    intro f hf
    obtain ⟨k, hk, rfl⟩ := List.mem_iff_getElem.1 hf
    exact h k _ (List.getElem?_eq_getElem hk)
  rw [anyH, this]
  rfl

theorem anyH_true {xs : List Hd} {k : Nat} {x : Hd} (h : xs[k]? = some x) (hw : fitsH x = false) : anyH xs = true := by
  have : xs.all fitsH = false := by
    rw [List.all_eq_false]
    exact ⟨x, List.mem_of_getElem? h, by simp [hw]⟩
  rw [anyH, this]
  rfl

set_option maxRecDepth 10000 in
set_option maxHeartbeats 800000 in
theorem implIdxH_any (a : Option Addr) (len cap : Nat) (xs : List Hd) (w : World) (hx : Helds w a len xs) (hl : len ≤ 1099511627776) :
    Calls Tryz.prog 89 #[.slice a len cap, .func (.func 55) #[] #[]] w fun e w' => (∃ k : Int, e = .returned (.int .i64 k) ∧ decide (0 ≤ k) = anyH xs) ∧ Below w.heap.size w w' := by
  have HX : Hid (Helds w a len xs) := hx
  have HL : Hid (xs.length = len) := hx.1
  clear hx
  go_enter Tryz.func89, Tryz.ntmps89
  go_wp2_with fail
  go_loopw [8] (fun v wr => ∃ k : Nat, k ≤ len ∧ v = .int .i64 k ∧ Hid (Below w.heap.size w wr) ∧ Hid (∀ (j : Nat) (x : Hd), j < k → xs[j]? = some x → fitsH x = true)) (fun v _ => len - (intOf v).toNat)
  case atStart => exact ⟨0, Nat.zero_le _, rfl, Below.refl _ _, fun j _ hj => absurd hj (Nat.not_lt_zero _)⟩
  case round =>
    obtain ⟨k, hk, rfl, HB, HN⟩ := hrel
    by_cases hlt : k < len
    · have hki : (k : Int) < (len : Int) := by omega
      obtain ⟨b, off, x0, x1, x2, rfl, hb, hkx, p0, p1, p2, _⟩ := (HX.out.below HB.out).at hlt
      have HK : Hid (xs[k]? = some (x0, x1, x2)) := hkx
      have HO : Hid (∀ W : World, Calls Tryz.prog 55 #[.agg #[.int .i64 x0, .int .i64 x1, .int .i64 x2]] W fun e w' => e = .returned (.bool (!fitsH (x0, x1, x2))) ∧ Below W.heap.size W w') := fun W => implHeldW_any x0 x1 x2 W
      clear hkx
      go_wp2_with fail
      refine (HO.out _).mono ?_
      rintro e w1 ⟨rfl, hb1⟩
      have HB1 : Hid (Below w.heap.size w w1) := HB.out.trans (hb1.mono HB.out.size)
      clear hb1 p0 p1 p2 HB
      cases hpr : fitsH (x0, x1, x2)
      case false =>
        have HE : Hid (anyH xs = true) := anyH_true HK.out hpr
        clear hpr
        go_wp2_with fail
        go_ret
        exact ⟨⟨k, rfl, by rw [HE.out]; simp⟩, HB1.out⟩
      case true =>
        have HN2 : Hid (∀ (j : Nat) (x : Hd), j < k + 1 → xs[j]? = some x → fitsH x = true) := fun j u hj hju => by
          by_cases e : j = k
          · subst e
            rw [HK.out] at hju
            injection hju with e1
            rw [← e1]
            exact hpr
          · exact HN.out j u (by omega) hju
        clear hpr HN
        go_wp2_with fail
        go_roundw
        case rel => exact ⟨k + 1, by omega, by go_num, HB1, HN2⟩
        case measure => simp [intOf]; omega
    · have HE : Hid (anyH xs = false) := anyH_false fun j x hjx => HN.out j x (by have := (List.getElem?_eq_some_iff.1 hjx).1; have := HL.out; omega) hjx
      have hkl : len = k := by omega
      clear HN HX HL
      subst hkl
      go_wp2_with fail
      go_ret
      exact ⟨⟨-1, rfl, by rw [HE.out]; rfl⟩, HB.out⟩

set_option maxRecDepth 10000 in
theorem implAnyHd_any (a : Option Addr) (len cap : Nat) (xs : List Hd) (w : World) (hx : Helds w a len xs) (hl : len ≤ 1099511627776) :
    Calls Tryz.prog 57 #[.slice a len cap, .func (.func 55) #[] #[]] w fun e w' => e = .returned (.bool (anyH xs)) ∧ Below w.heap.size w w' := by
  go_enter Tryz.func57, Tryz.ntmps57
  go_wp2_with fail
  refine (implIdxH_any a len cap xs w hx hl).mono ?_
  rintro e w1 ⟨⟨k, rfl, hk⟩, hb1⟩
  have HK : Hid (decide (0 ≤ k) = anyH xs) := hk
  have HB1 : Hid (Below w.heap.size w w1) := hb1
  clear hk hb1 hx
  go_wp2_with fail
  go_ret
  exact ⟨ret_bH HK.out, HB1.out⟩

end Go.Proofs.YtemcjenpgdieoaaGreatDoor

namespace Go.Proofs.YtemcjenpgdieoaaGreatDoor
open Go.RowKit
set_option linter.unusedVariables false

set_option maxRecDepth 10000 in
set_option maxHeartbeats 800000 in
theorem specRespOk_any (st off : Int) (w : World) :
    Calls Tryz.prog 78 #[.agg #[.int .i64 st, .int .i64 off]] w fun e w' => e = .returned (.bool (respB st off)) ∧ Below w.heap.size w w' := by
  have HR : Hid (respB st off = (decide (100 ≤ st ∧ st ≤ 599) && decide (-1 ≤ off ∧ off ≤ 1000000000))) := rfl
  have HB0 : Hid (Below w.heap.size w (w.alloc (.cells #[.int .i64 st, .int .i64 off] 86))) := (Below.refl _ _).alloc (Nat.le_refl _) _
  have hx : (w.alloc (.cells #[.int .i64 st, .int .i64 off] 86)).heap[w.heap.size]? = some (.cells #[.int .i64 st, .int .i64 off] 86 (0, 0)) := heap_alloc_new w _
  go_enter Tryz.func78, Tryz.ntmps78
  go_wp2_with fail
  obtain ⟨w1, hw1⟩ : ∃ w1, w.alloc (.cells #[.int .i64 st, .int .i64 off] 86) = w1 := ⟨_, rfl⟩
  rw [hw1] at HB0 hx ⊢
  clear hw1
  have c0 : w1.cell? ⟨w.heap.size, 0, none⟩ = some (.int .i64 st) := by rw [cell_of_row _ _ _ _ _ _ hx]; rfl
  have c1 : w1.cell? ⟨w.heap.size, 1, none⟩ = some (.int .i64 off) := by rw [cell_of_row _ _ _ _ _ _ hx]; rfl
  clear hx
  refine (l1In_any st 100 599 _).mono ?_
  rintro e w2 ⟨rfl, hw2⟩
  subst hw2
  generalize decide (100 ≤ st ∧ st ≤ 599) = b1 at *
  cases b1
  · go_wp2_with fail
    go_ret
    exact ⟨ret_bool (by rw [HR.out]; rfl), HB0.out⟩
  go_wp2_with fail
  refine (l1In_any off (-1) 1000000000 _).mono ?_
  rintro e w3 ⟨rfl, hw3⟩
  subst hw3
  generalize decide (-1 ≤ off ∧ off ≤ 1000000000) = b2 at *
  go_wp2_with fail
  go_ret
  exact ⟨ret_bool (by rw [HR.out]; rfl), HB0.out⟩

end Go.Proofs.YtemcjenpgdieoaaGreatDoor
