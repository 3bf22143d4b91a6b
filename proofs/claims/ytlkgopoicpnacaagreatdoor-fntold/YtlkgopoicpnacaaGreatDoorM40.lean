/- What the program's idOk answers: whether a text is an upload's name. What the program's RecOk answers, under its table. The small facts of Own, under the name that the other texts import. Steps of a region that draws its order: a call of two arguments; bytes that are made; a text of bytes that are all 0. No program in it. A new row of bytes that is made. What the program's PutBig answers: the bytes and behind them those of the number, in memory of its own; nothing that was there is written. For lists of at most 2^40 bytes that are not nil. What the program's Crc answers: the sum of the bytes; nothing is written. For lists of at most 2^40 bytes. -/
import Derived.Test.YtlkgopoicpnacaaGreatDoorM03
import Derived.Lib.ConvBytes
import Derived.Lib.AtoiErrMem
import Derived.Lib.Strings
import Derived.WalkKit
import Derived.Test.YtlkgopoicpnacaaGreatDoorM39
import Derived.Test.YtlkgopoicpnacaaGreatDoorM37
import Derived.Test.YtlkgopoicpnacaaGreatDoorM04
import Derived.Deep.CutBlock
import Derived.Test.YtlkgopoicpnacaaGreatDoorM01
import Derived.Deep.RegionLaw
import Derived.Laws.MakeOwn
import Derived.Laws.OwnMore
import Derived.Laws.IdiomStrings
import Derived.Below
namespace Go.Proofs.YtlkgopoicpnacaaGreatDoor
open Go.RowKit
set_option linter.unusedVariables false

theorem data_at (s : ByteArray) (k : Nat) (h : k < s.size) : s.data.toList.getD k 0 = s[k] := by
  have h2 : k < s.data.toList.length := by rw [Array.length_toList]; exact h
  rw [List.getD, List.getElem?_eq_getElem h2, Option.getD_some, Array.getElem_toList]
  rfl

theorem data_get (s : ByteArray) (k : Nat) (h : k < s.size) : s.data.toList[k]'(by rw [Array.length_toList]; exact h) = s[k] := by
  rw [Array.getElem_toList]
  rfl

theorem ret_bool' {a b : Bool} (h : a = b) : Ending.returned (.bool a) = .returned (.bool b) := by rw [h]

set_option maxRecDepth 10000 in
set_option maxHeartbeats 800000 in
theorem implId_any (s : ByteArray) (w : World) (hm : s.size ≤ 9223372036854775807) :
    Calls Tryz.prog 109 #[.string s] w fun e w' => e = .returned (.bool (idB s.data.toList)) ∧ Below w.heap.size w w' := by
  have HL : Hid (s.data.toList.length = s.size) := Array.length_toList
  by_cases hsz : 1 ≤ s.size ∧ s.size ≤ 8
  case neg =>
    have HF : Hid (idB s.data.toList = false) := idB_long (by rw [HL.out]; exact hsz)
    by_cases h0 : s.size < 1
    · have hi : (s.size : Int) < 1 := by omega
      clear hsz
      go_enter Tryz.func109, Tryz.ntmps109
      go_wp2_with fail
      go_ret
      exact ⟨ret_bool' HF.out.symm, Below.refl _ _⟩
    · have hi : ¬ (s.size : Int) < 1 := by omega
      have hj : (8 : Int) < (s.size : Int) := by omega
      clear hsz
      go_enter Tryz.func109, Tryz.ntmps109
      go_wp2_with fail
      go_ret
      exact ⟨ret_bool' HF.out.symm, Below.refl _ _⟩
  obtain ⟨hs1, hs8⟩ := hsz
  have hi : ¬ (s.size : Int) < 1 := by omega
  have hj : ¬ (8 : Int) < (s.size : Int) := by omega
  have hcv := Lib.run_convert_string_bytes (P := Tryz.prog) w 9 22 5 s (u := .string) Tryz.underlying9 Tryz.underlying22 Tryz.underlying5
  have HC : Hid (∀ j (hj : j < s.size), (Lib.bytesWorld w 5 s).cell? ⟨w.heap.size, j, none⟩ = some (.int .u8 (s[j].toNat : Int))) := fun j hj => by rw [Lib.bytesWorld_cell w 5 s j hj, data_at s j hj]
  have HB : Hid (Below w.heap.size w (Lib.bytesWorld w 5 s)) := Lib.bytesWorld_below w 5 s
  obtain ⟨W1, hW1⟩ : ∃ W1, Lib.bytesWorld w 5 s = W1 := ⟨_, rfl⟩
  rw [hW1] at hcv HC HB
  clear hW1
  go_enter Tryz.func109, Tryz.ntmps109
  go_wp2_with fail
  go_loop [16] (fun v => ∃ k : Nat, k ≤ s.size ∧ v = .int .i64 k ∧ Hid (∀ j (hj : j < s.data.toList.length), j < k → idC s.data.toList[j] = true)) (fun v => s.size - (intOf v).toNat)
  case atStart => exact ⟨0, Nat.zero_le _, rfl, fun j _ hj => absurd hj (Nat.not_lt_zero _)⟩
  case round =>
    obtain ⟨k, hk, rfl, HN⟩ := hrel
    by_cases hlt : k < s.size
    · have hki : (k : Int) < (s.size : Int) := by omega
      have hc := HC.out k hlt
      have hc0 : (0 : Int) ≤ (s[k].toNat : Int) := by omega
      have hc1 : (s[k].toNat : Int) ≤ 255 := by have := s[k].toNat_lt; omega
      have HA : Hid (idC (s.data.toList[k]'(by rw [Array.length_toList]; exact hlt)) = ((decide (97 ≤ s[k].toNat) && decide (s[k].toNat ≤ 122)) || (decide (48 ≤ s[k].toNat) && decide (s[k].toNat ≤ 57)))) := by show _ = _; rw [data_get s k hlt, idC]
      have HG : Hid (idC (s.data.toList[k]'(by rw [Array.length_toList]; exact hlt)) = true → ∀ j (hj : j < s.data.toList.length), j < k + 1 → idC s.data.toList[j] = true) := fun h j hj hjk => by
        by_cases e : j = k
        · subst e; exact h
        · exact HN.out j hj (by omega)
      have HBd : Hid (idC (s.data.toList[k]'(by rw [Array.length_toList]; exact hlt)) = false → idB s.data.toList = false) := fun h => idB_bad (by rw [Array.length_toList]; exact hlt) h
      have HS : Hid (idC (s.data.toList[k]'(by rw [Array.length_toList]; exact hlt)) = true ∧ ((97 ≤ (s[k].toNat : Int) ∧ (s[k].toNat : Int) ≤ 122) ∨ (48 ≤ (s[k].toNat : Int) ∧ (s[k].toNat : Int) ≤ 57)) ∨ idC (s.data.toList[k]'(by rw [Array.length_toList]; exact hlt)) = false ∧ ¬ (97 ≤ (s[k].toNat : Int) ∧ (s[k].toNat : Int) ≤ 122) ∧ ¬ (48 ≤ (s[k].toNat : Int) ∧ (s[k].toNat : Int) ≤ 57)) := by
        show _ ∨ _
        rw [HA.out]
        by_cases h1 : 97 ≤ s[k].toNat ∧ s[k].toNat ≤ 122
        · exact .inl ⟨by rw [decide_eq_true h1.1, decide_eq_true h1.2]; rfl, .inl (by omega)⟩
        · by_cases h2 : 48 ≤ s[k].toNat ∧ s[k].toNat ≤ 57
          · exact .inl ⟨by rw [decide_eq_true h2.1, decide_eq_true h2.2]; simp, .inr (by omega)⟩
          · refine .inr ⟨?_, by omega, by omega⟩
            rw [Bool.or_eq_false_iff, Bool.and_eq_false_iff, Bool.and_eq_false_iff]
            simp only [decide_eq_false_iff_not]
            omega
      clear HA HC HN
      generalize (s[k].toNat : Int) = c at *
      rcases HS.out with ⟨hok, hr⟩ | ⟨hno, hr1, hr2⟩
      · have HT : Hid (∀ j (hj : j < s.data.toList.length), j < k + 1 → idC s.data.toList[j] = true) := HG.out hok
        clear HG HBd HS hok
        rcases hr with ⟨r1, r2⟩ | ⟨r1, r2⟩
        · have q1 : ¬ c < 97 := by omega
          have q2 : ¬ (122 : Int) < c := by omega
          go_wp2_with fail
          go_round
          case rel => exact ⟨k + 1, by omega, by go_num, HT⟩
          case measure => simp [intOf]; omega
        · have q1 : c < 97 := by omega
          have q3 : ¬ c < 48 := by omega
          have q4 : ¬ (57 : Int) < c := by omega
          go_wp2_with fail
          go_round
          case rel => exact ⟨k + 1, by omega, by go_num, HT⟩
          case measure => simp [intOf]; omega
      · have HF : Hid (idB s.data.toList = false) := HBd.out hno
        clear HG HBd HS hno
        by_cases q1 : c < 97
        · by_cases q3 : c < 48
          · clear hr1 hr2
            go_wp2_with fail
            go_ret
            exact ⟨ret_bool' HF.out.symm, HB.out⟩
          · have q4 : (57 : Int) < c := by omega
            clear hr1 hr2
            go_wp2_with fail
            go_ret
            exact ⟨ret_bool' HF.out.symm, HB.out⟩
        · have q2 : (122 : Int) < c := by omega
          have q3 : ¬ c < 48 := by omega
          have q4 : (57 : Int) < c := by omega
          clear hr1 hr2
          go_wp2_with fail
          go_ret
          exact ⟨ret_bool' HF.out.symm, HB.out⟩
    · have hkl : k = s.size := by omega
      subst hkl
      have HE : Hid (idB s.data.toList = true) := by
        show _ = _
        rw [idB_good fun j hj => HN.out j hj (by rw [HL.out] at hj; exact hj), HL.out, decide_eq_true_eq]
        omega
      clear HN
      go_wp2_with fail
      go_ret
      exact ⟨ret_bool' HE.out.symm, HB.out⟩

end Go.Proofs.YtlkgopoicpnacaaGreatDoor

namespace Go.Proofs.YtlkgopoicpnacaaGreatDoor
open Go.RowKit
set_option linter.unusedVariables false

set_option maxRecDepth 10000 in
set_option maxHeartbeats 1600000 in
theorem implRok_any (e q k : Int) (id : ByteArray) (n : Int) (a : Option Addr) (d ca : Nat) (w : World) (hi : id.size ≤ maxLen) (hd : d ≤ 1099511627776) (ht : RecT w) :
    Calls Tryz.prog 92 #[.agg #[.int .i64 e, .int .i64 q, .int .i64 k, .string id, .int .i64 n, .slice a d ca]] w fun r w' => r = .returned (.bool (okRec e q k id n d)) ∧ Below w.heap.size w w' := by
  have hmm : maxLen < 9223372036854775808 := by decide
  obtain ⟨w0, hw0⟩ : ∃ w0, w.alloc (.cells #[.int .i64 e, .int .i64 q, .int .i64 k, .string id, .int .i64 n, .slice a d ca] 107) = w0 := ⟨_, rfl⟩
  have HE : Hid (w.alloc (.cells #[.int .i64 e, .int .i64 q, .int .i64 k, .string id, .int .i64 n, .slice a d ca] 107) = w0) := hw0
  have HQ0 : Hid (BoxN w0 w.heap.size 107 [.int .i64 e, .int .i64 q, .int .i64 k, .string id, .int .i64 n, .slice a d ca]) := by show BoxN _ _ _ _; rw [← hw0]; exact BoxN.new _ _ _
  have HB : Hid (Below w.heap.size w w0) := by show Below _ _ _; rw [← hw0]; exact (Below.refl _ _).alloc (Nat.le_refl _) _
  have HT : Hid (RecT w0) := ht.below HB.out
  obtain ⟨c0, c1, c2, c3, c4, c5⟩ := (show _ ∧ _ ∧ _ ∧ _ ∧ _ ∧ _ from ⟨HQ0.out.cell 0 rfl, HQ0.out.cell 1 rfl, HQ0.out.cell 2 rfl, HQ0.out.cell 3 rfl, HQ0.out.cell 4 rfl, HQ0.out.cell 5 rfl⟩)
  clear hw0 ht
  go_enter Tryz.func92, Tryz.ntmps92
  go_upto_region 1 with fail
  rw [HE.out]
  clear HE
  by_cases h1 : 0 ≤ e ∧ e ≤ 10000
  case neg =>
    have HF : Hid (okRec e q k id n d = false) := by show _ = _; rw [okRec, decide_eq_false h1]; rfl
    by_cases g1 : e < 0
    · clear h1
      go_wp2_with fail
      go_ret
      exact ⟨ret_bool' HF.out.symm, HB.out⟩
    · have g2 : (10000 : Int) < e := by omega
      clear h1
      go_wp2_with fail
      go_ret
      exact ⟨ret_bool' HF.out.symm, HB.out⟩
  have g1 : ¬ e < 0 := by omega
  have g2 : ¬ (10000 : Int) < e := by omega
  by_cases h2 : 0 ≤ q ∧ q ≤ 199
  case neg =>
    have HF : Hid (okRec e q k id n d = false) := by show _ = _; rw [okRec, decide_eq_false h2, Bool.and_false]; rfl
    by_cases g3 : q < 0
    · clear h1 h2
      go_wp2_with fail
      go_ret
      exact ⟨ret_bool' HF.out.symm, HB.out⟩
    · have g4 : ¬ q < 200 := by omega
      have g5 : (200 : Int) ≤ q := by omega
      clear h1 h2
      go_wp2_with fail
      go_ret
      exact ⟨ret_bool' HF.out.symm, HB.out⟩
  have g3 : ¬ q < 0 := by omega
  have g4 : q < 200 := by omega
  have g5 : ¬ (200 : Int) ≤ q := by omega
  have HK : Hid (okRec e q k id n d = (idB id.data.toList && kindB k n d)) := by show _ = _; rw [okRec, decide_eq_true h1, decide_eq_true h2]; rfl
  clear h1 h2
  go_wp2_with fail
  refine (implId_any id _ (by omega)).mono ?_
  rintro r w1 ⟨rfl, hb1⟩
  have HB1 : Hid (Below w.heap.size w w1) := HB.out.trans (hb1.mono HB.out.size)
  have HT1 : Hid (RecT w1) := HT.out.below hb1
  have HQ1 : Hid (BoxN w1 w.heap.size 107 [.int .i64 e, .int .i64 q, .int .i64 k, .string id, .int .i64 n, .slice a d ca]) := HQ0.out.stays hb1
  clear hb1 HB HT HQ0 c0 c1 c2 c3 c4 c5
  obtain ⟨c0, c1, c2, c3, c4, c5⟩ := (show _ ∧ _ ∧ _ ∧ _ ∧ _ ∧ _ from ⟨HQ1.out.cell 0 rfl, HQ1.out.cell 1 rfl, HQ1.out.cell 2 rfl, HQ1.out.cell 3 rfl, HQ1.out.cell 4 rfl, HQ1.out.cell 5 rfl⟩)
  cases h3 : idB id.data.toList
  · have HF : Hid (okRec e q k id n d = false) := by show _ = _; rw [HK.out, h3]; rfl
    clear h3
    go_wp2_with fail
    go_ret
    exact ⟨ret_bool' HF.out.symm, HB1.out⟩
  have HK2 : Hid (okRec e q k id n d = kindB k n d) := by show _ = _; rw [HK.out, h3]; rfl
  clear HK h3
  go_wp2_with fail
  refine (implKind_any k _).mono ?_
  rintro r w1 ⟨rfl, rfl⟩
  by_cases hk : 1 ≤ k ∧ k ≤ 4
  case neg =>
    have HF : Hid (okRec e q k id n d = false) := by show _ = _; rw [HK2.out, kindB_out k hk]
    rw [decide_eq_false hk]
    clear hk
    go_wp2_with fail
    go_ret
    exact ⟨ret_bool' HF.out.symm, HB1.out⟩
  rw [decide_eq_true hk]
  have k1 : ¬ k < 1 := by omega
  have k4 : ¬ (4 : Int) < k := by omega
  obtain ⟨K, rfl⟩ := Int.eq_ofNat_of_zero_le (show 0 ≤ k by omega)
  have HK3 : Hid (okRec e q (K : Int) id n d = decide (0 ≤ n ∧ n ≤ rMost K ∧ rLo K ≤ (d : Int) ∧ (d : Int) ≤ rHi K)) := by show _ = _; rw [HK2.out, kindB_tab K (by omega) (by omega)]
  have hK5 : (K : Int) < 5 := by omega
  have hK0 : (0 : Int) ≤ (K : Int) := by omega
  obtain ⟨t0, t1, t2⟩ := HT1.out.2 K (by omega)
  clear hk HK2
  generalize rMost K = M at *
  generalize rLo K = L at *
  generalize rHi K = U at *
  have HB2 : Hid (Below w.heap.size w (w1.alloc (.cells #[.int .i64 M, .int .i64 L, .int .i64 U] 149))) := HB1.out.alloc HB1.out.size _
  have q2 : BoxN (w1.alloc (.cells #[.int .i64 M, .int .i64 L, .int .i64 U] 149)) w.heap.size 107 [.int .i64 e, .int .i64 q, .int .i64 (K : Int), .string id, .int .i64 n, .slice a d ca] := HQ1.out.alloc _
  have f2 : BoxN (w1.alloc (.cells #[.int .i64 M, .int .i64 L, .int .i64 U] 149)) w1.heap.size 149 [.int .i64 M, .int .i64 L, .int .i64 U] := BoxN.new _ _ _
  have x4 := q2.cell 4 rfl
  have x5 := q2.cell 5 rfl
  have y0 := f2.cell 0 rfl
  have y1 := f2.cell 1 rfl
  have y2 := f2.cell 2 rfl
  clear q2 f2 HQ1 HT1 c0 c1 c3 c4 c5
  by_cases n0 : 0 ≤ n
  case neg =>
    have HF : Hid (okRec e q (K : Int) id n d = false) := by show _ = _; rw [HK3.out, decide_eq_false (fun h => n0 h.1)]
    have dn : decide (0 ≤ n) = false := decide_eq_false n0
    have dn2 : (0 ≤ n) = False := eq_false n0
    clear n0 HK3
    go_wp2_with fail
    go_ret
    exact ⟨ret_bool' HF.out.symm, HB2.out⟩
  by_cases n1 : n ≤ M
  case neg =>
    have HF : Hid (okRec e q (K : Int) id n d = false) := by show _ = _; rw [HK3.out, decide_eq_false (fun h => n1 h.2.1)]
    have dn : decide (n ≤ M) = false := decide_eq_false n1
    clear n1 HK3
    go_wp2_with fail
    go_ret
    exact ⟨ret_bool' HF.out.symm, HB2.out⟩
  by_cases n2 : L ≤ (d : Int)
  case neg =>
    have HF : Hid (okRec e q (K : Int) id n d = false) := by show _ = _; rw [HK3.out, decide_eq_false (fun h => n2 h.2.2.1)]
    have dn : decide (L ≤ (d : Int)) = false := decide_eq_false n2
    clear n2 HK3
    go_wp2_with fail
    go_ret
    exact ⟨ret_bool' HF.out.symm, HB2.out⟩
  have HF : Hid (okRec e q (K : Int) id n d = decide ((d : Int) ≤ U)) := by show _ = _; rw [HK3.out, decide_eq_decide]; exact ⟨fun h => h.2.2.2, fun h => ⟨n0, n1, n2, h⟩⟩
  clear HK3
  go_wp2_with fail
  go_ret
  exact ⟨ret_bool' HF.out.symm, HB2.out⟩

end Go.Proofs.YtlkgopoicpnacaaGreatDoor



namespace Go.Proofs.YtlkgopoicpnacaaGreatDoor
open Go.RowKit
set_option linter.unusedVariables false

theorem step_call_pair {P : Program} {ops : Array Oper} {o : Oper} {a : Act} {w : World} {K : Act → World → Prop} {Q : Exit → Act → World → Prop} {E : Prop}
    (hg : o.guard = none) (f : FuncId) (x y : Operand) (t t' : TypeId) (ho : o.op = .call { callee := .value (.func f), args := #[x, y], argTypes := #[t, t'] })
    (hent : ∀ args w, (callFunc f args).run P w = .ok (.enter f args) w) (u u' : Value) (hx : a.eval x = u) (hy : a.eval y = u') (R : Ending → World → Prop)
    (hc : Calls P f #[u, u'] w R) (h : ∀ e w', R e w' → ∃ v, e = .returned v ∧ K (a.put o.dst v) w') :
    if Region.wanted o (yielded ops a.tmps) = true then Oper.wp P o a w K Q else E := by
  have hw : Region.wanted o (yielded ops a.tmps) = true := by simp [Region.wanted, hg]
  rw [if_pos hw]
  have hf : a.eval (.func f) = .func (.func f) #[] #[] := rfl
  unfold Oper.wp
  simp [execOp, ho, resolve, invoke, Deferred.ofValue, hent, hf, hx, hy, Oper.upon_enter]
  refine hc.mono ?_
  intro e w' hr
  obtain ⟨v, rfl, hk⟩ := h e w' hr
  exact hk

theorem run_make_zero {P : Program} (w : World) (t e : TypeId) (i : TypeInfo) (h1 : P.underlying t = some (.slice e)) (h2 : P.info? e = some i) (h3 : i.zero = some (.int .u8 0)) (h4 : i.size = 1) (h5 : i.bytes = 1) (n : Nat) (b2 : n ≤ 2199023255552) :
    (Instr.makeSlice t (.int .i64 n) (.int .i64 n)).run P w = .ok (.slice (some ⟨w.heap.size, 0, none⟩) n n) (w.alloc (.cells (List.replicate n (.int .u8 0)).toArray e)) := by
  have hz : (Value.int .u8 0).cells = #[.int .u8 0] := rfl
  have hr := run_make (P := P) w t e i _ h1 h2 h3 .i64 .i64 n n (by omega) (by omega) (by rw [h5]; omega) (by omega)
  simp only [Int.toNat_natCast, h4, Nat.mul_one, hz] at hr
  rw [hr]
  congr 1
  congr 1
  congr 1
  apply Array.toList_inj.1
  rw [toList_madeCells_one]

theorem run_text_zero {P : Program} (w : World) (src dst e : TypeId) (hs : P.underlying src = some (.slice e)) (he : P.underlying e = some (.int .u8)) (hd : P.underlying dst = some .string) (b n cap : Nat) (hc : w.heap[b]? = some (.cells (List.replicate n (.int .u8 0)).toArray e (0, 0))) :
    ∃ s : ByteArray, s.size = n ∧ (convert src dst (.slice (some ⟨b, 0, none⟩) n cap)).run P w = .ok (.string s) w := by
  have hr := run_convert_bytes_back (P := P) w src dst e ⟨b, 0, none⟩ cap (List.replicate n 0) hs he hd (by
    intro j hj
    rw [List.length_replicate] at hj
    have hp : (⟨b, 0, none⟩ : Addr).add j = ⟨b, j, none⟩ := by unfold Addr.add; split <;> simp_all
    rw [hp]
    simp [World.cell?, hc, hj])
  rw [List.length_replicate] at hr
  exact ⟨_, by simp [ByteArray.size], hr⟩

theorem step_make_zero {P : Program} {ops : Array Oper} {o : Oper} {a : Act} {w : World} {K : Act → World → Prop} {Q : Exit → Act → World → Prop} {E : Prop}
    (hg : o.guard = none) (l : Operand) (t e : TypeId) (hop : o.op = Op.makeSlice t l l) (i : TypeInfo) (h1 : P.underlying t = some (.slice e)) (h2 : P.info? e = some i) (h3 : i.zero = some (.int .u8 0)) (h4 : i.size = 1) (h5 : i.bytes = 1)
    (L : Int) (n : Nat) (hl : a.eval l = .int .i64 L) (hL : L = (n : Int)) (b2 : n ≤ 2199023255552)
    (h : ∀ w', w'.heap[w.heap.size]? = some (.cells (List.replicate n (.int .u8 0)).toArray e (0, 0)) → Below w.heap.size w w' → K (a.put o.dst (.slice (some ⟨w.heap.size, 0, none⟩) n n)) w') :
    if Region.wanted o (yielded ops a.tmps) = true then Oper.wp P o a w K Q else E := by
  have hw : Region.wanted o (yielded ops a.tmps) = true := by simp [Region.wanted, hg]
  rw [if_pos hw]
  subst hL
  have hz : (Value.int .u8 0).cells = #[.int .u8 0] := rfl
  have hr := run_make (P := P) w t e i _ h1 h2 h3 .i64 .i64 n n (by omega) (by omega) (by rw [h5]; omega) (by omega)
  simp only [Int.toNat_natCast, h4, Nat.mul_one, hz] at hr
  unfold Oper.wp
  simp [execOp, hop, hl, hr, Result.andThen]
  refine h _ ?_ ((Below.refl _ _).alloc (Nat.le_refl _) _)
  rw [heap_alloc_new]
  congr 1
  congr 1
  apply Array.toList_inj.1
  rw [toList_madeCells_one]

theorem step_text_zero {P : Program} {ops : Array Oper} {o : Oper} {a : Act} {w : World} {K : Act → World → Prop} {Q : Exit → Act → World → Prop} {E : Prop}
    (hg : o.guard = none) (x : Operand) (src dst e : TypeId) (hop : o.op = Op.convert src dst x) (hs : P.underlying src = some (.slice e)) (he : P.underlying e = some (.int .u8)) (hd : P.underlying dst = some .string)
    (b n cap : Nat) (hx : a.eval x = .slice (some ⟨b, 0, none⟩) n cap) (hc : w.heap[b]? = some (.cells (List.replicate n (.int .u8 0)).toArray e (0, 0)))
    (h : ∀ s : ByteArray, s.size = n → K (a.put o.dst (.string s)) w) :
    if Region.wanted o (yielded ops a.tmps) = true then Oper.wp P o a w K Q else E := by
  have hw : Region.wanted o (yielded ops a.tmps) = true := by simp [Region.wanted, hg]
  rw [if_pos hw]
  have hr := run_convert_bytes_back (P := P) w src dst e ⟨b, 0, none⟩ cap (List.replicate n 0) hs he hd (by
    intro j hj
    rw [List.length_replicate] at hj
    have hp : (⟨b, 0, none⟩ : Addr).add j = ⟨b, j, none⟩ := by unfold Addr.add; split <;> simp_all
    rw [hp]
    simp [World.cell?, hc, hj])
  rw [List.length_replicate] at hr
  unfold Oper.wp
  simp [execOp, hop, hx, hr, Result.andThen]
  exact h _ (by simp [ByteArray.size])

end Go.Proofs.YtlkgopoicpnacaaGreatDoor

namespace Go.Proofs.YtlkgopoicpnacaaGreatDoor
open Go.RowKit
set_option linter.unusedVariables false

/-- 'make([]byte, n, c)': a new row of c cells, all 0. -/
theorem wpList_make_room {P : Program} (w : World) {ops : Array Oper} {rest : List Oper} {o : Oper} {a : Act} {Q : Exit → Act → World → Prop}
    (hg : o.guard = none) (l c : Operand) (t : TypeId) (hop : o.op = Op.makeSlice t l c)
    (e : TypeId) (i : TypeInfo) (z : Value) (h1 : P.underlying t = some (.slice e)) (h2 : P.info? e = some i) (h3 : i.zero = some z) (h4 : i.size = 1) (hz : z.cells = #[z]) (h5 : i.bytes = 1)
    (kl kc : IntKind) (L C : Int) (n m : Nat) (hl : a.eval l = .int kl L) (hc : a.eval c = .int kc C) (hL : L = (n : Int)) (hC : C = (m : Int)) (hnm : n ≤ m) (b2 : m ≤ 2199023255552)
    (hK : ∀ w', w'.heap[w.heap.size]? = some (.cells (List.replicate m z).toArray e (0, 0)) → Below w.heap.size w w' → wpList P ops Q rest (a.put o.dst (.slice (some ⟨w.heap.size, 0, none⟩) n m)) w') :
    wpList P ops Q (o :: rest) a w := by
  refine wpList_plain hg fun K hK' => ?_
  subst hL hC
  have hr := run_make (P := P) w t e i z h1 h2 h3 kl kc n m (by omega) (by omega) (by rw [h5]; omega) (by omega)
  simp only [Int.toNat_natCast, h4, Nat.mul_one, hz] at hr
  unfold Oper.wp
  simp [execOp, hop, hl, hc, hr, Result.andThen]
  refine hK' _ _ (hK _ ?_ ((Below.refl _ _).alloc (Nat.le_refl _) _))
  rw [heap_alloc_new]
  congr 1
  congr 1
  apply Array.toList_inj.1
  rw [toList_madeCells_one]

theorem own_of_row {w : World} {g n c : Nat} {cur : List Value} {base : Nat} (h : w.heap[g]? = some (.cells cur.toArray 5 (0, 0))) (hb : base ≤ g) (hl : cur.length = c) (hn : n ≤ c) (hc : c ≤ maxLen) : w.ownsRow base 5 1 (.slice (some ⟨g, 0, none⟩) n c) n (cur.take n) :=
  ⟨by simp; omega, .inr ⟨g, c, cur.toArray, rfl, hb, h, hn, hc, by simpa using hl, by simp⟩⟩

end Go.Proofs.YtlkgopoicpnacaaGreatDoor

namespace Go.Proofs.YtlkgopoicpnacaaGreatDoor
open Go.RowKit
set_option linter.unusedVariables false

/-- 'copy' of bytes into a new row that is at least as long. -/
theorem copy_bytes (w1 : World) (g len c b off cap : Nat) (zs : List Int) (hs : Seg w1 (some ⟨b, off, none⟩) len zs) (hg : w1.heap[g]? = some (.cells (List.replicate c (Value.int .u8 0)).toArray 5 (0, 0))) (hc : len ≤ c) (w : World) (hb : Below g w w1) :
    ∃ w2, (Builtin.copy_ #[22, 22] 3 #[.slice (some ⟨g, 0, none⟩) len c, .slice (some ⟨b, off, none⟩) len cap]).run Tryz.prog w1 = .ok (.int .i64 len) w2 ∧
      w2.heap[g]? = some (.cells (zs.map (Value.int .u8) ++ List.replicate (c - len) (Value.int .u8 0)).toArray 5 (0, 0)) ∧ Below g w w2 := by
  obtain ⟨i0, hi, hz0, hz1, hz2⟩ := info_parts Tryz.info5
  have hzl : zs.length = len := hs.1
  have hr := run_copy_row (P := Tryz.prog) w1 22 22 3 5 g 0 len c ⟨b, off, none⟩ len cap _ 5 (zs.map (Value.int .u8)) Tryz.underlying22 (by rw [hi]; simp [hz1]) hg (by simp [hzl]) (cells_ints hs) (by simp [hzl]; omega) (ints_one zs)
  have hr2 : (Builtin.copy_ #[22, 22] 3 #[.slice (some ⟨g, 0, none⟩) len c, .slice (some ⟨b, off, none⟩) len cap]).run Tryz.prog w1 = .ok (.int .i64 len) (w1.setRow g (zs.map (Value.int .u8) ++ List.replicate (c - len) (Value.int .u8 0)).toArray) := by
    rw [hr]; simp [goInt, hzl]
  exact ⟨_, hr2, setRow_heap w1 g _ _ 5 _ hg, below_setRow hb (Nat.le_refl _) _⟩

theorem copy_any (w1 : World) (g len c : Nat) (sa : Option Addr) (cap : Nat) (zs : List Int) (hs : Seg w1 sa len zs) (hg : w1.heap[g]? = some (.cells (List.replicate c (Value.int .u8 0)).toArray 5 (0, 0))) (hc : len ≤ c) (w : World) (hb : Below g w w1) :
    ∃ w2, (Builtin.copy_ #[22, 22] 3 #[.slice (some ⟨g, 0, none⟩) len c, .slice sa len cap]).run Tryz.prog w1 = .ok (.int .i64 len) w2 ∧
      w2.heap[g]? = some (.cells (zs.map (Value.int .u8) ++ List.replicate (c - len) (Value.int .u8 0)).toArray 5 (0, 0)) ∧ Below g w w2 := by
  rcases hs.2.2 with h | ⟨b, off, rfl, _⟩
  · subst h
    obtain rfl : zs = [] := List.eq_nil_of_length_eq_zero hs.1
    refine ⟨w1, ?_, by simpa using hg, hb⟩
    obtain ⟨i0, hi, hz0, hz1, hz2⟩ := info_parts Tryz.info5
    cases sa with
    | none => simp [Builtin.copy_, run_underlying Tryz.underlying22, sizeOf, typeInfo, hi, Builtin.lenOf, Builtin.firstCells, storeCells, goInt]
    | some ad => simp [Builtin.copy_, run_underlying Tryz.underlying22, sizeOf, typeInfo, hi, Builtin.lenOf, Builtin.firstCells, loadCells, loadCellsFrom, storeCells, goInt]
  · exact copy_bytes w1 g len c b off cap zs hs hg hc w hb

set_option maxRecDepth 10000 in
set_option maxHeartbeats 400000 in
theorem implPut_yes (sa : Option Addr) (len cap n k : Nat) (zs : List Int) (w : World) (hs : Seg w sa len zs) (hl : len ≤ 1099511627776) (hn : n ≤ 9223372036854775807) (h1 : 1 ≤ k) (h8 : k ≤ 8) :
    Calls Tryz.prog 110 #[.slice sa len cap, .int .i64 n, .int .i64 k] w fun e w' => ∃ a' cap', e = .returned (.slice a' (len + k) cap') ∧ Owns w' w.heap.size a' (len + k) cap' (zs ++ pbl n k k) ∧ Below w.heap.size w w' := by
  obtain ⟨i0, hi, hz0, hz1, hz2⟩ := info_parts Tryz.info5
  have HS : Hid (Seg w sa len zs) := hs
  have hzl : zs.length = len := hs.1
  clear hs
  have hk1 : (1 : Int) ≤ (k : Int) := by omega
  have hk8 : (k : Int) ≤ 8 := by omega
  have hn0 : (0 : Int) ≤ (n : Int) := by omega
  have hd1 : decide ((k : Int) < 1) = false := by simp; omega
  have hd2 : decide ((8 : Int) < (k : Int)) = false := by simp; omega
  go_enter Tryz.func110, Tryz.ntmps110
  go_wp2_with (first | (at_make; refine wpList_make_room _ rfl _ _ 22 rfl 5 i0 (.int .u8 0) Tryz.underlying22 hi hz0 hz1 rfl hz2 _ _ _ _ len (len + k) rfl rfl rfl (by omega) (by omega) (by omega) ?_; intro w1 hg1 hb1; refine Hid.out ?_))
  refine hidden ?_
  have HG1 : Hid (w1.heap[w.heap.size]? = some (.cells (List.replicate (len + k) (Value.int .u8 0)).toArray 5 (0, 0))) := hg1
  have HB1 : Hid (Below w.heap.size w w1) := hb1
  clear hg1 hb1
  have HS1 : Hid (Seg w1 sa len zs) := HS.out.below HB1.out
  obtain ⟨w2, hrun, hg2, hb2⟩ := copy_any w1 w.heap.size len (len + k) sa cap zs HS1.out HG1.out (by omega) w HB1.out
  go_wp2
  clear hrun
  have HO : Hid (w2.ownsRow w.heap.size 5 1 (.slice (some ⟨w.heap.size, 0, none⟩) len (len + k)) (len + 0) ((zs ++ pbl n k 0).map (Value.int .u8))) := by
    show World.ownsRow _ _ _ _ _ _ _
    have h := own_of_row hg2 (base := w.heap.size) (Nat.le_refl _) (n := len) (c := len + k) (by simp [hzl]) (by omega) (by unfold maxLen; omega)
    simpa [pbl, hzl] using h
  have HB : Hid (Below w.heap.size w w2) := hb2
  clear hg2 hb2 HG1 HB1 HS1
  go_loopw [7, 8] (fun v i wr => ∃ t : Nat, t ≤ k ∧ i = .int .i64 (8 * ((k : Int) - 1 - t)) ∧ Hid (wr.ownsRow w.heap.size 5 1 v (len + t) ((zs ++ pbl n k t).map (Value.int .u8))) ∧ Hid (Below w.heap.size w wr)) (fun _ i _ => (intOf i + 8).toNat)
  case atStart => exact ⟨0, Nat.zero_le _, by go_num, HO, HB⟩
  case round =>
    clear HO HB
    obtain ⟨t, ht, rfl, HO, HB⟩ := hrel
    by_cases hlt : t < k
    · have hsz := HB.out.size
      have HN : Hid (∀ j u, [Value.int .u8 (byteOf n (k - 1 - t))][j]? = some u → (wr.alloc (.cells #[.int .u8 (byteOf n (k - 1 - t))] 5)).cell? ((⟨wr.heap.size, 0, none⟩ : Addr).add j) = some u) := one_new wr (byteOf n (k - 1 - t))
      go_wp2_with (at_builtin; refine wpList_append_own _ rfl _ _ 22 rfl w.heap.size 5 i0 (.int .u8 0) 1 1 Tryz.underlying22 hi hz0 hz1 hz2 rfl (by decide) u7 (len + t) _ rfl (HO.out.alloc _) ⟨wr.heap.size, 0, none⟩ 1 1 [.int .u8 (byteOf n (k - 1 - t))] rfl rfl HN.out (ints_one [byteOf n (k - 1 - t)]) (by unfold maxLen; omega) (by omega) (by simp; omega) ?_; intro v2 w2 hown2 hgrow2 _; refine Hid.out ?_)
      refine hidden ?_
      have HO2 : Hid (w2.ownsRow w.heap.size 5 1 v2 (len + (t + 1)) ((zs ++ pbl n k (t + 1)).map (Value.int .u8))) := by
        show World.ownsRow _ _ _ _ _ _ _
        rw [pbl_succ, ← List.append_assoc, List.map_append]
        exact hown2
      have HB2 : Hid (Below w.heap.size w w2) := (HB.out.alloc (by omega) _).grown hgrow2 (by simp; omega) (fun q hq => (HO.out.lt q hq).1)
      clear hown2 hgrow2 HN HO HB
      go_wp2
      go_roundw
      case rel => exact ⟨t + 1, by omega, by go_num, HO2, HB2⟩
      case measure => simp [intOf]; omega
    · have htk : t = k := by omega
      subst htk
      obtain ⟨a', cap', rfl⟩ := shape_of_owns HO.out
      go_wp2
      go_ret
      refine ⟨a', cap', rfl, ⟨HO.out, ?_⟩, HB.out⟩
      intro x hx
      rcases List.mem_append.1 hx with hx | hx
      · exact HS.out.2.1 x hx
      · exact pbl_range _ _ _ x hx

set_option maxRecDepth 10000 in
set_option maxHeartbeats 400000 in
theorem implPut_neg (sa : Option Addr) (len cap k : Nat) (n : Int) (zs : List Int) (w : World) (hs : Seg w sa len zs) (hl : len ≤ 1099511627776) (hn : n < 0) (h1 : 1 ≤ k) (h8 : k ≤ 8) :
    Calls Tryz.prog 110 #[.slice sa len cap, .int .i64 n, .int .i64 k] w fun e w' => ∃ a' cap', e = .returned (.slice a' (len + k) cap') ∧ Owns w' w.heap.size a' (len + k) cap' (zs ++ pbl 0 k k) ∧ Below w.heap.size w w' := by
  obtain ⟨i0, hi, hz0, hz1, hz2⟩ := info_parts Tryz.info5
  have HS : Hid (Seg w sa len zs) := hs
  have hzl : zs.length = len := hs.1
  clear hs
  have hk1 : (1 : Int) ≤ (k : Int) := by omega
  have hk8 : (k : Int) ≤ 8 := by omega
  have hd1 : decide ((k : Int) < 1) = false := by simp; omega
  have hd2 : decide ((8 : Int) < (k : Int)) = false := by simp; omega
  go_enter Tryz.func110, Tryz.ntmps110
  go_wp2_with (first | (at_make; refine wpList_make_room _ rfl _ _ 22 rfl 5 i0 (.int .u8 0) Tryz.underlying22 hi hz0 hz1 rfl hz2 _ _ _ _ len (len + k) rfl rfl rfl (by omega) (by omega) (by omega) ?_; intro w1 hg1 hb1; refine Hid.out ?_))
  refine hidden ?_
  have HG1 : Hid (w1.heap[w.heap.size]? = some (.cells (List.replicate (len + k) (Value.int .u8 0)).toArray 5 (0, 0))) := hg1
  have HB1 : Hid (Below w.heap.size w w1) := hb1
  clear hg1 hb1
  have HS1 : Hid (Seg w1 sa len zs) := HS.out.below HB1.out
  obtain ⟨w2, hrun, hg2, hb2⟩ := copy_any w1 w.heap.size len (len + k) sa cap zs HS1.out HG1.out (by omega) w HB1.out
  go_wp2
  clear hrun
  have HO : Hid (w2.ownsRow w.heap.size 5 1 (.slice (some ⟨w.heap.size, 0, none⟩) len (len + k)) (len + 0) ((zs ++ pbl 0 k 0).map (Value.int .u8))) := by
    show World.ownsRow _ _ _ _ _ _ _
    have h := own_of_row hg2 (base := w.heap.size) (Nat.le_refl _) (n := len) (c := len + k) (by simp [hzl]) (by omega) (by unfold maxLen; omega)
    simpa [pbl, hzl] using h
  have HB : Hid (Below w.heap.size w w2) := hb2
  clear hg2 hb2 HG1 HB1 HS1
  go_loopw [7, 8] (fun v i wr => ∃ t : Nat, t ≤ k ∧ i = .int .i64 (8 * ((k : Int) - 1 - t)) ∧ Hid (wr.ownsRow w.heap.size 5 1 v (len + t) ((zs ++ pbl 0 k t).map (Value.int .u8))) ∧ Hid (Below w.heap.size w wr)) (fun _ i _ => (intOf i + 8).toNat)
  case atStart => exact ⟨0, Nat.zero_le _, by go_num, HO, HB⟩
  case round =>
    clear HO HB
    obtain ⟨t, ht, rfl, HO, HB⟩ := hrel
    by_cases hlt : t < k
    · have hsz := HB.out.size
      have HN : Hid (∀ j u, [Value.int .u8 ((0 : Int))][j]? = some u → (wr.alloc (.cells #[.int .u8 ((0 : Int))] 5)).cell? ((⟨wr.heap.size, 0, none⟩ : Addr).add j) = some u) := one_new wr ((0 : Int))
      go_wp2_with (at_builtin; refine wpList_append_own _ rfl _ _ 22 rfl w.heap.size 5 i0 (.int .u8 0) 1 1 Tryz.underlying22 hi hz0 hz1 hz2 rfl (by decide) u7 (len + t) _ rfl (HO.out.alloc _) ⟨wr.heap.size, 0, none⟩ 1 1 [.int .u8 ((0 : Int))] rfl rfl HN.out (ints_one [(0 : Int)]) (by unfold maxLen; omega) (by omega) (by simp; omega) ?_; intro v2 w2 hown2 hgrow2 _; refine Hid.out ?_)
      refine hidden ?_
      have HO2 : Hid (w2.ownsRow w.heap.size 5 1 v2 (len + (t + 1)) ((zs ++ pbl 0 k (t + 1)).map (Value.int .u8))) := by
        show World.ownsRow _ _ _ _ _ _ _
        rw [pbl_succ, byteOf_zero, ← List.append_assoc, List.map_append]
        exact hown2
      have HB2 : Hid (Below w.heap.size w w2) := (HB.out.alloc (by omega) _).grown hgrow2 (by simp; omega) (fun q hq => (HO.out.lt q hq).1)
      clear hown2 hgrow2 HN HO HB
      go_wp2
      go_roundw
      case rel => exact ⟨t + 1, by omega, by go_num, HO2, HB2⟩
      case measure => simp [intOf]; omega
    · have htk : t = k := by omega
      subst htk
      obtain ⟨a', cap', rfl⟩ := shape_of_owns HO.out
      go_wp2
      go_ret
      refine ⟨a', cap', rfl, ⟨HO.out, ?_⟩, HB.out⟩
      intro x hx
      rcases List.mem_append.1 hx with hx | hx
      · exact HS.out.2.1 x hx
      · exact pbl_range _ _ _ x hx

set_option maxRecDepth 10000 in
set_option maxHeartbeats 400000 in
theorem implPut_no (sa : Option Addr) (len cap : Nat) (n k : Int) (zs : List Int) (w : World) (hs : Seg w sa len zs) (hl : len ≤ 1099511627776) (hk : k < 1 ∨ 8 < k) :
    Calls Tryz.prog 110 #[.slice sa len cap, .int .i64 n, .int .i64 k] w fun e w' => ∃ a' cap', e = .returned (.slice a' len cap') ∧ Owns w' w.heap.size a' len cap' (zs) ∧ Below w.heap.size w w' := by
  obtain ⟨i0, hi, hz0, hz1, hz2⟩ := info_parts Tryz.info5
  have HS : Hid (Seg w sa len zs) := hs
  have hzl : zs.length = len := hs.1
  clear hs
  have HK : Hid (k < 1 ∨ 8 < k) := hk
  clear hk
  by_cases hk1 : k < 1
  · have hd1 : decide (k < 1) = true := by simp; omega
    by_cases hn0 : n < 0
    all_goals
      go_enter Tryz.func110, Tryz.ntmps110
      go_wp2_with (first | (at_make; refine wpList_make_room _ rfl _ _ 22 rfl 5 i0 (.int .u8 0) Tryz.underlying22 hi hz0 hz1 rfl hz2 _ _ _ _ len len rfl rfl rfl (by omega) (by omega) (by omega) ?_; intro w1 hg1 hb1; refine Hid.out ?_))
      refine hidden ?_
      have HG1 : Hid (w1.heap[w.heap.size]? = some (.cells (List.replicate len (Value.int .u8 0)).toArray 5 (0, 0))) := hg1
      have HB1 : Hid (Below w.heap.size w w1) := hb1
      clear hg1 hb1
      have HS1 : Hid (Seg w1 sa len zs) := HS.out.below HB1.out
      obtain ⟨w2, hrun, hg2, hb2⟩ := copy_any w1 w.heap.size len len sa cap zs HS1.out HG1.out (by omega) w HB1.out
      go_wp2
      clear hrun
      have HO : Hid (Owns w2 w.heap.size (some ⟨w.heap.size, 0, none⟩) len len zs) := by
        have h := own_of_row hg2 (base := w.heap.size) (Nat.le_refl _) (n := len) (c := len) (by simp [hzl]) (by omega) (by unfold maxLen; omega)
        rw [List.take_append_of_le_length (by simp [hzl]), List.take_of_length_le (by simp [hzl])] at h
        exact ⟨h, HS.out.2.1⟩
      have HB : Hid (Below w.heap.size w w2) := hb2
      clear hg2 hb2 HG1 HB1 HS1
      refine wp_loop_rounds 1 ?_
      rw [rounds_succ]
      go_wp2
      go_ret
      exact ⟨_, _, rfl, HO.out, HB.out⟩
  · have hk8 : 8 < k := by have := HK.out; omega
    have hd1 : decide (k < 1) = false := by simp; omega
    have hd2 : decide (8 < k) = true := by simp; omega
    by_cases hn0 : n < 0
    all_goals
      go_enter Tryz.func110, Tryz.ntmps110
      go_wp2_with (first | (at_make; refine wpList_make_room _ rfl _ _ 22 rfl 5 i0 (.int .u8 0) Tryz.underlying22 hi hz0 hz1 rfl hz2 _ _ _ _ len len rfl rfl rfl (by omega) (by omega) (by omega) ?_; intro w1 hg1 hb1; refine Hid.out ?_))
      refine hidden ?_
      have HG1 : Hid (w1.heap[w.heap.size]? = some (.cells (List.replicate len (Value.int .u8 0)).toArray 5 (0, 0))) := hg1
      have HB1 : Hid (Below w.heap.size w w1) := hb1
      clear hg1 hb1
      have HS1 : Hid (Seg w1 sa len zs) := HS.out.below HB1.out
      obtain ⟨w2, hrun, hg2, hb2⟩ := copy_any w1 w.heap.size len len sa cap zs HS1.out HG1.out (by omega) w HB1.out
      go_wp2
      clear hrun
      have HO : Hid (Owns w2 w.heap.size (some ⟨w.heap.size, 0, none⟩) len len zs) := by
        have h := own_of_row hg2 (base := w.heap.size) (Nat.le_refl _) (n := len) (c := len) (by simp [hzl]) (by omega) (by unfold maxLen; omega)
        rw [List.take_append_of_le_length (by simp [hzl]), List.take_of_length_le (by simp [hzl])] at h
        exact ⟨h, HS.out.2.1⟩
      have HB : Hid (Below w.heap.size w w2) := hb2
      clear hg2 hb2 HG1 HB1 HS1
      refine wp_loop_rounds 1 ?_
      rw [rounds_succ]
      go_wp2
      go_ret
      exact ⟨_, _, rfl, HO.out, HB.out⟩

theorem implPut_any (sa : Option Addr) (len cap : Nat) (n k : Int) (zs : List Int) (w : World) (hs : Seg w sa len zs) (hl : len ≤ 1099511627776) (hn : n ≤ 9223372036854775807) :
    Calls Tryz.prog 110 #[.slice sa len cap, .int .i64 n, .int .i64 k] w fun e w' => ∃ a' cap', e = .returned (.slice a' (pb zs n k).length cap') ∧ Owns w' w.heap.size a' (pb zs n k).length cap' (pb zs n k) ∧ Below w.heap.size w w' := by
  have hz := hs.1
  by_cases hk : 1 ≤ k ∧ k ≤ 8
  · obtain ⟨K, rfl⟩ := Int.eq_ofNat_of_zero_le (show 0 ≤ k by omega)
    have e : pb zs n K = zs ++ pbl n.toNat K K := by rw [pb, if_pos hk, Int.toNat_natCast]
    have el : (zs ++ pbl n.toNat K K).length = len + K := by rw [List.length_append, pbl_len, hz]
    rw [e, el]
    by_cases h0 : n < 0
    · rw [show n.toNat = 0 by omega]
      exact implPut_neg sa len cap K n zs w hs hl h0 (by omega) (by omega)
    · obtain ⟨M, rfl⟩ := Int.eq_ofNat_of_zero_le (show 0 ≤ n by omega)
      rw [Int.toNat_natCast]
      exact implPut_yes sa len cap M K zs w hs hl (by omega) (by omega) (by omega)
  · have e : pb zs n k = zs := by rw [pb, if_neg hk, List.append_nil]
    rw [e, hz]
    exact implPut_no sa len cap n k zs w hs hl (by omega)

end Go.Proofs.YtlkgopoicpnacaaGreatDoor

namespace Go.Proofs.YtlkgopoicpnacaaGreatDoor
open Go.RowKit

set_option maxHeartbeats 400000 in
theorem crcByte_any (s : Nat) (x : Int) (w : World) (hs : s < 4294967296) (hx0 : 0 ≤ x) (hx1 : x ≤ 255) :
    Calls Tryz.prog 122 #[.int .u32 s, .int .u8 x] w fun e w' => e = .returned (.int .u32 ((crcN 8 (s ^^^ x.toNat) : Nat) : Int)) ∧ w' = w := by
  have hxor := u32_xor_int s x hs hx0 (by omega)
  have hq := xor_lt32 s x.toNat hs (by omega)
  generalize s ^^^ x.toNat = q at *
  go_enter Tryz.func122, Tryz.ntmps122
  go_wp2
  clear hxor
  go_loop [0, 10] (fun m i => ∃ j : Nat, j ≤ 8 ∧ i = .int .i64 j ∧ m = .int .u32 ((crcN j q : Nat) : Int)) (fun _ i => 8 - (intOf i).toNat)
  case atStart => exact ⟨0, Nat.zero_le _, rfl, rfl⟩
  case round =>
    obtain ⟨j, hj, rfl, rfl⟩ := hrel
    have hb := crcN_lt j q hq
    have hsn : Hid (crcN (j + 1) q = crc1 (crcN j q)) := rfl
    generalize hm0 : crcN j q = m at *
    have HM : Hid (crcN j q = m) := hm0
    clear hm0
    by_cases hlt : j < 8
    · have ht := u32_turn m hb
      rcases Nat.mod_two_eq_zero_or_one m with h0 | h0
      · have ha : bits .and .u32 (m : Int) 1 = 0 := by rw [u32_and1 m hb]; omega
        go_wp2
        go_round
        case rel => exact ⟨j + 1, by omega, by go_num, by rw [hsn.out, crc1, if_neg (by omega)]; go_num⟩
        case measure => simp [intOf]; omega
      · have ha : bits .and .u32 (m : Int) 1 = 1 := by rw [u32_and1 m hb]; omega
        go_wp2
        go_round
        case rel => exact ⟨j + 1, by omega, by go_num, by rw [hsn.out, crc1, if_pos (by omega)]⟩
        case measure => simp [intOf]; omega
    · go_wp2
      go_ret
      have : j = 8 := by omega
      subst this
      exact ⟨ret_int (by rw [HM.out]), rfl⟩

set_option maxHeartbeats 400000 in
theorem implCrc_any (a : Option Addr) (len cap : Nat) (zs : List Int) (w : World) (hs : Seg w a len zs) (hl : len ≤ 1099511627776) :
    Calls Tryz.prog 111 #[.slice a len cap] w fun e w' => e = .returned (.int .i64 ((crcL zs ^^^ 4294967295 : Nat) : Int)) ∧ w' = w := by
  have HS : Hid (Seg w a len zs) := hs
  clear hs
  go_enter Tryz.func111, Tryz.ntmps111
  go_wp2
  go_loop [3, 8] (fun m i => ∃ j : Nat, j ≤ len ∧ i = .int .i64 j ∧ m = .int .u32 ((crcL (zs.take j) : Nat) : Int)) (fun _ i => len - (intOf i).toNat)
  case atStart => exact ⟨0, Nat.zero_le _, rfl, rfl⟩
  case round =>
    obtain ⟨j, hj, rfl, rfl⟩ := hrel
    have hb := crcL_lt (zs.take j) (fun n hn => HS.out.2.1 n (List.mem_of_mem_take hn))
    by_cases hlt : j < len
    · have hsn : Hid (crcL (zs.take (j + 1)) = crcN 8 (crcL (zs.take j) ^^^ (zs.getD j 0).toNat)) := by
        show crcL _ = _
        rw [take_snoc zs j (by have := HS.out.1; omega), crcL_snoc]
      obtain ⟨b, off, rfl, hb2, hc⟩ : ∃ b off, a = some ⟨b, off, none⟩ ∧ b < w.heap.size ∧ ∀ i, i < len → w.cell? ⟨b, off + i, none⟩ = some (.int .u8 (zs.getD i 0)) := by
        rcases HS.out.2.2 with h | h
        · omega
        · exact h
      have hcell : w.cell? ⟨b, off + j, none⟩ = some (.int .u8 (zs.getD j 0)) := hc j hlt
      clear hc
      obtain ⟨hx0, hx1⟩ := HS.out.range j
      generalize crcL (zs.take j) = m at *
      generalize zs.getD j 0 = x at *
      go_wp2_with (go_at_call 122; refine (crcByte_any m x _ hb hx0 hx1).mono ?_; rintro e w' ⟨rfl, rfl⟩)
      go_round
      case rel => exact ⟨j + 1, by omega, by go_num, by rw [hsn.out]⟩
      case measure => simp [intOf]; omega
    · have hjl : j = len := by omega
      subst hjl
      have hz : zs.take j = zs := List.take_of_length_le (by have := HS.out.1; omega)
      rw [hz] at hb ⊢
      clear hz
      have hsg : IntKind.u32.signed = false := rfl
      have hr := u32_not (crcL zs) hb
      have hr2 := xor_lt32 (crcL zs) 4294967295 hb (by omega)
      generalize hrr : crcL zs ^^^ 4294967295 = r at hr hr2
      have HRR : Hid (crcL zs ^^^ 4294967295 = r) := hrr
      clear hrr
      go_wp2
      go_ret
      exact ⟨ret_int (by rw [HRR.out]), rfl⟩

end Go.Proofs.YtlkgopoicpnacaaGreatDoor
