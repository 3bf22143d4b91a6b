/- What both programs' Number answer: the number that a text of digits without needless noughts spells, up to 10^9, else 0 and false. For texts of at most 2^47 bytes. -/
import Derived.Test.YtbnhbmjomckfgaiDoorText
import Derived.Test.YtbnhbmjomckfgaiDoorNumNums
namespace Go.Proofs.YtbnhbmjomckfgaiDoor
open Go.RowKit
set_option linter.unusedVariables false

theorem str_take_snoc (s : ByteArray) (k : Nat) (h : k < s.size) : s.data.toList.take (k + 1) = s.data.toList.take k ++ [s[k]] := by
  rw [List.take_succ_eq_append_getElem (by simpa using h)]; rfl

theorem str_len (s : ByteArray) : s.data.toList.length = s.size := Array.length_toList

theorem str_head (s : ByteArray) (h : 0 < s.size) : s.data.toList.head? = some s[0] := by
  have : s.data.toList = s[0] :: s.data.toList.drop 1 := by
    have h1 := str_take_snoc s 0 h
    have h2 := List.take_append_drop 1 s.data.toList
    rw [show (0 + 1) = 1 from rfl] at h1
    rw [h1] at h2
    simpa using h2.symm
  rw [this]; rfl

theorem ret_pair {a b : Int} {x y : Bool} (h : a = b) (k : x = y) : Ending.returned (.tuple #[.int .i64 a, .bool x]) = .returned (.tuple #[.int .i64 b, .bool y]) := by rw [h, k]

theorem numR_bad (l : List UInt8) (h : ¬ Good l) : numR l = (0, false) := by rw [numR, if_neg h]
theorem numR_good (l : List UInt8) (h : Good l) : numR l = ((val l : Int), true) := by rw [numR, if_pos h]

theorem digs_take {l : List UInt8} {k : Nat} (h : digs l) : digs (l.take k) := fun c hc => h c (List.mem_of_mem_take hc)

theorem val_small (s : ByteArray) (k : Nat) (h10 : s.size ≤ 10) (hd : digs (s.data.toList.take k)) : val (s.data.toList.take k) ≤ 10000000000 := by
  have h1 := val_lt _ hd
  have h2 : (s.data.toList.take k).length ≤ 10 := by
    have := str_len s
    simp only [List.length_take]
    omega
  have h3 : 10 ^ (s.data.toList.take k).length ≤ 10 ^ 10 := Nat.pow_le_pow_right (by decide) h2
  have h4 : 10 ^ 10 = 10000000000 := by decide
  omega

set_option maxHeartbeats 1600000 in
theorem specNum_main (s : ByteArray) (w : World) (h1 : 1 ≤ s.size) (h10 : s.size ≤ 10) (hz : s.size = 1 ∨ s[0]'(by omega) ≠ 48) :
    Calls Tryd.prog 7 #[.string s] w fun e w' => e = .returned (.tuple #[.int .i64 (numR s.data.toList).1, .bool (numR s.data.toList).2]) ∧ w' = w := by
  have hs1 : (1 : Int) ≤ (s.size : Int) := by omega
  have hs10 : (s.size : Int) ≤ 10 := by omega
  have HZ : Hid (s.size = 1 ∨ s[0]'(by omega) ≠ 48) := hz
  have HQ : Hid (s.data.toList.length = 1 ∨ s.data.toList.head? ≠ some 48) := by
    show _ ∨ _
    rw [str_len, str_head s (by omega)]
    rcases hz with h | h
    · exact .inl h
    · exact .inr (fun e => h (Option.some.inj e))
  clear hz
  generalize hR : numR s.data.toList = R
  have HR : Hid (numR s.data.toList = R) := hR
  clear hR
  have h2 : decide ((1 : Int) < (s.size : Int)) = true ∨ decide ((1 : Int) < (s.size : Int)) = false := by cases decide ((1 : Int) < (s.size : Int)) <;> simp
  have h0 : Hid (decide ((1 : Int) < (s.size : Int)) = true → (((s[0]'(by omega)).toNat : Int) == 48) = false) := by
    intro hd
    simp only [decide_eq_true_eq] at hd
    rw [beq_eq_false_iff_ne]
    intro e
    rcases HZ.out with h | h
    · omega
    · exact h (UInt8.toNat_inj.1 (by
        have : (s[0]'(by omega)).toNat = 48 := by omega
        rw [this]; rfl))
  clear HZ
  rcases h2 with h2 | h2
  · have h0' := h0.out h2
    clear h0
    go_enter Tryd.func7, Tryd.ntmps7
    go_wp2_with (go_at_call 9; refine (l1In_yes _ _ _ _ hs1 hs10).mono ?_; rintro e w' ⟨rfl, rfl⟩)
    go_loop [4, 5] (fun n i => ∃ k : Nat, k ≤ s.size ∧ i = .int .i64 k ∧ n = .int .i64 ((val (s.data.toList.take k) : Nat) : Int) ∧ Hid (digs (s.data.toList.take k))) (fun _ i => s.size - (intOf i).toNat)
    case atStart => exact ⟨0, Nat.zero_le _, rfl, rfl, fun c hc => by simp at hc⟩
    case round =>
      obtain ⟨k, hk, rfl, rfl, HD⟩ := hrel
      have hv := val_small s k h10 HD.out
      by_cases hlt : k < s.size
      · have hsn : Hid (val (s.data.toList.take (k + 1)) = val (s.data.toList.take k) * 10 + (s[k].toNat - 48)) := by
          show val _ = _
          rw [str_take_snoc s k hlt, val_snoc]
        have hds : Hid (digs (s.data.toList.take (k + 1)) ↔ digs (s.data.toList.take k) ∧ 48 ≤ s[k].toNat ∧ s[k].toNat ≤ 57) := by
          show _ ↔ _
          rw [str_take_snoc s k hlt, digs_snoc]
        generalize val (s.data.toList.take k) = v at *
        have hvi : (v : Int) ≤ 10000000000 := by omega
        have hc0 : (0 : Int) ≤ (s[k].toNat : Int) := by omega
        have hc1 : (s[k].toNat : Int) ≤ 255 := by have := s[k].toNat_lt; omega
        by_cases hd : 48 ≤ s[k].toNat ∧ s[k].toNat ≤ 57
        · have hd1 : (48 : Int) ≤ (s[k].toNat : Int) := by omega
          have hd2 : (s[k].toNat : Int) ≤ 57 := by omega
          have HD2 : Hid (digs (s.data.toList.take (k + 1))) := hds.out.2 ⟨HD.out, hd⟩
          clear hd hds
          go_wp2_with (go_at_call 9; refine (l1In_yes _ _ _ _ hd1 hd2).mono ?_; rintro e w' ⟨rfl, rfl⟩)
          go_round
          case rel => exact ⟨k + 1, by omega, by go_num, by rw [hsn.out]; go_num, HD2⟩
          case measure => simp [intOf]; omega
        · have hd1 : Hid ((s[k].toNat : Int) < 48 ∨ 57 < (s[k].toNat : Int)) := by show _ ∨ _; omega
          have HB : Hid (R = (0, false)) := by
            show R = _
            rw [← HR.out]
            refine numR_bad _ (fun hg => hd ?_)
            exact (hds.out.1 (digs_take hg.2.2.2.1)).2
          clear hd hds
          go_wp2_with (go_at_call 9; refine (l1In_no _ _ _ _ hd1.out).mono ?_; rintro e w' ⟨rfl, rfl⟩)
          go_ret2
          exact ⟨ret_pair (by rw [HB.out]) (by rw [HB.out]), rfl⟩
      · have hkl : k = s.size := by omega
        subst hkl
        have hz : s.data.toList.take s.size = s.data.toList := List.take_of_length_le (by rw [str_len]; exact Nat.le_refl _)
        rw [hz] at hv HD ⊢
        clear hz
        by_cases hbig : val s.data.toList ≤ 1000000000
        · have HB : Hid (R = ((val s.data.toList : Int), true)) := by
            show R = _
            rw [← HR.out]
            exact numR_good _ ⟨by rw [str_len]; omega, by rw [str_len]; omega, HQ.out, HD.out, hbig⟩
          have hbi : ¬ (1000000000 : Int) < (val s.data.toList : Int) := by omega
          clear hbig
          go_wp2
          go_ret2
          exact ⟨ret_pair (by rw [HB.out]) (by rw [HB.out]), rfl⟩
        · have HB : Hid (R = (0, false)) := by
            show R = _
            rw [← HR.out]
            exact numR_bad _ (fun hg => hbig hg.2.2.2.2)
          have hbi : (1000000000 : Int) < (val s.data.toList : Int) := by omega
          clear hbig
          go_wp2
          go_ret2
          exact ⟨ret_pair (by rw [HB.out]) (by rw [HB.out]), rfl⟩
  · clear h0
    go_enter Tryd.func7, Tryd.ntmps7
    go_wp2_with (go_at_call 9; refine (l1In_yes _ _ _ _ hs1 hs10).mono ?_; rintro e w' ⟨rfl, rfl⟩)
    go_loop [4, 5] (fun n i => ∃ k : Nat, k ≤ s.size ∧ i = .int .i64 k ∧ n = .int .i64 ((val (s.data.toList.take k) : Nat) : Int) ∧ Hid (digs (s.data.toList.take k))) (fun _ i => s.size - (intOf i).toNat)
    case atStart => exact ⟨0, Nat.zero_le _, rfl, rfl, fun c hc => by simp at hc⟩
    case round =>
      obtain ⟨k, hk, rfl, rfl, HD⟩ := hrel
      have hv := val_small s k h10 HD.out
      by_cases hlt : k < s.size
      · have hsn : Hid (val (s.data.toList.take (k + 1)) = val (s.data.toList.take k) * 10 + (s[k].toNat - 48)) := by
          show val _ = _
          rw [str_take_snoc s k hlt, val_snoc]
        have hds : Hid (digs (s.data.toList.take (k + 1)) ↔ digs (s.data.toList.take k) ∧ 48 ≤ s[k].toNat ∧ s[k].toNat ≤ 57) := by
          show _ ↔ _
          rw [str_take_snoc s k hlt, digs_snoc]
        generalize val (s.data.toList.take k) = v at *
        have hvi : (v : Int) ≤ 10000000000 := by omega
        have hc0 : (0 : Int) ≤ (s[k].toNat : Int) := by omega
        have hc1 : (s[k].toNat : Int) ≤ 255 := by have := s[k].toNat_lt; omega
        by_cases hd : 48 ≤ s[k].toNat ∧ s[k].toNat ≤ 57
        · have hd1 : (48 : Int) ≤ (s[k].toNat : Int) := by omega
          have hd2 : (s[k].toNat : Int) ≤ 57 := by omega
          have HD2 : Hid (digs (s.data.toList.take (k + 1))) := hds.out.2 ⟨HD.out, hd⟩
          clear hd hds
          go_wp2_with (go_at_call 9; refine (l1In_yes _ _ _ _ hd1 hd2).mono ?_; rintro e w' ⟨rfl, rfl⟩)
          go_round
          case rel => exact ⟨k + 1, by omega, by go_num, by rw [hsn.out]; go_num, HD2⟩
          case measure => simp [intOf]; omega
        · have hd1 : Hid ((s[k].toNat : Int) < 48 ∨ 57 < (s[k].toNat : Int)) := by show _ ∨ _; omega
          have HB : Hid (R = (0, false)) := by
            show R = _
            rw [← HR.out]
            refine numR_bad _ (fun hg => hd ?_)
            exact (hds.out.1 (digs_take hg.2.2.2.1)).2
          clear hd hds
          go_wp2_with (go_at_call 9; refine (l1In_no _ _ _ _ hd1.out).mono ?_; rintro e w' ⟨rfl, rfl⟩)
          go_ret2
          exact ⟨ret_pair (by rw [HB.out]) (by rw [HB.out]), rfl⟩
      · have hkl : k = s.size := by omega
        subst hkl
        have hz : s.data.toList.take s.size = s.data.toList := List.take_of_length_le (by rw [str_len]; exact Nat.le_refl _)
        rw [hz] at hv HD ⊢
        clear hz
        by_cases hbig : val s.data.toList ≤ 1000000000
        · have HB : Hid (R = ((val s.data.toList : Int), true)) := by
            show R = _
            rw [← HR.out]
            exact numR_good _ ⟨by rw [str_len]; omega, by rw [str_len]; omega, HQ.out, HD.out, hbig⟩
          have hbi : ¬ (1000000000 : Int) < (val s.data.toList : Int) := by omega
          clear hbig
          go_wp2
          go_ret2
          exact ⟨ret_pair (by rw [HB.out]) (by rw [HB.out]), rfl⟩
        · have HB : Hid (R = (0, false)) := by
            show R = _
            rw [← HR.out]
            exact numR_bad _ (fun hg => hbig hg.2.2.2.2)
          have hbi : (1000000000 : Int) < (val s.data.toList : Int) := by omega
          clear hbig
          go_wp2
          go_ret2
          exact ⟨ret_pair (by rw [HB.out]) (by rw [HB.out]), rfl⟩

set_option maxHeartbeats 400000 in
theorem specNum_long (s : ByteArray) (w : World) (hm : s.size ≤ 281474976710656) (h : s.size < 1 ∨ 10 < s.size) :
    Calls Tryd.prog 7 #[.string s] w fun e w' => e = .returned (.tuple #[.int .i64 (numR s.data.toList).1, .bool (numR s.data.toList).2]) ∧ w' = w := by
  rw [numR_bad _ (fun hg => by have h1 := hg.1; have h2 := hg.2.1; rw [str_len] at h1 h2; omega)]
  have H : Hid ((s.size : Int) < 1 ∨ (10 : Int) < (s.size : Int)) := by show _ ∨ _; omega
  clear h
  go_enter Tryd.func7, Tryd.ntmps7
  go_wp2_with (go_at_call 9; refine (l1In_no _ _ _ _ H.out).mono ?_; rintro e w' ⟨rfl, rfl⟩)
  go_ret2
  exact ⟨rfl, rfl⟩

set_option maxHeartbeats 400000 in
theorem specNum_nought (s : ByteArray) (w : World) (h1 : 2 ≤ s.size) (h10 : s.size ≤ 10) (hz : s[0]'(by omega) = 48) :
    Calls Tryd.prog 7 #[.string s] w fun e w' => e = .returned (.tuple #[.int .i64 (numR s.data.toList).1, .bool (numR s.data.toList).2]) ∧ w' = w := by
  rw [numR_bad _ (fun hg => by
    rcases hg.2.2.1 with h | h
    · rw [str_len] at h; omega
    · exact h (by rw [str_head s (by omega), hz]))]
  have hs1 : (1 : Int) ≤ (s.size : Int) := by omega
  have hs10 : (s.size : Int) ≤ 10 := by omega
  have h2 : (1 : Int) < (s.size : Int) := by omega
  have h0 : (((s[0]'(by omega)).toNat : Int) == 48) = true := by
    rw [hz]; rfl
  clear hz
  go_enter Tryd.func7, Tryd.ntmps7
  go_wp2_with (go_at_call 9; refine (l1In_yes _ _ _ _ hs1 hs10).mono ?_; rintro e w' ⟨rfl, rfl⟩)
  go_ret2
  exact ⟨rfl, rfl⟩

theorem specNum_any (s : ByteArray) (w : World) (hm : s.size ≤ 281474976710656) :
    Calls Tryd.prog 7 #[.string s] w fun e w' => e = .returned (.tuple #[.int .i64 (numR s.data.toList).1, .bool (numR s.data.toList).2]) ∧ w' = w := by
  by_cases h : 1 ≤ s.size ∧ s.size ≤ 10
  · by_cases h1 : s.size = 1
    · exact specNum_main s w h.1 h.2 (.inl h1)
    · by_cases hz : s[0]'(by omega) = 48
      · exact specNum_nought s w (by omega) h.2 hz
      · exact specNum_main s w h.1 h.2 (.inr hz)
  · exact specNum_long s w hm (by omega)

theorem good_of_txt (l : List UInt8) (v : Int) (h : Lib.atoiAll l = .ok v) (ht : txt v = l) : Good l ∧ v = (val l : Int) := by
  unfold txt at ht
  split at ht
  · rename_i hv
    have hg : Good l := (good_iff l).2 ⟨v.toNat, by omega, ht.symm⟩
    refine ⟨hg, ?_⟩
    rw [← ht, (val_of_digits v.toNat).2.1]
    omega
  · subst ht
    simp [Lib.atoiAll] at h

theorem txt_of_good (l : List UInt8) (h : Good l) : Lib.atoiAll l = .ok (val l : Int) ∧ txt (val l : Int) = l := by
  obtain ⟨u, hu, rfl⟩ := (good_iff l).1 h
  rw [(val_of_digits u).2.1]
  refine ⟨atoi_of_digits u hu, ?_⟩
  rw [txt, if_pos ⟨by omega, by omega⟩, Int.toNat_natCast]

theorem below_of_either {w w1 : World} {e : TypeId} (h : w1 = w ∨ ∃ t, w1 = Lib.bytesWorld w e t) : Below w.heap.size w w1 := by
  rcases h with rfl | ⟨t, rfl⟩
  · exact Below.refl _ _
  · exact Lib.bytesWorld_below _ _ _

theorem mk_toList (l : List UInt8) : (⟨l.toArray⟩ : ByteArray).toList = l := by rw [Lib.toList_data]

set_option maxHeartbeats 400000 in
theorem implNum_ok (s : ByteArray) (w : World) (hm : s.size ≤ 281474976710656) (v : Int) (hv : Lib.atoiAll s.data.toList = .ok v)
    (htab : Lib.TabIs Tryd.prog w "internal/strconv.uint64pow10" .u64 Lib.pow10Tab) :
    Calls Tryd.prog 8 #[.string s] w fun e w' => e = .returned (.tuple #[.int .i64 (numR s.data.toList).1, .bool (numR s.data.toList).2]) ∧ Below w.heap.size w w' := by
  have HV : Hid _ := hv
  have HT : Hid _ := htab
  have h63 : Hid (s.size ≤ 9223372036854775806) := by show _ ≤ _; omega
  clear hv htab
  generalize hR : numR s.data.toList = R
  have HR : Hid (numR s.data.toList = R) := hR
  clear hR
  generalize hI : (⟨(txt v).toArray⟩ : ByteArray) = I
  have HI : Hid ((⟨(txt v).toArray⟩ : ByteArray) = I) := hI
  clear hI
  have HE : Hid (I.toList = txt v) := by show _ = _; rw [← HI.out, mk_toList]
  have HS : Hid (s.toList = s.data.toList) := Lib.toList_data s
  have hcase : (I.toList == s.toList) = true ∧ Hid (R = (v, true)) ∨ (I.toList == s.toList) = false ∧ Hid (R = (0, false)) := by
    by_cases he : I.toList = s.toList
    · refine .inl ⟨beq_iff_eq.2 he, ?_⟩
      obtain ⟨hg, hvv⟩ := good_of_txt s.data.toList v HV.out (by rw [← HE.out, he, HS.out])
      show R = _
      rw [← HR.out, numR_good _ hg, hvv]
    · refine .inr ⟨beq_eq_false_iff_ne.2 he, ?_⟩
      show R = _
      rw [← HR.out]
      refine numR_bad _ (fun hg => he ?_)
      obtain ⟨h1, h2⟩ := txt_of_good _ hg
      have e : Lib.NumEnd.ok v = Lib.NumEnd.ok (val s.data.toList : Int) := HV.out.symm.trans h1
      injection e with e
      rw [HE.out, HS.out, e, h2]
  clear HE HS
  rcases hcase with ⟨hb, HB⟩ | ⟨hb, HB⟩
  all_goals
    go_enter Tryd.func8, Tryd.ntmps8
    go_wp2_with fail
    refine (Tryd.strconv_Atoi_ok s h63.out v HV.out _).mono ?_
    rintro e w1 ⟨rfl, hw1⟩
    have HB1 : Hid (Below w.heap.size w w1) := below_of_either hw1
    clear hw1
    have HT1 : Hid _ := (Lib.tabBelow_of_tabIs HT.out) w1 HB1.out
    go_wp2_with fail
    refine (implText_any v _ HT1.out).mono ?_
    rintro e w2 ⟨rfl, hb2⟩
    rw [HI.out]
    have HB2 : Hid (Below w.heap.size w w2) := HB1.out.trans (hb2.mono HB1.out.size)
    clear hb2
    go_wp2
    go_ret2
    exact ⟨ret_pair (by rw [HB.out]) (by rw [HB.out]), HB2.out⟩

theorem bad_of_not_ok (l : List UInt8) (h : ∀ v, Lib.atoiAll l ≠ .ok v) : numR l = (0, false) := numR_bad _ (fun hg => h _ (txt_of_good _ hg).1)

set_option maxHeartbeats 400000 in
theorem implNum_nodigits (s : ByteArray) (w : World) (hm : s.size ≤ 281474976710656) (hv : Lib.atoiAll s.data.toList = .«syntax») (tp : TypeId) (p : Value)
    (hvar : w.var? Tryd.prog "strconv.ErrSyntax" = some #[.iface tp p]) :
    Calls Tryd.prog 8 #[.string s] w fun e w' => e = .returned (.tuple #[.int .i64 (numR s.data.toList).1, .bool (numR s.data.toList).2]) ∧ Below w.heap.size w w' := by
  rw [bad_of_not_ok _ (fun v h => by rw [hv] at h; cases h)]
  have HV : Hid _ := hv
  have HT : Hid _ := hvar
  clear hv hvar
  go_enter Tryd.func8, Tryd.ntmps8
  go_wp2_with fail
  refine (Tryd.strconv_Atoi_syntax_var s hm HV.out tp p _ HT.out).mono ?_
  rintro e w1 ⟨M, rfl, _, _, hb1⟩
  have HB1 : Hid _ := hb1
  clear hb1
  go_wp2_with fail
  go_ret2
  exact ⟨rfl, HB1.out⟩

set_option maxHeartbeats 400000 in
theorem implNum_range (s : ByteArray) (w : World) (hm : s.size ≤ 281474976710656) (hv : Lib.atoiAll s.data.toList = .range) (tp : TypeId) (p : Value)
    (hvar : w.var? Tryd.prog "strconv.ErrRange" = some #[.iface tp p]) :
    Calls Tryd.prog 8 #[.string s] w fun e w' => e = .returned (.tuple #[.int .i64 (numR s.data.toList).1, .bool (numR s.data.toList).2]) ∧ Below w.heap.size w w' := by
  rw [bad_of_not_ok _ (fun v h => by rw [hv] at h; cases h)]
  have HV : Hid _ := hv
  have HT : Hid _ := hvar
  clear hv hvar
  generalize hsat : Lib.atoiSat s.data.toList = sat
  have HSat : Hid (Lib.atoiSat s.data.toList = sat) := hsat
  clear hsat
  go_enter Tryd.func8, Tryd.ntmps8
  go_wp2_with fail
  refine (Tryd.strconv_Atoi_range_var s hm HV.out tp p _ HT.out).mono ?_
  rintro e w1 ⟨M, rfl, _, _, hb1⟩
  rw [HSat.out]
  have HB1 : Hid _ := hb1
  clear hb1
  go_wp2_with fail
  go_ret2
  exact ⟨rfl, HB1.out⟩

theorem implNum_any (s : ByteArray) (w : World) (hm : s.size ≤ 281474976710656)
    (htab : Lib.TabIs Tryd.prog w "internal/strconv.uint64pow10" .u64 Lib.pow10Tab)
    (ts : TypeId) (ps : Value) (hs : w.var? Tryd.prog "strconv.ErrSyntax" = some #[.iface ts ps]) (tr : TypeId) (pr : Value) (hr : w.var? Tryd.prog "strconv.ErrRange" = some #[.iface tr pr]) :
    Calls Tryd.prog 8 #[.string s] w fun e w' => e = .returned (.tuple #[.int .i64 (numR s.data.toList).1, .bool (numR s.data.toList).2]) ∧ Below w.heap.size w w' := by
  cases h : Lib.atoiAll s.data.toList with
  | ok v => exact implNum_ok s w hm v h htab
  | «syntax» => exact implNum_nodigits s w hm h ts ps hs
  | range => exact implNum_range s w hm h tr pr hr

set_option maxHeartbeats 400000 in
theorem lawNum_any (s : ByteArray) (w : World) (hm : s.size ≤ maxLen)
    (htab : Lib.TabIs Tryd.prog w "internal/strconv.uint64pow10" .u64 Lib.pow10Tab)
    (ts : TypeId) (ps : Value) (hs : w.var? Tryd.prog "strconv.ErrSyntax" = some #[.iface ts ps]) (tr : TypeId) (pr : Value) (hr : w.var? Tryd.prog "strconv.ErrRange" = some #[.iface tr pr]) :
    Calls Tryd.prog 4 #[.string s] w fun e w' => e = .returned (.bool true) ∧ Below w.heap.size w w' := by
  unfold maxLen at hm
  have HT : Hid _ := htab
  have HS : Hid _ := hs
  have HE : Hid _ := hr
  clear htab hs hr
  generalize hR : numR s.data.toList = R
  have HR : Hid (numR s.data.toList = R) := hR
  clear hR
  by_cases hbig : 1048576 < s.size
  · have hbi : (1048576 : Int) < (s.size : Int) := by omega
    go_enter Tryd.func4, Tryd.ntmps4
    go_wp2_with fail
    go_ret
    exact ⟨rfl, Below.refl _ _⟩
  · have hbi : ¬ (1048576 : Int) < (s.size : Int) := by omega
    have hm2 : Hid (s.size ≤ 281474976710656) := by show _ ≤ _; omega
    go_enter Tryd.func4, Tryd.ntmps4
    go_wp2_with fail
    refine (specNum_any s _ hm2.out).mono ?_
    rintro e w1 ⟨rfl, rfl⟩
    rw [HR.out]
    go_wp2_with fail
    refine (implNum_any s _ hm2.out HT.out _ _ HS.out _ _ HE.out).mono ?_
    rintro e w2 ⟨rfl, hb2⟩
    rw [HR.out]
    have HB2 : Hid _ := hb2
    clear hb2
    go_wp2
    go_ret
    exact ⟨rfl, HB2.out⟩

end Go.Proofs.YtbnhbmjomckfgaiDoor
