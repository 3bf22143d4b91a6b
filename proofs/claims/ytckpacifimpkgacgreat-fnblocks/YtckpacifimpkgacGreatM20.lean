/- What GetFields answers is one: its code too. No program in it. The specification's test of a range. What the specification's GetPrefix answers. For lists of at most 2^40 bytes. The specification's tables of Huffman's code: the lengths, and the codes. The specification's codes: a table in memory of its own. -/
import Derived.Test.YtckpacifimpkgacGreatM18
import Derived.Test.YtckpacifimpkgacGreatM04
import Derived.Test.YtckpacifimpkgacGreatM03
import Derived.Test.YtckpacifimpkgacGreatM02
import Derived.Test.YtckpacifimpkgacGreatM05
namespace Go.Proofs.YtckpacifimpkgacGreat
open Go.RowKit
set_option linter.unusedVariables false

theorem TakeAns.code {T : TypeId} {m : Int} {xs fs : List Fld} {f : Fld} {ys gs ys' gs' : List Fld} {c c' : Int} (h : TakeAns T m xs fs f ys gs c) (g : TakeAns T m xs fs f ys' gs' c') : c = c' := by
  rcases h with ⟨h1, rfl⟩ | ⟨h1, rfl, _⟩ <;> rcases g with ⟨g1, rfl⟩ | ⟨g1, rfl, _⟩
  · rfl
  · exact absurd h1 g1
  · exact absurd g1 h1
  · rfl

theorem StepAns.code {zs : List Int} {most : Int} {i : Nat} {m : Int} {xs fs : List Fld} {j j' m' m'' : Int} {ys gs ys' gs' : List Fld} {c c' : Int} (h : StepAns zs most i m xs fs j m' ys gs c) (g : StepAns zs most i m xs fs j' m'' ys' gs' c') : c = c' := by
  obtain ⟨n, p, ok, h1, h⟩ := h
  obtain ⟨n', p', ok', g1, g⟩ := g
  rw [h1] at g1
  injection g1 with e1 e2
  injection e2 with e2 e3
  subst e1 e2 e3
  rcases g with ⟨hok, g0⟩ | ⟨hok, g⟩
  · rcases h with ⟨_, h0⟩ | ⟨h0, _⟩
    · rw [h0, g0]
    · rw [h0] at hok; cases hok
  rcases h with ⟨h0, _⟩ | ⟨_, h⟩
  · rw [h0] at hok; cases hok
  have a1 : (80 : TypeId) ≠ 82 := by decide
  rcases g with ⟨gf, g⟩ | ⟨gf, g⟩ | ⟨gf, gf2, x, y, j1, c1, gl, g⟩
  · rcases h with ⟨hf, h⟩ | ⟨hf, h⟩ | ⟨hf, hf2, _⟩
    · rcases g with ⟨gc, g0⟩ | ⟨gc, g0, _⟩ <;> rcases h with ⟨hc, h0⟩ | ⟨hc, h0, _⟩
      · rw [h0, g0]
      · exact absurd gc hc
      · exact absurd hc gc
      · rw [h0, g0]
    · exact absurd (gf.symm.trans hf) a1
    · exact absurd gf hf
  · rcases h with ⟨hf, h⟩ | ⟨hf, h⟩ | ⟨hf, hf2, _⟩
    · exact absurd (hf.symm.trans gf) a1
    · rcases g with ⟨ga, g0⟩ | ⟨ga, rfl, rfl, g⟩ <;> rcases h with ⟨ha, h0⟩ | ⟨ha, rfl, rfl, h⟩
      · rw [h0, g0]
      · rw [ha] at ga; cases ga
      · rw [ha] at ga; cases ga
      · exact h.code g
    · exact absurd gf hf2
  · rcases h with ⟨hf, h⟩ | ⟨hf, h⟩ | ⟨hf, hf2, x', y', j1', c1', hl, h⟩
    · exact absurd hf gf
    · exact absurd hf gf2
    · obtain ⟨rfl, rfl, rfl, rfl⟩ := hl.one gl
      rcases g with ⟨g0, rfl⟩ | ⟨g0, rfl, rfl, g⟩ <;> rcases h with ⟨h0, rfl⟩ | ⟨h0, rfl, rfl, h⟩
      · rfl
      · exact absurd h0 g0
      · exact absurd g0 h0
      · exact h.code g

/-- Two answers of GetFields have one code. -/
theorem GetAns.code {zs : List Int} {most m0 : Int} {xs0 gs gs' : List Fld} {m m' : Int} {ys ys' : List Fld} {c c' : Int} (hz : ∀ x ∈ zs, 0 ≤ x ∧ x ≤ 255) (h : GetAns zs most m0 xs0 gs m ys c) (g : GetAns zs most m0 xs0 gs' m' ys' c') : c = c' := by
  rcases h with ⟨hno, _, _, _, rfl⟩ | ⟨hyes, h⟩
  · rcases g with ⟨_, _, _, _, rfl⟩ | ⟨gyes, _⟩
    · rfl
    · exact absurd gyes hno
  · have hall : GetAns zs most m0 xs0 gs m ys c := .inr ⟨hyes, h⟩
    rcases g with ⟨gno, _⟩ | ⟨gyes, g⟩
    · exact absurd hyes gno
    have gall : GetAns zs most m0 xs0 gs' m' ys' c' := .inr ⟨gyes, g⟩
    rcases h with ⟨rfl, k, h⟩ | ⟨hc, _, _, _, k, i, m1, x1, f1, j, m2, y2, g2, h, hi, hs⟩
    · exact (gall.good hz gyes.1 gyes.2.1 gyes.2.2 h).1.symm
    · rcases g with ⟨rfl, k', g⟩ | ⟨gc, _, _, _, k', i', m1', x1', f1', j', m2', y2', g2', g, gi, gs1⟩
      · exact (hall.good hz hyes.1 hyes.2.1 hyes.2.2 g).1
      · rcases Nat.lt_trichotomy k k' with hl | he | hg
        · obtain ⟨d, rfl⟩ : ∃ d, k' = k + d := ⟨k' - k, by omega⟩
          obtain ⟨_, _, _, _, r1, _, r3⟩ := RunN.less g
          obtain ⟨rfl, rfl, rfl, rfl⟩ := RunN.one r1 h
          obtain ⟨_, _, _, _, _, hs2⟩ := r3 (by omega)
          exact absurd (hs.one hs2).1 hc
        · subst he
          obtain ⟨rfl, rfl, rfl, rfl⟩ := RunN.one g h
          exact hs.code gs1
        · obtain ⟨d, rfl⟩ : ∃ d, k = k' + d := ⟨k - k', by omega⟩
          obtain ⟨_, _, _, _, r1, _, r3⟩ := RunN.less h
          obtain ⟨rfl, rfl, rfl, rfl⟩ := RunN.one r1 g
          obtain ⟨_, _, _, _, _, hs2⟩ := r3 (by omega)
          exact absurd (gs1.one hs2).1 gc

/-- What is answered well keeps the table right, and there are at most 100 fields; else the table is as it was. -/
theorem GetAns.said {zs : List Int} {most m0 : Int} {xs0 gs : List Fld} {m : Int} {ys : List Fld} {c : Int} (hz : ∀ x ∈ zs, 0 ≤ x ∧ x ≤ 255) (h : GetAns zs most m0 xs0 gs m ys c) : (c = 0 ∧ gs.length ≤ 100 ∧ okT m ys = true) ∨ (c ≠ 0 ∧ gs = [] ∧ m = m0 ∧ ys = xs0) := by
  rcases h with ⟨_, rfl, rfl, rfl, rfl⟩ | ⟨hyes, ⟨rfl, k, h⟩ | ⟨hc, rfl, rfl, rfl, _⟩⟩
  · exact .inr ⟨by decide, rfl, rfl, rfl⟩
  · have := h.kept hz hyes.1
    exact .inl ⟨rfl, this.2.2.2, this.2.2.1⟩
  · exact .inr ⟨hc, rfl, rfl, rfl⟩

end Go.Proofs.YtckpacifimpkgacGreat

namespace Go.Proofs.YtckpacifimpkgacGreat
open Go.RowKit
set_option linter.unusedVariables false

set_option maxHeartbeats 400000 in
theorem tin_yes (x lo hi : Int) (w : World) (h1 : lo ≤ x) (h2 : x ≤ hi) : Calls Tryz.prog 27 #[.int .i64 x, .int .i64 lo, .int .i64 hi] w fun e w' => e = .returned (.bool true) ∧ w' = w := by
  go_enter Tryz.func27, Tryz.ntmps27
  go_wp2
  go_ret
  exact ⟨rfl, rfl⟩

set_option maxHeartbeats 400000 in
theorem tin_no (x lo hi : Int) (w : World) (h : x < lo ∨ hi < x) : Calls Tryz.prog 27 #[.int .i64 x, .int .i64 lo, .int .i64 hi] w fun e w' => e = .returned (.bool false) ∧ w' = w := by
  by_cases h1 : x < lo
  · clear h
    go_enter Tryz.func27, Tryz.ntmps27
    go_wp2
    go_ret
    exact ⟨rfl, rfl⟩
  · have h2 : hi < x := by omega
    clear h
    go_enter Tryz.func27, Tryz.ntmps27
    go_wp2
    go_ret
    exact ⟨ret_bool (by simp; omega), rfl⟩

end Go.Proofs.YtckpacifimpkgacGreat

namespace Go.Proofs.YtckpacifimpkgacGreat
open Go.RowKit
set_option linter.unusedVariables false

theorem ret_trip {a b c d : Int} {x y : Bool} (h : a = b) (k : c = d) (l : x = y) : Ending.returned (.tuple #[.int .i64 a, .int .i64 c, .bool x]) = .returned (.tuple #[.int .i64 b, .int .i64 d, .bool y]) := by rw [h, k, l]

set_option maxRecDepth 10000 in
set_option maxHeartbeats 1600000 in
theorem specGpx_yes (a : Option Addr) (len cap at_ B : Nat) (zs : List Int) (w : World) (hs : Seg w a len zs) (hl : len ≤ 1099511627776) (h1 : 1 ≤ B) (h8 : B ≤ 8) (hat : at_ < len) :
    Calls Tryz.prog 46 #[.slice a len cap, .int .i64 at_, .int .i64 B] w fun e w' => e = .returned (.tuple #[.int .i64 (getPfx zs at_ B).1, .int .i64 (getPfx zs at_ B).2.1, .bool (getPfx zs at_ B).2.2]) ∧ w' = w := by
  have hzl : zs.length = len := hs.1
  obtain ⟨b, off, rfl, hb, hc⟩ : ∃ b off, a = some ⟨b, off, none⟩ ∧ b < w.heap.size ∧ ∀ i, i < len → w.cell? ⟨b, off + i, none⟩ = some (.int .u8 (zs.getD i 0)) := by
    rcases hs.2.2 with h | h
    · omega
    · exact h
  have HC : Hid (∀ i, i < len → w.cell? ⟨b, off + i, none⟩ = some (.int .u8 (zs.getD i 0))) := hc
  have HS : Hid (Seg w (some ⟨b, off, none⟩) len zs) := hs
  have hcell : w.cell? ⟨b, off + at_, none⟩ = some (.int .u8 (zs.getD at_ 0)) := hc at_ hat
  obtain ⟨hx0, hx1⟩ := hs.range at_
  clear hc hs
  have HE : Hid (getPfx zs at_ B = if zs.getD at_ 0 % 2 ^ B < 2 ^ B - 1 then (zs.getD at_ 0 % 2 ^ B, (at_ : Int) + 1, true) else gpf 4 (zs.drop (at_ + 1)) 1 (2 ^ B - 1) ((at_ : Int) + 1)) := by
    show _ = _
    rw [getPfx, if_pos (by omega), Int.toNat_natCast, Int.toNat_natCast]
  generalize getPfx zs at_ B = R at *
  generalize zs.getD at_ 0 = x at *
  obtain ⟨X, rfl⟩ := Int.eq_ofNat_of_zero_le hx0
  have HMM : Hid (wrap64 (wrap64 ((2 : Int) ^ B) - 1) = ((2 ^ B - 1 : Nat) : Int)) := mask_form B h1 h8
  have hand := and_mod X B (by omega) h8
  have hps := pow_small B h1 h8
  have HP : Hid (((2 ^ B : Nat) : Int) = (2 : Int) ^ B) := by show _ = _; simp
  have hlast : X % 2 ^ B < 2 ^ B := Nat.mod_lt _ (by omega)
  have HE2 : Hid (R = if X % 2 ^ B < 2 ^ B - 1 then (((X % 2 ^ B : Nat) : Int), (at_ : Int) + 1, true) else gpf 4 (zs.drop (at_ + 1)) 1 ((2 ^ B - 1 : Nat) : Int) ((at_ : Int) + 1)) := by
    show R = _
    rw [HE.out, ← HP.out]
    have e1 : (X : Int) % ((2 ^ B : Nat) : Int) = ((X % 2 ^ B : Nat) : Int) := by omega
    have e2 : ((2 ^ B : Nat) : Int) - 1 = ((2 ^ B - 1 : Nat) : Int) := by omega
    rw [e1, e2]
    by_cases hh : X % 2 ^ B < 2 ^ B - 1
    · rw [if_pos hh, if_pos (by omega)]
    · rw [if_neg hh, if_neg (by omega)]
  clear HE HP
  generalize hy : X % 2 ^ B = y at *
  generalize hm : 2 ^ B - 1 = m at *
  have hmb : 1 ≤ m ∧ m ≤ 255 ∧ y ≤ m := by omega
  clear hps hlast hy hm
  have hk1 : (1 : Int) ≤ (B : Int) := by omega
  have hk8 : (B : Int) ≤ 8 := by omega
  have ha0 : (0 : Int) ≤ (at_ : Int) := by omega
  have ha1 : (at_ : Int) ≤ (len : Int) - 1 := by omega
  by_cases hlt : y < m
  · have hd : decide ((y : Int) < (m : Int)) = true := by simp; omega
    have hdp : ((y : Int) < (m : Int)) = True := by simp; omega
    have HR : Hid (R = ((y : Int), (at_ : Int) + 1, true)) := by show R = _; rw [HE2.out, if_pos hlt]
    clear HE2
    go_enter Tryz.func46, Tryz.ntmps46
    go_wp2_with fail
    refine (tin_yes _ _ _ _ hk1 hk8).mono ?_
    rintro e w2 ⟨rfl, rfl⟩
    go_wp2_with fail
    refine (tin_yes _ _ _ _ ha0 ha1).mono ?_
    rintro e w3 ⟨rfl, rfl⟩
    have hmask := HMM.out
    go_wp2_with fail
    go_ret3
    exact ⟨ret_trip (by rw [HR.out]) (by rw [HR.out]) (by rw [HR.out]), rfl⟩
  · have hd : decide ((y : Int) < (m : Int)) = false := by simp; omega
    have hdp : ((y : Int) < (m : Int)) = False := by simp; omega
    have hym : Hid (y = m) := by show y = m; omega
    have HR : Hid (R = gpf 4 (zs.drop (at_ + 1)) 1 (m : Int) ((at_ : Int) + 1)) := by show R = _; rw [HE2.out, if_neg hlt]
    clear HE2
    go_enter Tryz.func46, Tryz.ntmps46
    go_wp2_with fail
    refine (tin_yes _ _ _ _ hk1 hk8).mono ?_
    rintro e w2 ⟨rfl, rfl⟩
    go_wp2_with fail
    refine (tin_yes _ _ _ _ ha0 ha1).mono ?_
    rintro e w3 ⟨rfl, rfl⟩
    have hmask := HMM.out
    go_wp2_with fail
    clear hmask HMM hand
    go_loop [10, 11] (fun nn kk => ∃ k n : Nat, k ≤ 4 ∧ n ≤ 255 + 128 ^ k ∧ nn = .int .i64 n ∧ kk = .int .i64 k ∧ Hid (R = gpf (4 - k) (zs.drop (at_ + 1 + k)) ((128 ^ k : Nat) : Int) (n : Int) ((at_ : Int) + 1 + (k : Int)))) (fun _ kk => 4 - (intOf kk).toNat)
    case atStart => exact ⟨0, y, by omega, by omega, rfl, rfl, by show R = _; rw [HR.out, hym.out]; rfl⟩
    case round =>
      clear HR hym
      obtain ⟨k, n, hk, hn, rfl, rfl, HG⟩ := hrel
      by_cases hin : k < 4 ∧ at_ + 1 + k < len
      · obtain ⟨hk4, hin⟩ := hin
        have hcl : w3.cell? ⟨b, off + (at_ + 1 + k), none⟩ = some (.int .u8 (zs.getD (at_ + 1 + k) 0)) := HC.out _ hin
        obtain ⟨hc0, hc1⟩ := HS.out.range (at_ + 1 + k)
        have hdrop : Hid (zs.drop (at_ + 1 + k) = zs.getD (at_ + 1 + k) 0 :: zs.drop (at_ + 1 + (k + 1))) := by
          show _ = _
          rw [List.drop_eq_getElem_cons (by omega), List.getD_eq_getElem?_getD, List.getElem?_eq_getElem (by omega)]
          rfl
        generalize zs.getD (at_ + 1 + k) 0 = c at *
        obtain ⟨C, rfl⟩ := Int.eq_ofNat_of_zero_le hc0
        have hCb : C ≤ 255 := by omega
        have hcm : bits .and .i64 (C : Int) 127 = ((C % 128 : Nat) : Int) := by rw [i64_and127]; omega
        have hini : (at_ : Int) + 1 + (k : Int) < (len : Int) := by omega
        obtain rfl | rfl | rfl | rfl : k = 0 ∨ k = 1 ∨ k = 2 ∨ k = 3 := by omega
        · have hrd : Hid (R = if C < 128 then (if n + C % 128 * 1 ≤ 16777216 then (((n + C % 128 * 1 : Nat) : Int), ((at_ : Int) + 1 + ((0 : Nat) : Int)) + 1, true) else (0, 0, false)) else gpf 3 (zs.drop (at_ + 1 + (0 + 1))) ((1 * 128 : Nat) : Int) ((n + C % 128 * 1 : Nat) : Int) (((at_ : Int) + 1 + ((0 : Nat) : Int)) + 1)) := by
            show R = _
            rw [HG.out, hdrop.out]
            exact gpf_step 3 C n _ 1 _
          clear HG hdrop
          have hn2 : n + C % 128 * 1 ≤ 536870912 := by omega
          by_cases hC : C < 128
          · have hCi : (C : Int) < 128 := by omega
            by_cases hle : n + C % 128 * 1 ≤ 16777216
            · have HF : Hid (R = (((n + C % 128 * 1 : Nat) : Int), ((at_ : Int) + 1 + ((0 : Nat) : Int)) + 1, true)) := by show R = _; rw [hrd.out, if_pos hC, if_pos hle]
              have hlei : ¬ (16777216 : Int) < ((n + C % 128 * 1 : Nat) : Int) := by omega
              clear hrd
              go_wp2_with fail
              go_ret3
              exact ⟨ret_trip (by rw [HF.out]; show _ = ((n + C % 128 * 1 : Nat) : Int); omega) (by rw [HF.out]; show _ = ((at_ : Int) + 1 + ((0 : Nat) : Int)) + 1; omega) (by rw [HF.out]), rfl⟩
            · exfalso; omega
          · have hCi : ¬ (C : Int) < 128 := by omega
            have HF : Hid (R = gpf (4 - (0 + 1)) (zs.drop (at_ + 1 + (0 + 1))) ((128 ^ (0 + 1) : Nat) : Int) ((n + C % 128 * 1 : Nat) : Int) ((at_ : Int) + 1 + ((0 + 1 : Nat) : Int))) := by show R = _; rw [hrd.out, if_neg hC, show ((at_ : Int) + 1 + ((0 : Nat) : Int)) + 1 = (at_ : Int) + 1 + ((0 + 1 : Nat) : Int) by omega]
            clear hrd
            go_wp2_with fail
            go_round
            case rel => exact ⟨0 + 1, n + C % 128 * 1, by omega, by show n + C % 128 * 1 ≤ 255 + 128 ^ (0 + 1); omega, by go_num, by go_num, HF⟩
            case measure => simp [intOf]
        · have hrd : Hid (R = if C < 128 then (if n + C % 128 * 128 ≤ 16777216 then (((n + C % 128 * 128 : Nat) : Int), ((at_ : Int) + 1 + ((1 : Nat) : Int)) + 1, true) else (0, 0, false)) else gpf 2 (zs.drop (at_ + 1 + (1 + 1))) ((128 * 128 : Nat) : Int) ((n + C % 128 * 128 : Nat) : Int) (((at_ : Int) + 1 + ((1 : Nat) : Int)) + 1)) := by
            show R = _
            rw [HG.out, hdrop.out]
            exact gpf_step 2 C n _ 128 _
          clear HG hdrop
          have hn2 : n + C % 128 * 128 ≤ 536870912 := by omega
          by_cases hC : C < 128
          · have hCi : (C : Int) < 128 := by omega
            by_cases hle : n + C % 128 * 128 ≤ 16777216
            · have HF : Hid (R = (((n + C % 128 * 128 : Nat) : Int), ((at_ : Int) + 1 + ((1 : Nat) : Int)) + 1, true)) := by show R = _; rw [hrd.out, if_pos hC, if_pos hle]
              have hlei : ¬ (16777216 : Int) < ((n + C % 128 * 128 : Nat) : Int) := by omega
              clear hrd
              go_wp2_with fail
              go_ret3
              exact ⟨ret_trip (by rw [HF.out]; show _ = ((n + C % 128 * 128 : Nat) : Int); omega) (by rw [HF.out]; show _ = ((at_ : Int) + 1 + ((1 : Nat) : Int)) + 1; omega) (by rw [HF.out]), rfl⟩
            · exfalso; omega
          · have hCi : ¬ (C : Int) < 128 := by omega
            have HF : Hid (R = gpf (4 - (1 + 1)) (zs.drop (at_ + 1 + (1 + 1))) ((128 ^ (1 + 1) : Nat) : Int) ((n + C % 128 * 128 : Nat) : Int) ((at_ : Int) + 1 + ((1 + 1 : Nat) : Int))) := by show R = _; rw [hrd.out, if_neg hC, show ((at_ : Int) + 1 + ((1 : Nat) : Int)) + 1 = (at_ : Int) + 1 + ((1 + 1 : Nat) : Int) by omega]
            clear hrd
            go_wp2_with fail
            go_round
            case rel => exact ⟨1 + 1, n + C % 128 * 128, by omega, by show n + C % 128 * 128 ≤ 255 + 128 ^ (1 + 1); omega, by go_num, by go_num, HF⟩
            case measure => simp [intOf]
        · have hrd : Hid (R = if C < 128 then (if n + C % 128 * 16384 ≤ 16777216 then (((n + C % 128 * 16384 : Nat) : Int), ((at_ : Int) + 1 + ((2 : Nat) : Int)) + 1, true) else (0, 0, false)) else gpf 1 (zs.drop (at_ + 1 + (2 + 1))) ((16384 * 128 : Nat) : Int) ((n + C % 128 * 16384 : Nat) : Int) (((at_ : Int) + 1 + ((2 : Nat) : Int)) + 1)) := by
            show R = _
            rw [HG.out, hdrop.out]
            exact gpf_step 1 C n _ 16384 _
          clear HG hdrop
          have hn2 : n + C % 128 * 16384 ≤ 536870912 := by omega
          by_cases hC : C < 128
          · have hCi : (C : Int) < 128 := by omega
            by_cases hle : n + C % 128 * 16384 ≤ 16777216
            · have HF : Hid (R = (((n + C % 128 * 16384 : Nat) : Int), ((at_ : Int) + 1 + ((2 : Nat) : Int)) + 1, true)) := by show R = _; rw [hrd.out, if_pos hC, if_pos hle]
              have hlei : ¬ (16777216 : Int) < ((n + C % 128 * 16384 : Nat) : Int) := by omega
              clear hrd
              go_wp2_with fail
              go_ret3
              exact ⟨ret_trip (by rw [HF.out]; show _ = ((n + C % 128 * 16384 : Nat) : Int); omega) (by rw [HF.out]; show _ = ((at_ : Int) + 1 + ((2 : Nat) : Int)) + 1; omega) (by rw [HF.out]), rfl⟩
            · exfalso; omega
          · have hCi : ¬ (C : Int) < 128 := by omega
            have HF : Hid (R = gpf (4 - (2 + 1)) (zs.drop (at_ + 1 + (2 + 1))) ((128 ^ (2 + 1) : Nat) : Int) ((n + C % 128 * 16384 : Nat) : Int) ((at_ : Int) + 1 + ((2 + 1 : Nat) : Int))) := by show R = _; rw [hrd.out, if_neg hC, show ((at_ : Int) + 1 + ((2 : Nat) : Int)) + 1 = (at_ : Int) + 1 + ((2 + 1 : Nat) : Int) by omega]
            clear hrd
            go_wp2_with fail
            go_round
            case rel => exact ⟨2 + 1, n + C % 128 * 16384, by omega, by show n + C % 128 * 16384 ≤ 255 + 128 ^ (2 + 1); omega, by go_num, by go_num, HF⟩
            case measure => simp [intOf]
        · have hrd : Hid (R = if C < 128 then (if n + C % 128 * 2097152 ≤ 16777216 then (((n + C % 128 * 2097152 : Nat) : Int), ((at_ : Int) + 1 + ((3 : Nat) : Int)) + 1, true) else (0, 0, false)) else gpf 0 (zs.drop (at_ + 1 + (3 + 1))) ((2097152 * 128 : Nat) : Int) ((n + C % 128 * 2097152 : Nat) : Int) (((at_ : Int) + 1 + ((3 : Nat) : Int)) + 1)) := by
            show R = _
            rw [HG.out, hdrop.out]
            exact gpf_step 0 C n _ 2097152 _
          clear HG hdrop
          have hn2 : n + C % 128 * 2097152 ≤ 536870912 := by omega
          by_cases hC : C < 128
          · have hCi : (C : Int) < 128 := by omega
            by_cases hle : n + C % 128 * 2097152 ≤ 16777216
            · have HF : Hid (R = (((n + C % 128 * 2097152 : Nat) : Int), ((at_ : Int) + 1 + ((3 : Nat) : Int)) + 1, true)) := by show R = _; rw [hrd.out, if_pos hC, if_pos hle]
              have hlei : ¬ (16777216 : Int) < ((n + C % 128 * 2097152 : Nat) : Int) := by omega
              clear hrd
              go_wp2_with fail
              go_ret3
              exact ⟨ret_trip (by rw [HF.out]; show _ = ((n + C % 128 * 2097152 : Nat) : Int); omega) (by rw [HF.out]; show _ = ((at_ : Int) + 1 + ((3 : Nat) : Int)) + 1; omega) (by rw [HF.out]), rfl⟩
            · have HF : Hid (R = (0, 0, false)) := by show R = _; rw [hrd.out, if_pos hC, if_neg hle]
              have hlei : (16777216 : Int) < ((n + C % 128 * 2097152 : Nat) : Int) := by omega
              clear hrd
              go_wp2_with fail
              go_ret3
              exact ⟨ret_trip (by rw [HF.out]) (by rw [HF.out]) (by rw [HF.out]), rfl⟩
          · have hCi : ¬ (C : Int) < 128 := by omega
            have HF : Hid (R = gpf (4 - (3 + 1)) (zs.drop (at_ + 1 + (3 + 1))) ((128 ^ (3 + 1) : Nat) : Int) ((n + C % 128 * 2097152 : Nat) : Int) ((at_ : Int) + 1 + ((3 + 1 : Nat) : Int))) := by show R = _; rw [hrd.out, if_neg hC, show ((at_ : Int) + 1 + ((3 : Nat) : Int)) + 1 = (at_ : Int) + 1 + ((3 + 1 : Nat) : Int) by omega]
            clear hrd
            go_wp2_with fail
            go_round
            case rel => exact ⟨3 + 1, n + C % 128 * 2097152, by omega, by show n + C % 128 * 2097152 ≤ 255 + 128 ^ (3 + 1); omega, by go_num, by go_num, HF⟩
            case measure => simp [intOf]
      · have HF : Hid (R = (0, 0, false)) := by
          show R = _
          rw [HG.out]
          by_cases h4 : k < 4
          · rw [List.drop_of_length_le (by omega)]
            obtain ⟨f, hf⟩ : ∃ f, 4 - k = f + 1 := ⟨3 - k, by omega⟩
            rw [hf]
            rfl
          · rw [show 4 - k = 0 by omega]
            rfl
        clear HG
        by_cases h4 : k < 4
        · have h4i : (k : Int) < 4 := by omega
          have hini : ¬ (at_ : Int) + 1 + (k : Int) < (len : Int) := by omega
          clear hin
          go_wp2_with fail
          go_ret3
          exact ⟨ret_trip (by rw [HF.out]) (by rw [HF.out]) (by rw [HF.out]), rfl⟩
        · have h4i : ¬ (k : Int) < 4 := by omega
          clear hin
          go_wp2_with fail
          go_ret3
          exact ⟨ret_trip (by rw [HF.out]) (by rw [HF.out]) (by rw [HF.out]), rfl⟩

set_option maxRecDepth 10000 in
set_option maxHeartbeats 400000 in
theorem specGpx_no (a : Option Addr) (len cap : Nat) (at_ bits : Int) (w : World) (hl : len ≤ 1099511627776) (h : ¬ (1 ≤ bits ∧ bits ≤ 8 ∧ 0 ≤ at_ ∧ at_ < (len : Int))) :
    Calls Tryz.prog 46 #[.slice a len cap, .int .i64 at_, .int .i64 bits] w fun e w' => e = .returned (.tuple #[.int .i64 0, .int .i64 0, .bool false]) ∧ w' = w := by
  have HN : Hid (¬ (1 ≤ bits ∧ bits ≤ 8 ∧ 0 ≤ at_ ∧ at_ < (len : Int))) := h
  clear h
  by_cases hb : 1 ≤ bits ∧ bits ≤ 8
  · have HF : Hid (at_ < 0 ∨ (len : Int) - 1 < at_) := by
      have := HN.out
      show _ ∨ _
      omega
    obtain ⟨hb1, hb2⟩ := hb
    go_enter Tryz.func46, Tryz.ntmps46
    go_wp2_with fail
    refine (tin_yes _ _ _ _ hb1 hb2).mono ?_
    rintro e w2 ⟨rfl, rfl⟩
    go_wp2_with fail
    refine (tin_no _ _ _ _ HF.out).mono ?_
    rintro e w3 ⟨rfl, rfl⟩
    go_wp2_with fail
    go_ret3
    exact ⟨rfl, rfl⟩
  · have HF : Hid (bits < 1 ∨ 8 < bits) := by show _ ∨ _; omega
    clear hb
    go_enter Tryz.func46, Tryz.ntmps46
    go_wp2_with fail
    refine (tin_no _ _ _ _ HF.out).mono ?_
    rintro e w2 ⟨rfl, rfl⟩
    go_wp2_with fail
    go_ret3
    exact ⟨rfl, rfl⟩

theorem specGpx_any (a : Option Addr) (len cap : Nat) (at_ bits : Int) (zs : List Int) (w : World) (hs : Seg w a len zs) (hl : len ≤ 1099511627776) :
    Calls Tryz.prog 46 #[.slice a len cap, .int .i64 at_, .int .i64 bits] w fun e w' => e = .returned (.tuple #[.int .i64 (getPfx zs at_ bits).1, .int .i64 (getPfx zs at_ bits).2.1, .bool (getPfx zs at_ bits).2.2]) ∧ w' = w := by
  have hz := hs.1
  by_cases h : 1 ≤ bits ∧ bits ≤ 8 ∧ 0 ≤ at_ ∧ at_ < (zs.length : Int)
  · obtain ⟨B, rfl⟩ := Int.eq_ofNat_of_zero_le (show 0 ≤ bits by omega)
    obtain ⟨T, rfl⟩ := Int.eq_ofNat_of_zero_le (show 0 ≤ at_ by omega)
    exact specGpx_yes a len cap T B zs w hs hl (by omega) (by omega) (by omega)
  · rw [getPfx, if_neg h]
    exact specGpx_no a len cap at_ bits w hl (by omega)

end Go.Proofs.YtckpacifimpkgacGreat

namespace Go.Proofs.YtckpacifimpkgacGreat
open Go.RowKit
set_option linter.unusedVariables false

/-- A table of whole numbers in a block of its own. -/
def Tab (w : World) (g : Nat) (L : List Int) : Prop := w.heap[g]? = some (.cells (L.map (Value.int .i64)).toArray 3 (0, 0))

theorem Tab.cell {w : World} {g : Nat} {L : List Int} (h : Tab w g L) (k : Nat) (hk : k < L.length) : w.cell? ⟨g, k, none⟩ = some (.int .i64 (L.getD k 0)) := by
  rw [cell_of_row w g k _ 3 (0, 0) h]
  simp [List.getD_eq_getElem?_getD, hk]
theorem Tab.lt {w : World} {g : Nat} {L : List Int} (h : Tab w g L) : g < w.heap.size := (Array.getElem?_eq_some_iff.1 h).1
theorem Tab.below {w w' : World} {g B : Nat} {L : List Int} (h : Tab w g L) (hb : Below B w w') (hg : g < B) : Tab w' g L := (hb.block g hg).trans h

theorem Tryz.info3 : (Tryz.prog.info? 3).map (fun i => (i.zero, i.size, i.bytes)) = some (some (.int .i64 0), 1, 8) := by kernel_rfl

theorem lens_fill : Instr.fill (fun i => some (i * 1, 1)) ((Array.range (lensI.length * 1)).map ((Value.int .i64 0).cells[· % (Value.int .i64 0).cells.size]!)) (litVals lensI) = some (lensI.map (Value.int .i64)).toArray := by kernel_rfl

theorem specLens_any (w : World) : Calls Tryz.prog 98 #[] w fun e w' => e = .returned (.slice (some ⟨w.heap.size, 0, none⟩) 257 257) ∧ w' = w.alloc (.cells (lensI.map (Value.int .i64)).toArray 3) := by
  obtain ⟨i0, hi, hz0, hz1, hz2⟩ := info_parts Tryz.info3
  have h := lit_calls Tryz.func98 52 lensI "l03_huff.go:4" "l03_huff.go:5" _ i0 (by kernel_rfl) rfl rfl Tryz.underlying52 hi hz1 hz0 (by rw [lens_len]; omega) (by rw [lens_len]; omega) lens_fill w
  rw [lens_len] at h
  exact h

end Go.Proofs.YtckpacifimpkgacGreat

namespace Go.Proofs.YtckpacifimpkgacGreat
open Go.RowKit
set_option linter.unusedVariables false

/-- A table of whole numbers that stands in block g. -/
def Nums (w : World) (g : Nat) (L : List Int) : Prop := g < w.heap.size ∧ ∀ k, k < L.length → w.cell? ⟨g, k, none⟩ = some (.int .i64 (L.getD k 0))

theorem Tab.nums {w : World} {g : Nat} {L : List Int} (h : Tab w g L) : Nums w g L := ⟨h.lt, fun k hk => h.cell k hk⟩
theorem Nums.below {w w' : World} {g B : Nat} {L : List Int} (h : Nums w g L) (hb : Below B w w') (hg : g < B) : Nums w' g L := ⟨Nat.lt_of_lt_of_le h.1 hb.size, fun k hk => (hb.cell (p := ⟨g, k, none⟩) hg).trans (h.2 k hk)⟩
theorem Nums.stays {w w' : World} {g : Nat} {L : List Int} (h : Nums w g L) (hb : Below w.heap.size w w') : Nums w' g L := h.below hb h.1

theorem map_set (L : List Int) (k : Nat) (x : Int) : (L.map (Value.int .i64)).set k (.int .i64 x) = (L.set k x).map (Value.int .i64) := by rw [List.map_set]

set_option maxRecDepth 10000 in
set_option maxHeartbeats 800000 in
theorem specCodes_any (w : World) : Calls Tryz.prog 99 #[] w fun e w' => ∃ g, e = .returned (.slice (some ⟨g, 0, none⟩) 257 257) ∧ Nums w' g codesI ∧ w.heap.size ≤ g ∧ Below w.heap.size w w' := by
  obtain ⟨i0, hi, hz0, hz1, hz2⟩ := info_parts Tryz.info3
  go_enter Tryz.func99, Tryz.ntmps99
  go_wp2_with fail
  refine (specLens_any w).mono ?_
  rintro e w1 ⟨rfl, hw1⟩
  have HT : Hid (Nums w1 w.heap.size lensI) := by
    show Nums _ _ _
    rw [hw1]
    exact Tab.nums (heap_alloc_new w _)
  have HB1 : Hid (Below w.heap.size w w1) := by
    show Below _ _ _
    rw [hw1]
    exact (Below.refl _ _).alloc (Nat.le_refl _) _
  have hs1 : w1.heap.size = w.heap.size + 1 := by rw [hw1]; simp
  clear hw1
  go_wp2_with (at_make; refine wpList_make_full _ rfl _ _ 52 rfl w1.heap.size 3 i0 (.int .i64 0) 1 Tryz.underlying52 hi hz0 hz1 .i64 .i64 257 257 257 rfl rfl rfl rfl (by rw [hz2]; omega) (by unfold maxLen; omega) (Nat.le_refl _) ?_; intro w2 hown2 hgrow2; refine Hid.out ?_)
  refine hidden ?_
  obtain ⟨h, hh⟩ : ∃ h, w.heap.size = h := ⟨_, rfl⟩
  rw [hh] at hs1
  have hmc : (madeCells (Value.int .i64 0).cells (257 * 1)).toList = (List.replicate 257 (0 : Int)).map (Value.int .i64) := by
    rw [show (Value.int .i64 0).cells = #[Value.int .i64 0] from rfl, toList_madeCells_one, List.map_replicate]
  rw [hmc, hs1] at hown2
  have HO2 : Hid (w2.ownsRow (h + 1) 3 1 (.slice (some ⟨h + 1, 0, none⟩) 257 257) 257 ((cout 0).2.2.map (Value.int .i64))) := hown2
  have HB2 : Hid (Below (h + 1) w1 w2) := by
    show Below _ _ _
    exact ((Below.refl (h + 1) w1).grown hgrow2 (by omega) (fun _ e => by cases e))
  have HT2 : Hid (Nums w2 h lensI) := by
    show Nums _ _ _
    rw [hh] at HT
    exact HT.out.below HB2.out (by omega)
  have HB0 : Hid (Below h w w2) := by
    show Below _ _ _
    rw [hh] at HB1
    exact HB1.out.trans (HB2.out.mono (by omega))
  clear hown2 hgrow2 hmc HT HB1 HB2
  rw [hh]
  go_wp2_with fail
  go_loopw [3, 4, 5] (fun c l n wr => ∃ m : Nat, m ≤ 30 ∧ n = .int .i64 ((m : Int) + 1) ∧ c = .int .i64 (cout m).1 ∧ l = .int .i64 (cout m).2.1 ∧ 0 ≤ (cout m).2.1 ∧ (cout m).2.1 ≤ (m : Int) ∧ Hid (wr.ownsRow (h + 1) 3 1 (.slice (some ⟨h + 1, 0, none⟩) 257 257) 257 ((cout m).2.2.map (Value.int .i64))) ∧ Hid (Below (h + 1) w2 wr)) (fun _ _ n _ => 31 - (intOf n).toNat)
  case atStart => exact ⟨0, Nat.zero_le _, rfl, rfl, rfl, Int.le_refl _, Int.le_refl _, HO2, Below.refl _ _⟩
  case round =>
    clear HO2
    obtain ⟨m, hm, rfl, rfl, rfl, hl0, hl1, HO, HB⟩ := hrel
    by_cases hm30 : m < 30
    · have hmi : (m : Int) + 1 ≤ 30 := by omega
      obtain ⟨s0, hs0⟩ : ∃ s0, cout m = s0 := ⟨_, rfl⟩
      rw [hs0] at hl0 hl1 HO ⊢
      have HS0 : Hid (cout m = s0) := hs0
      clear hs0
      go_wp2_with fail
      go_loopw [3, 4, 6] (fun c l k wi => ∃ (j : Nat) (s : Int × Int × List Int), j ≤ 257 ∧ k = .int .i64 j ∧ c = .int .i64 s.1 ∧ l = .int .i64 s.2.1 ∧ 0 ≤ s.2.1 ∧ s.2.1 ≤ (m : Int) + 1 ∧ Hid (cin ((m : Int) + 1) (lensI.take j) 0 s0 = s) ∧ Hid (wi.ownsRow (h + 1) 3 1 (.slice (some ⟨h + 1, 0, none⟩) 257 257) 257 (s.2.2.map (Value.int .i64))) ∧ Hid (Below (h + 1) w2 wi)) (fun _ _ k _ => 257 - (intOf k).toNat)
      case atStart => exact ⟨0, s0, Nat.zero_le _, rfl, rfl, rfl, hl0, by omega, rfl, HO, HB⟩
      case round =>
        clear HO HB hl0 hl1
        obtain ⟨j, ⟨c, l, L⟩, hj, rfl, rfl, rfl, hl0, hl1, HC, HO, HB⟩ := hrel
        dsimp only at hl0 hl1 HO ⊢
        by_cases hj7 : j < 257
        · have hcell := (HT2.out.below HB.out (Nat.lt_succ_self h)).2 j (by rw [lens_len]; exact hj7)
          have HCN : Hid (cin ((m : Int) + 1) (lensI.take (j + 1)) 0 s0 = cone ((m : Int) + 1) (lensI.getD j 0) j (c, l, L)) := by
            show _ = _
            have htl : (lensI.take j).length = j := by rw [List.length_take, lens_len]; omega
            rw [take_next j (by rw [lens_len]; exact hj7), cin_snoc, HC.out, Nat.zero_add, htl]
          generalize lensI.getD j 0 = le at hcell HCN
          have hji : (j : Int) ≤ 256 := by omega
          by_cases hne : le = (m : Int) + 1
          · rw [hne] at hcell HCN
            clear hne
            have hf : wr.frozen? ⟨h + 1, j, none⟩ = false := HO.out.frozenAt j
            obtain ⟨u, hu⟩ : ∃ u, wr.cell? ⟨h + 1, j, none⟩ = some u := by
              rw [HO.out.cellAt j hj7]
              exact ⟨_, List.getElem?_eq_getElem (by have := HO.out.1; omega)⟩
            by_cases hp : 0 < l
            · go_wp2_with fail
              go_roundw
              case rel =>
                refine ⟨j + 1, (wrap64 (wrap64 (c + 1) * 2 ^ ((m : Int) + 1 - l).toNat), (m : Int) + 1, L.set j (wrap64 (wrap64 (c + 1) * 2 ^ ((m : Int) + 1 - l).toNat))), by omega, by go_num, rfl, rfl, by dsimp only; omega, by dsimp only; omega, ?_, ?_, ?_⟩
                · show _ = _
                  rw [HCN.out, cone, if_pos rfl, if_pos hp]
                · show World.ownsRow _ _ _ _ _ _ _
                  have := (HO.out.stored j (.int .i64 (wrap64 (wrap64 (c + 1) * 2 ^ ((m : Int) + 1 - l).toNat)))).1
                  rw [map_set] at this
                  simpa using this
                · exact HB.out.setCell (p := ⟨h + 1, j, none⟩) (Nat.le_refl _) _
              case measure => simp [intOf]; omega
            · go_wp2_with fail
              go_roundw
              case rel =>
                refine ⟨j + 1, (c, (m : Int) + 1, L.set j c), by omega, by go_num, rfl, rfl, by dsimp only; omega, by dsimp only; omega, ?_, ?_, ?_⟩
                · show _ = _
                  rw [HCN.out, cone, if_pos rfl, if_neg hp]
                · show World.ownsRow _ _ _ _ _ _ _
                  have := (HO.out.stored j (.int .i64 c)).1
                  rw [map_set] at this
                  simpa using this
                · exact HB.out.setCell (p := ⟨h + 1, j, none⟩) (Nat.le_refl _) _
              case measure => simp [intOf]; omega
          · have hbn : (le != (m : Int) + 1) = true := by simp [hne]
            go_wp2_with fail
            go_roundw
            case rel =>
              refine ⟨j + 1, (c, l, L), by omega, by go_num, rfl, rfl, hl0, hl1, ?_, HO, HB⟩
              show _ = _
              rw [HCN.out, cone, if_neg hne]
            case measure => simp [intOf]; omega
        · have hj5 : j = 257 := by omega
          subst hj5
          have hce : cout (m + 1) = (c, l, L) := by
            have hc := HC.out
            rw [List.take_of_length_le (by rw [lens_len]; exact Nat.le_refl _)] at hc
            rw [cout, HS0.out, Int.natCast_add]
            exact hc
          go_wp2_with fail
          go_roundw
          case rel =>
            refine ⟨m + 1, by omega, by go_num, by rw [hce], by rw [hce], by rw [hce]; exact hl0, by rw [hce]; simpa using hl1, ?_, HB⟩
            rw [hce]
            exact HO
          case measure => simp [intOf]; omega
    · have hm3 : m = 30 := by omega
      subst hm3
      go_wp2_with fail
      go_ret
      have hc := codes_all
      refine ⟨h + 1, rfl, ⟨(HO.out.lt _ rfl).2, fun k hk => ?_⟩, by omega, ?_⟩
      · rw [codes_len] at hk
        rw [HO.out.cellAt k hk, hc]
        simp [List.getD_eq_getElem?_getD, codes_len, hk]
      · rw [hh]
        exact HB0.out.trans (HB.out.mono (by omega))

end Go.Proofs.YtckpacifimpkgacGreat
