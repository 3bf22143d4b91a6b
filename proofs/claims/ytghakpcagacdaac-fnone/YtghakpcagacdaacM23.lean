/- What the program's PutFields answers. What the draws give: a cursor over the code's bytes that only its own block is written by; numbers of a list; bytes in memory of its own. For codes of at most 2^40 bytes. What is drawn with a cursor: a number below a bound, one of a list, bytes of a drawn number; only the cursor's block is written, and new memory made. For codes of at most 2^40 bytes. Texts that are drawn: one of a list; up to five of them one behind the other. For codes of at most 2^40 bytes. Fields and tables that are drawn. For codes of at most 2^40 bytes. -/
import Derived.Test.YtghakpcagacdaacM17
import Derived.Test.YtghakpcagacdaacM14
import Derived.Deep.Cut
import Derived.Test.YtghakpcagacdaacM01
import Derived.Test.YtghakpcagacdaacM11
import Derived.Deep.RegionWith
namespace Go.Proofs.Ytghakpcagacdaac
open Go.RowKit
set_option linter.unusedVariables false

set_option maxRecDepth 10000 in
set_option maxHeartbeats 3200000 in
theorem implPuts_any (m : Int) (a : Option Addr) (len ca : Nat) (xs : List Fld) (la : Option Addr) (ll lc : Nat) (L : List Fld) (w : World) (hx : Flds w a len xs) (hL : Flds w la ll L) (hl : len + ll + fldBytes xs + fldBytes L ≤ 1048576) :
    Calls Try.prog 10 #[.agg #[.int .i64 m, .slice a len ca], .slice la ll lc] w fun e w' => ∃ (q : List Int) (a' : Option Addr) (c' : Nat) (v : Value) (n : Nat) (ys : List Fld), e = .returned (.tuple #[.slice a' q.length c', .agg #[.int .i64 m, v]]) ∧ PutN L m xs ll q ys ∧ Owns w' w.heap.size a' q.length c' q ∧ OwnF w' w.heap.size v n ys ∧ Below w.heap.size w w' := by
  obtain ⟨i0, hi, hz0, hz1, hz2⟩ := info_parts Try.info5
  have HX : Hid (Flds w a len xs) := hx
  have HL : Hid (Flds w la ll L) := hL
  have hlen := hx.1
  have hll := hL.1
  clear hx hL
  obtain ⟨w2, hw2⟩ : ∃ w2, ((w.alloc (.cells #[.int .i64 m, .slice a len ca] 26)).alloc (.cells #[.int .i64 0, .slice none 0 0] 26)) = w2 := ⟨_, rfl⟩
  have q1 : Box2 w2 w.heap.size 26 (.int .i64 m) (.slice a len ca) := by rw [← hw2]; exact (Box2.new _ _ _ _).alloc _
  have q2 : Box2 w2 (w.heap.size + 1) 26 (.int .i64 0) (.slice none 0 0) := by
    rw [← hw2]
    have := Box2.new (w.alloc (.cells #[.int .i64 m, .slice a len ca] 26)) 26 (.int .i64 0) (.slice none 0 0)
    rwa [World.size_alloc] at this
  have HB2 : Hid (Below w.heap.size w w2) := by show Below _ _ _; rw [← hw2]; exact ((Below.refl _ _).alloc (Nat.le_refl _) _).alloc (by simp) _
  have HW2 : Hid (w2.heap.size = w.heap.size + 2) := by show _ = _; rw [← hw2]; simp
  have HQ2 : Hid (Box2 w2 (w.heap.size + 1) 26 (.int .i64 0) (.slice none 0 0)) := q2
  obtain ⟨c0, c1, _, _⟩ := q1.cells
  clear q2
  obtain ⟨w3, hw3⟩ : ∃ w3, w2.alloc (.cells #[] 5) = w3 := ⟨_, rfl⟩
  have hb3 : Below w2.heap.size w2 w3 := by rw [← hw3]; exact (Below.refl _ _).alloc (Nat.le_refl _) _
  have HO3 : Hid (Owns w3 w2.heap.size (some ⟨w2.heap.size, 0, none⟩) 0 0 []) := by
    show Owns _ _ _ _ _ _
    rw [← hw3]
    exact ⟨⟨rfl, .inr ⟨w2.heap.size, 0, #[], rfl, Nat.le_refl _, heap_alloc_new w2 _, Nat.le_refl _, by decide, rfl, rfl⟩⟩, by simp⟩
  have HB3 : Hid (Below w2.heap.size w2 w3) := hb3
  obtain ⟨d0, d1, _, _⟩ := (q1.stays hb3).cells
  clear hb3 q1
  go_enter Try.func10, Try.ntmps10
  go_wp2_with fail
  refine (implCopy_any m a len ca xs _ (HX.out.below (HB2.out.trans (HB3.out.mono HB2.out.size))) (by omega)).mono ?_
  rintro e w4 ⟨v4, rfl, how4, hb4⟩
  obtain ⟨a4, c4, rfl⟩ := how4.shape
  have HS4 : Hid (PSt w (w4.alloc (.cells #[.int .i64 m, .slice a4 len c4] 26)) w4.heap.size m [] 0 w2.heap.size 0 a4 len c4 xs) := by
    have hb24 : Below w2.heap.size w2 w4 := HB3.out.trans (hb4.mono HB3.out.size)
    have hn := (Below.refl w4.heap.size w4).alloc (Nat.le_refl _) (.cells #[.int .i64 m, .slice a4 len c4] 26)
    have hs := HW2.out
    have hs4 := hb24.size
    have hs3 := HB3.out.size
    have hb5 : Below w.heap.size w w4 := HB2.out.trans (hb24.mono HB2.out.size)
    refine ⟨hb5.alloc hb5.size _, by omega, (HQ2.out.stays hb24).stays hn, Box2.new _ _ _ _, ?_, ?_⟩
    · exact ((HO3.out.below hb4).below hn).low (by omega)
    · have := how4.stays hn
      exact ⟨own_down this.1 (by omega), this.2⟩
  clear hb4 how4 HO3 HB3 HQ2 c0 c1 d0 d1 hw2 hw3
  go_wp2_with fail
  obtain ⟨bb, hbb⟩ : ∃ bb, w4.heap.size = bb := ⟨_, rfl⟩
  obtain ⟨w5, hw5⟩ : ∃ w5, w4.alloc (.cells #[.int .i64 m, .slice a4 len c4] 26) = w5 := ⟨_, rfl⟩
  rw [hw5, hbb] at HS4
  rw [hw5, hbb]
  clear hw5 hbb
  go_loopw [6, 17] (fun v i wr => ∃ (k : Nat) (q : List Int) (ql g c : Nat) (va : Option Addr) (n vc : Nat) (ys : List Fld), k ≤ ll ∧ i = .int .i64 k ∧ v = .slice (some ⟨g, 0, none⟩) ql c ∧ Hid (q.length = ql) ∧ Hid (PutN L m xs k q ys) ∧ Hid (PSt w wr bb m q ql g c va n vc ys)) (fun _ i _ => ll - (intOf i).toNat)
  case atStart => exact ⟨0, [], 0, _, 0, a4, len, c4, xs, Nat.zero_le _, rfl, rfl, rfl, ⟨rfl, rfl⟩, HS4⟩
  case round =>
    clear HS4
    obtain ⟨k, q, ql, g, c, va, n, vc, ys, hk, rfl, rfl, HQL, HP, HS⟩ := hrel
    have hfit := HP.out.fits
    have hyn : ys.length = n := HS.out.2.2.2.2.2.len
    have hql := HQL.out
    by_cases hlt : k < ll
    · obtain ⟨ba, oa, x, y, rfl, hba, hfa, ha0, ha1⟩ := HL.out.at hlt
      have ga0 : wr.cell? ⟨ba, oa + k * 2, none⟩ = some (.string x) := (HS.out.1.cell (p := ⟨ba, _, none⟩) hba).trans ha0
      have ga1 : wr.cell? ⟨ba, oa + k * 2 + 1, none⟩ = some (.string y) := (HS.out.1.cell (p := ⟨ba, _, none⟩) hba).trans ha1
      have hst := fldBytes_step L k x y hfa
      have hle := fldBytes_take L (k + 1)
      have hbd : n + (x.size + y.size) + fldBytes ys ≤ 1048576 := by omega
      have hqb : ql + (x.size + y.size + 18) ≤ 100000000 := by omega
      have hxs : x.size ≤ maxLen := by unfold maxLen; omega
      have hys : y.size ≤ maxLen := by unfold maxLen; omega
      have HF : Hid (L[k]? = some (x, y)) := hfa
      clear hfa hst hle ha0 ha1 hfit hyn hql
      have hki : (k : Int) < (ll : Int) := by omega
      have hk0 : (0 : Int) ≤ (k : Int) := by omega
      obtain ⟨x1, hx1⟩ : ∃ x1, wr.alloc (.cells #[.string x, .string y] 36) = x1 := ⟨_, rfl⟩
      have hb1 : Below wr.heap.size wr x1 := by rw [← hx1]; exact (Below.refl _ _).alloc (Nat.le_refl _) _
      have HS1 : Hid (PSt w x1 bb m q ql g c va n vc ys) := HS.out.stays hb1
      obtain ⟨u0, u1, _, _⟩ := HS1.out.2.2.2.1.cells
      obtain ⟨u2, u3, _, _⟩ : x1.cell? ⟨wr.heap.size, 0, none⟩ = some (.string x) ∧ x1.cell? ⟨wr.heap.size, 1, none⟩ = some (.string y) ∧ x1.frozen? ⟨wr.heap.size, 0, none⟩ = false ∧ x1.frozen? ⟨wr.heap.size, 1, none⟩ = false := by rw [← hx1]; exact (Box2.new wr 36 (.string x) (.string y)).cells
      clear hb1
      by_cases hsx : (x.toList == [97, 117, 116, 104, 111, 114, 105, 122, 97, 116, 105, 111, 110]) = true
      · have HMd : Hid (fmode x = 3) := by show _ = _; rw [fmode, if_pos hsx]
        go_wp2_with fail
        refine (implPutF_any m va n vc ys x y 3 _ HS1.out.2.2.2.2.2.flds ⟨hxs, hys⟩ hbd).mono ?_
        rintro e x2 ⟨r, ra, rc, v2, n2, zs, rfl, hadd, hor, how, hb⟩
        obtain ⟨a2, c2, rfl⟩ := how.shape
        obtain ⟨rl, hrl⟩ : ∃ rl, r.length = rl := ⟨_, rfl⟩
        have HAdd : Hid (PutAns m ys x y (fmode x) r zs) := by show PutAns _ _ _ _ _ _ _; rw [HMd.out]; exact hadd
        have hrl2 : rl ≤ x.size + y.size + 18 := by have := hadd.fits.2.2; omega
        rw [hrl] at hor ⊢
        have HRL : Hid (r.length = rl) := hrl
        have hs2 := HS1.out.stays hb
        have HS3 : Hid (PSt w ((x2.setCell ⟨bb, 0, none⟩ (.int .i64 m)).setCell ⟨bb, 1, none⟩ (.slice a2 n2 c2)) bb m q ql g c a2 n2 c2 zs) := hs2.put HS1.out.1.size how
        have HR3 : Hid (Owns ((x2.setCell ⟨bb, 0, none⟩ (.int .i64 m)).setCell ⟨bb, 1, none⟩ (.slice a2 n2 c2)) x1.heap.size ra rl rc r) := owns_setTwo hor hs2.2.2.2.1 _ _
        obtain ⟨b0, b1, b2, b3⟩ := hs2.2.2.2.1.cells
        clear hadd hor how hb hrl hs2 u0 u1 u2 u3 ga0 ga1 hx1
        obtain ⟨x3, hx3⟩ : ∃ x3, (x2.setCell ⟨bb, 0, none⟩ (.int .i64 m)).setCell ⟨bb, 1, none⟩ (.slice a2 n2 c2) = x3 := ⟨_, rfl⟩
        rw [hx3] at HS3 HR3
        have HSrc : Hid (Src Try.prog 1 22 (.slice ra rl rc) rl (r.map (Value.int .u8)) x3) := Src.ofSeg Try.underlying22 HR3.out.seg HR3.out.none
        have hA : ql + rl ≤ maxLen := by unfold maxLen; omega
        have hA2 : (ql + rl) * 1 ≤ 140737488355328 := by omega
        go_wp2_with (at_builtin; refine wpList_append_got rfl _ _ 22 22 rfl w.heap.size 5 i0 (.int .u8 0) 1 1 Try.underlying22 hi hz0 hz1 hz2 rfl (by decide) g ql c (q.map (Value.int .u8)) rfl HS3.out.2.2.2.2.1.1 (.slice ra rl rc) rl (r.map (Value.int .u8)) rfl HSrc.out hA hA2 HS3.out.1.size ?_; intro g' c' x4 hown hgrow; refine Hid.out ?_)
        refine hidden ?_
        have HS5 : Hid (PSt w x4 bb m (q ++ r) (ql + rl) g' c' a2 n2 c2 zs) := HS3.out.app hgrow hown HR3.out.2
        clear hown hgrow HS3 HR3 HSrc hx3 b0 b1 b2 b3 hA hA2
        go_wp2
        go_roundw
        case rel =>
          refine ⟨k + 1, q ++ r, ql + rl, g', c', a2, n2, c2, zs, by omega, by go_num, rfl, ?_, ⟨q, ys, x, y, r, HP.out, HF.out, HAdd.out, rfl⟩, HS5⟩
          show _ = _
          rw [List.length_append, HQL.out, HRL.out]
        case measure => simp [intOf]; omega
      · have HMd : Hid (fmode x = 1) := by show _ = _; rw [fmode, if_neg hsx]
        have hs1 : (x.toList == [97, 117, 116, 104, 111, 114, 105, 122, 97, 116, 105, 111, 110]) = false := by simpa using hsx
        clear hsx
        go_wp2_with fail
        refine (implPutF_any m va n vc ys x y 1 _ HS1.out.2.2.2.2.2.flds ⟨hxs, hys⟩ hbd).mono ?_
        rintro e x2 ⟨r, ra, rc, v2, n2, zs, rfl, hadd, hor, how, hb⟩
        obtain ⟨a2, c2, rfl⟩ := how.shape
        obtain ⟨rl, hrl⟩ : ∃ rl, r.length = rl := ⟨_, rfl⟩
        have HAdd : Hid (PutAns m ys x y (fmode x) r zs) := by show PutAns _ _ _ _ _ _ _; rw [HMd.out]; exact hadd
        have hrl2 : rl ≤ x.size + y.size + 18 := by have := hadd.fits.2.2; omega
        rw [hrl] at hor ⊢
        have HRL : Hid (r.length = rl) := hrl
        have hs2 := HS1.out.stays hb
        have HS3 : Hid (PSt w ((x2.setCell ⟨bb, 0, none⟩ (.int .i64 m)).setCell ⟨bb, 1, none⟩ (.slice a2 n2 c2)) bb m q ql g c a2 n2 c2 zs) := hs2.put HS1.out.1.size how
        have HR3 : Hid (Owns ((x2.setCell ⟨bb, 0, none⟩ (.int .i64 m)).setCell ⟨bb, 1, none⟩ (.slice a2 n2 c2)) x1.heap.size ra rl rc r) := owns_setTwo hor hs2.2.2.2.1 _ _
        obtain ⟨b0, b1, b2, b3⟩ := hs2.2.2.2.1.cells
        clear hadd hor how hb hrl hs2 u0 u1 u2 u3 ga0 ga1 hx1
        obtain ⟨x3, hx3⟩ : ∃ x3, (x2.setCell ⟨bb, 0, none⟩ (.int .i64 m)).setCell ⟨bb, 1, none⟩ (.slice a2 n2 c2) = x3 := ⟨_, rfl⟩
        rw [hx3] at HS3 HR3
        have HSrc : Hid (Src Try.prog 1 22 (.slice ra rl rc) rl (r.map (Value.int .u8)) x3) := Src.ofSeg Try.underlying22 HR3.out.seg HR3.out.none
        have hA : ql + rl ≤ maxLen := by unfold maxLen; omega
        have hA2 : (ql + rl) * 1 ≤ 140737488355328 := by omega
        go_wp2_with (at_builtin; refine wpList_append_got rfl _ _ 22 22 rfl w.heap.size 5 i0 (.int .u8 0) 1 1 Try.underlying22 hi hz0 hz1 hz2 rfl (by decide) g ql c (q.map (Value.int .u8)) rfl HS3.out.2.2.2.2.1.1 (.slice ra rl rc) rl (r.map (Value.int .u8)) rfl HSrc.out hA hA2 HS3.out.1.size ?_; intro g' c' x4 hown hgrow; refine Hid.out ?_)
        refine hidden ?_
        have HS5 : Hid (PSt w x4 bb m (q ++ r) (ql + rl) g' c' a2 n2 c2 zs) := HS3.out.app hgrow hown HR3.out.2
        clear hown hgrow HS3 HR3 HSrc hx3 b0 b1 b2 b3 hA hA2
        go_wp2
        go_roundw
        case rel =>
          refine ⟨k + 1, q ++ r, ql + rl, g', c', a2, n2, c2, zs, by omega, by go_num, rfl, ?_, ⟨q, ys, x, y, r, HP.out, HF.out, HAdd.out, rfl⟩, HS5⟩
          show _ = _
          rw [List.length_append, HQL.out, HRL.out]
        case measure => simp [intOf]; omega
    · obtain rfl : k = ll := by omega
      have hki : ¬ (k : Int) < (k : Int) := by omega
      obtain ⟨c0, c1, _, _⟩ := HS.out.2.2.2.1.cells
      obtain ⟨c2, c3, c4', c5⟩ := HS.out.2.2.1.cells
      have HFn : Hid _ := HS.out.fin
      clear hfit hyn hql
      go_wp2_with fail
      go_region
      all_goals
        clear c0 c1 c4' c5
        go_wp2_with fail
        refine bodyPost_ret (v := .tuple #[.slice (some ⟨g, 0, none⟩) ql c, .agg #[.int .i64 m, .slice va n vc]]) (by simp [results, Try.f10, go_sem, c2, c3]) rfl ?_
        exact ⟨q, _, _, _, n, ys, by rw [HQL.out], HP.out, by rw [HQL.out]; exact HFn.out.2.2.1, HFn.out.2.2.2, HFn.out.1⟩

end Go.Proofs.Ytghakpcagacdaac

namespace Go.Proofs.Ytghakpcagacdaac
open Go.RowKit
set_option linter.unusedVariables false

/-- The cursor in block c: the code's bytes lie below block B, which is not above c. -/
def Cur (w : World) (B c : Nat) (a : Option Addr) (len cap : Nat) (zs : List Int) : Prop :=
  B ≤ c ∧ (∀ x, a = some x → len ≠ 0 → x.block < B) ∧ Seg w a len zs ∧
    ∃ (i : Nat) (h : Int), i ≤ len ∧ w.heap[c]? = some (.cells #[.slice a len cap, .int .i64 i, .int .i64 h] 99 (0, 0))

theorem and_mask (x : Int) (m : Nat) (hm : m < 9223372036854775808) : 0 ≤ bits .and .i64 x (m : Int) ∧ bits .and .i64 x (m : Int) ≤ (m : Int) := by
  have e : bits .and .i64 x (m : Int) = (((BitVec.ofInt 64 x).toNat &&& m : Nat) : Int) := by
    show IntKind.i64.wrap ((BitVec.ofInt 64 x &&& BitVec.ofInt 64 (m : Int)).toNat : Int) = _
    rw [BitVec.toNat_and, ofInt64 m (by omega)]
    have h1 : (BitVec.ofInt 64 x).toNat &&& m ≤ m := Nat.and_le_right
    exact wrap_i64_small _ (by omega)
  have h1 : (BitVec.ofInt 64 x).toNat &&& m ≤ m := Nat.and_le_right
  rw [e]
  omega

theorem cur_new {w : World} {a : Option Addr} {len cap : Nat} {zs : List Int} (hs : Seg w a len zs) (h : Int) :
    Cur (w.alloc (.cells #[.slice a len cap, .int .i64 0, .int .i64 h] 99)) w.heap.size w.heap.size a len cap zs := by
  refine ⟨Nat.le_refl _, ?_, hs.below ((Below.refl _ _).alloc (Nat.le_refl _) _), 0, h, Nat.zero_le _, heap_alloc_new w _⟩
  rintro x rfl hl
  rcases hs.2.2 with h0 | ⟨b, off, e, hb, _⟩
  · exact absurd h0 hl
  · obtain rfl := Option.some.inj e
    exact hb

set_option maxRecDepth 10000 in
set_option maxHeartbeats 400000 in
theorem l1New_any (a : Option Addr) (len cap : Nat) (zs : List Int) (w : World) (hs : Seg w a len zs) (hl : len ≤ 1099511627776) :
    Calls Try.prog 34 #[.slice a len cap] w fun e w' => e = .returned (.pointer (some ⟨w.heap.size, 0, none⟩)) ∧ Cur w' w.heap.size w.heap.size a len cap zs ∧ Below w.heap.size w w' := by
  have HS : Hid (Seg w a len zs) := hs
  clear hs
  go_enter Try.func34, Try.ntmps34
  go_wp2
  go_loop [3, 4] (fun n i => ∃ (k : Nat) (m : Int), k ≤ len ∧ i = .int .i64 k ∧ n = .int .i64 m) (fun _ i => len - (intOf i).toNat)
  case atStart => exact ⟨0, _, Nat.zero_le _, rfl, rfl⟩
  case round =>
    obtain ⟨k, m, hk, rfl, rfl⟩ := hrel
    by_cases hlt : k < len ∧ k < 4000
    · obtain ⟨hlt, h4⟩ := hlt
      obtain ⟨b, off, rfl, hb, hc⟩ : ∃ b off, a = some ⟨b, off, none⟩ ∧ b < w.heap.size ∧ ∀ i, i < len → w.cell? ⟨b, off + i, none⟩ = some (.int .u8 (zs.getD i 0)) := by
        rcases HS.out.2.2 with h | h
        · omega
        · exact h
      have hcell : w.cell? ⟨b, off + k, none⟩ = some (.int .u8 (zs.getD k 0)) := hc k hlt
      have h4i : (k : Int) < 4000 := by omega
      clear hc h4
      go_wp2
      go_round
      case rel => exact ⟨k + 1, _, by omega, by go_num, rfl⟩
      case measure => simp [intOf]; omega
    · by_cases hlt2 : k < len
      · have h4i : ¬ (k : Int) < 4000 := by omega
        clear hlt
        go_wp2
        go_ret
        exact ⟨rfl, cur_new HS.out _, (Below.refl _ _).alloc (Nat.le_refl _) _⟩
      · clear hlt
        go_wp2
        go_ret
        exact ⟨rfl, cur_new HS.out _, (Below.refl _ _).alloc (Nat.le_refl _) _⟩

theorem cells_of_three {w : World} {c : Nat} {x y z : Value} {t : TypeId} (h : w.heap[c]? = some (.cells #[x, y, z] t (0, 0))) :
    w.cell? ⟨c, 0, none⟩ = some x ∧ w.cell? ⟨c, 1, none⟩ = some y ∧ w.cell? ⟨c, 2, none⟩ = some z ∧ w.frozen? ⟨c, 1, none⟩ = false ∧ w.frozen? ⟨c, 2, none⟩ = false := by
  refine ⟨?_, ?_, ?_, frozen_of_row w c 1 _ t h, frozen_of_row w c 2 _ t h⟩
  · rw [cell_of_row w c 0 _ t (0, 0) h]; rfl
  · rw [cell_of_row w c 1 _ t (0, 0) h]; rfl
  · rw [cell_of_row w c 2 _ t (0, 0) h]; rfl

theorem gset (w : World) (c o : Nat) (v : Value) : w.grownBy (w.setCell ⟨c, o, none⟩ v) (some c) :=
  ⟨rfl, rfl, rfl, by simp [World.setCell], fun k _ hk => Below.heap_setCell _ _ _ _ (fun e => hk (by simp [e]))⟩
theorem gdrew (w : World) (n : Nat) (row : Option Nat) : w.grownBy (w.drewN n) row := ⟨rfl, rfl, rfl, Nat.le_refl _, fun _ _ _ => rfl⟩
theorem gtrans {w w1 w2 : World} {row : Option Nat} (h : w.grownBy w1 row) (k : w1.grownBy w2 row) : w.grownBy w2 row :=
  ⟨k.os.trans h.os, k.tape.trans h.tape, k.output.trans h.output, Nat.le_trans h.size k.size, fun j hj hne => (k.block j (Nat.lt_of_lt_of_le hj h.size) hne).trans (h.block j hj hne)⟩
theorem gbelow {w w' : World} (h : Below w.heap.size w w') (row : Option Nat) : w.grownBy w' row := ⟨h.os, h.tape, h.output, h.size, fun k hk _ => h.block k hk⟩

theorem seg_grown {w w' : World} {B c : Nat} {a : Option Addr} {len : Nat} {zs : List Int} (hB : B ≤ c) (hlow : ∀ x, a = some x → len ≠ 0 → x.block < B) (hs : Seg w a len zs) (hg : w.grownBy w' (some c)) : Seg w' a len zs := by
  refine ⟨hs.1, hs.2.1, ?_⟩
  by_cases h0 : len = 0
  · exact .inl h0
  · rcases hs.2.2 with h | ⟨b, off, rfl, hb, hc⟩
    · exact .inl h
    · have hbB : b < B := hlow _ rfl h0
      refine .inr ⟨b, off, rfl, Nat.lt_of_lt_of_le hb hg.size, fun i hi => ?_⟩
      exact (World.cell?_of_block (w := w) (a := ⟨b, off + i, none⟩) (hg.block b hb (fun e => by have := Option.some.inj e; omega))).trans (hc i hi)

theorem Cur.again {w w' : World} {B c : Nat} {a : Option Addr} {len cap : Nat} {zs : List Int} (hB : B ≤ c) (hlow : ∀ x, a = some x → len ≠ 0 → x.block < B) (hs : Seg w a len zs) (hg : w.grownBy w' (some c))
    (i : Nat) (h : Int) (hi : i ≤ len) (hh : w'.heap[c]? = some (.cells #[.slice a len cap, .int .i64 i, .int .i64 h] 99 (0, 0))) : Cur w' B c a len cap zs :=
  ⟨hB, hlow, seg_grown hB hlow hs hg, i, h, hi, hh⟩

/-- A world in which other blocks than the cursor's have turned, and new ones come. -/
theorem Cur.kept {w w' : World} {B c : Nat} {a : Option Addr} {len cap : Nat} {zs : List Int} {row : Option Nat} (h : Cur w B c a len cap zs) (hg : w.grownBy w' row) (hr : ∀ k, row = some k → B ≤ k ∧ k ≠ c) : Cur w' B c a len cap zs := by
  obtain ⟨hB, hlow, hs, i, hh, hi, hc⟩ := h
  have hcl : c < w.heap.size := by
    by_cases hk : c < w.heap.size
    · exact hk
    · rw [Array.getElem?_eq_none (by omega)] at hc; cases hc
  refine ⟨hB, hlow, ?_, i, hh, hi, (hg.block c hcl (fun e => (hr c e.symm).2 rfl)).trans hc⟩
  refine ⟨hs.1, hs.2.1, ?_⟩
  by_cases h0 : len = 0
  · exact .inl h0
  · rcases hs.2.2 with h | ⟨b, off, rfl, hb, hcc⟩
    · exact .inl h
    · have hbB : b < B := hlow _ rfl h0
      refine .inr ⟨b, off, rfl, Nat.lt_of_lt_of_le hb hg.size, fun j hj => ?_⟩
      exact (World.cell?_of_block (w := w) (a := ⟨b, off + j, none⟩) (hg.block b hb (fun e => by have := (hr b e.symm).1; omega))).trans (hcc j hj)

theorem Cur.lt {w : World} {B c : Nat} {a : Option Addr} {len cap : Nat} {zs : List Int} (h : Cur w B c a len cap zs) : c < w.heap.size := by
  obtain ⟨_, _, _, i, hh, _, hc⟩ := h
  by_cases hk : c < w.heap.size
  · exact hk
  · rw [Array.getElem?_eq_none (by omega)] at hc; cases hc

set_option maxRecDepth 10000 in
set_option maxHeartbeats 400000 in
theorem l1Byte_any (B c : Nat) (a : Option Addr) (len cap : Nat) (zs : List Int) (w : World) (hcur : Cur w B c a len cap zs) (hl : len ≤ 1099511627776) :
    Calls Try.prog 76 #[.pointer (some ⟨c, 0, none⟩)] w fun e w' => ∃ x : Int, 0 ≤ x ∧ x ≤ 255 ∧ e = .returned (.int .i64 x) ∧ Cur w' B c a len cap zs ∧ w.grownBy w' (some c) := by
  obtain ⟨hB, hlow, hs, i, h, hi, hh⟩ := hcur
  obtain ⟨c0, c1, c2, f1, f2⟩ := cells_of_three hh
  have HH : Hid _ := hh
  have HS : Hid (Seg w a len zs) := hs
  have HL : Hid (∀ x, a = some x → len ≠ 0 → x.block < B) := hlow
  clear hh hs hlow
  by_cases hlt : i < len
  · obtain ⟨b, off, rfl, hb, hc⟩ : ∃ b off, a = some ⟨b, off, none⟩ ∧ b < w.heap.size ∧ ∀ i, i < len → w.cell? ⟨b, off + i, none⟩ = some (.int .u8 (zs.getD i 0)) := by
      rcases HS.out.2.2 with h | h
      · omega
      · exact h
    have hbB := HL.out _ rfl (by omega)
    have hbc : ¬ b = c := by simp at hbB; omega
    have hcell : w.cell? ⟨b, off + i, none⟩ = some (.int .u8 (zs.getD i 0)) := hc i hlt
    clear hc hbB
    go_enter Try.func76, Try.ntmps76
    go_wp2
    generalize wrap64 (wrap64 (h * 6364136223846793005) + 1442695040888963407) = h'
    go_quiet (fail)
    go_wp2
    obtain ⟨hx0, hx1⟩ := and_mask (bits BinOp.xor .i64 (h' / 8589934592) (h' / 140737488355328)) 255 (by omega)
    generalize bits BinOp.and .i64 (bits BinOp.xor .i64 (h' / 8589934592) (h' / 140737488355328)) 255 = x at *
    go_quiet (fail)
    go_wp2
    go_quiet (fail)
    go_wp2
    go_ret
    obtain ⟨hy0, hy1⟩ := and_mask (wrap64 (x + wrap64 (zs.getD i 0))) 255 (by omega)
    refine ⟨_, hy0, hy1, by simp, ?_, ?_⟩
    · refine Cur.again hB HL.out HS.out (gtrans (gtrans (gset w c 2 _) (gdrew _ _ _)) (gset _ c 1 _)) (i + 1) h' (by omega) ?_
      have h1 := heap_setCell_same w c 2 _ 99 (.int .i64 h') HH.out
      exact heap_setCell_same ((w.setCell ⟨c, 2, none⟩ (.int .i64 h')).drewN _) c 1 _ 99 _ h1
    · exact gtrans (gtrans (gset w c 2 _) (gdrew _ _ _)) (gset _ c 1 _)
  · go_enter Try.func76, Try.ntmps76
    go_wp2
    generalize wrap64 (wrap64 (h * 6364136223846793005) + 1442695040888963407) = h'
    go_quiet (fail)
    go_wp2
    obtain ⟨hx0, hx1⟩ := and_mask (bits BinOp.xor .i64 (h' / 8589934592) (h' / 140737488355328)) 255 (by omega)
    generalize bits BinOp.and .i64 (bits BinOp.xor .i64 (h' / 8589934592) (h' / 140737488355328)) 255 = x at *
    go_quiet (fail)
    go_wp2
    go_ret
    refine ⟨x, hx0, hx1, rfl, ?_, ?_⟩
    · exact Cur.again hB HL.out HS.out (gtrans (gtrans (gset w c 2 _) (gdrew _ _ _)) (gdrew _ _ _)) i h' hi (heap_setCell_same w c 2 _ 99 (.int .i64 h') HH.out)
    · exact gtrans (gtrans (gset w c 2 _) (gdrew _ _ _)) (gdrew _ _ _)

end Go.Proofs.Ytghakpcagacdaac

namespace Go.Proofs.Ytghakpcagacdaac
open Go.RowKit
set_option linter.unusedVariables false

set_option maxRecDepth 10000 in
set_option maxHeartbeats 400000 in
theorem l1Below_any (B c : Nat) (a : Option Addr) (len cap : Nat) (zs : List Int) (n : Int) (w : World) (hcur : Cur w B c a len cap zs) (hl : len ≤ 1099511627776) (hn1 : 1 ≤ n) (hn2 : n ≤ 1000000) :
    Calls Try.prog 44 #[.pointer (some ⟨c, 0, none⟩), .int .i64 n] w fun e w' => ∃ x : Int, e = .returned (.int .i64 x) ∧ 0 ≤ x ∧ x < n ∧ Cur w' B c a len cap zs ∧ w.grownBy w' (some c) := by
  have HC : Hid _ := hcur
  clear hcur
  have hne : (n == 0) = false := by rw [beq_eq_false_iff_ne]; omega
  by_cases h256 : n ≤ 256
  · go_enter Try.func44, Try.ntmps44
    go_wp2_with fail
    refine (l1Byte_any B c a len cap zs _ HC.out hl).mono ?_
    rintro e w1 ⟨x, hx0, hx1, rfl, hc1, hg1⟩
    have HC1 : Hid _ := hc1
    have HG1 : Hid _ := hg1
    clear hc1 hg1
    go_wp2_with fail
    go_ret
    refine ⟨_, rfl, ?_, ?_, HC1.out, HG1.out⟩
    · first | exact Int.emod_nonneg _ (by omega) | exact Int.tmod_nonneg _ (by omega)
    · first | exact Int.emod_lt_of_pos _ (by omega) | exact Int.tmod_lt_of_pos _ (by omega)
  · go_enter Try.func44, Try.ntmps44
    go_wp2_with fail
    refine (l1Byte_any B c a len cap zs _ HC.out hl).mono ?_
    rintro e w1 ⟨x, hx0, hx1, rfl, hc1, hg1⟩
    have HC1 : Hid _ := hc1
    have HG1 : Hid _ := hg1
    clear hc1 hg1
    go_wp2_with fail
    refine (l1Byte_any B c a len cap zs _ HC1.out hl).mono ?_
    rintro e w2 ⟨y, hy0, hy1, rfl, hc2, hg2⟩
    have HC2 : Hid _ := hc2
    have HG2 : Hid _ := gtrans HG1.out hg2
    clear hc2 hg2
    go_wp2_with fail
    refine (l1Byte_any B c a len cap zs _ HC2.out hl).mono ?_
    rintro e w3 ⟨z, hz0, hz1, rfl, hc3, hg3⟩
    have HC3 : Hid _ := hc3
    have HG3 : Hid _ := gtrans HG2.out hg3
    clear hc3 hg3
    go_wp2_with fail
    go_ret
    refine ⟨_, rfl, ?_, ?_, HC3.out, HG3.out⟩
    · first | exact Int.emod_nonneg _ (by omega) | exact Int.tmod_nonneg _ (by omega)
    · first | exact Int.emod_lt_of_pos _ (by omega) | exact Int.tmod_lt_of_pos _ (by omega)

theorem cell_of_ints {w : World} {g : Nat} {L : List Int} (h : w.heap[g]? = some (.cells (L.map (Value.int .i64)).toArray 3 (0, 0))) (k : Nat) (hk : k < L.length) : w.cell? ⟨g, k, none⟩ = some (.int .i64 (L.getD k 0)) := by
  rw [cell_of_row w g k _ 3 (0, 0) h]
  simp [List.getD_eq_getElem?_getD, hk]

set_option maxRecDepth 10000 in
set_option maxHeartbeats 400000 in
theorem l1Int_any (B c : Nat) (a : Option Addr) (len cap : Nat) (zs : List Int) (g n cp : Nat) (L : List Int) (w : World) (hcur : Cur w B c a len cap zs) (hl : len ≤ 1099511627776)
    (hL : w.heap[g]? = some (.cells (L.map (Value.int .i64)).toArray 3 (0, 0))) (hgc : g ≠ c) (hn : L.length = n) (h1 : 1 ≤ n) (h2 : n ≤ 256) :
    Calls Try.prog 45 #[.pointer (some ⟨c, 0, none⟩), .slice (some ⟨g, 0, none⟩) n cp] w fun e w' => ∃ v : Int, e = .returned (.int .i64 v) ∧ v ∈ L ∧ Cur w' B c a len cap zs ∧ w.grownBy w' (some c) := by
  have HC : Hid _ := hcur
  have HL : Hid _ := hL
  have HN : Hid (L.length = n) := hn
  clear hcur hL hn
  have hi1 : (1 : Int) ≤ (n : Int) := by omega
  have hi2 : (n : Int) ≤ 1000000 := by omega
  have hglt : g < w.heap.size := by
    by_cases hk : g < w.heap.size
    · exact hk
    · have := HL.out; rw [Array.getElem?_eq_none (by omega)] at this; cases this
  go_enter Try.func45, Try.ntmps45
  go_wp2_with fail
  refine (l1Below_any B c a len cap zs _ _ HC.out hl hi1 hi2).mono ?_
  rintro e w1 ⟨x, rfl, hx0, hx1, hc1, hg1⟩
  obtain ⟨k, rfl⟩ := Int.eq_ofNat_of_zero_le hx0
  have HC1 : Hid _ := hc1
  have HG1 : Hid _ := hg1
  have hcell : w1.cell? ⟨g, k, none⟩ = some (.int .i64 (L.getD k 0)) := by
    refine cell_of_ints ?_ k (by have := HN.out; omega)
    rw [hg1.block g hglt (fun e => hgc (Option.some.inj e))]
    exact HL.out
  clear hc1 hg1
  go_wp2_with fail
  go_ret
  refine ⟨_, rfl, ?_, HC1.out, HG1.out⟩
  have hk : k < L.length := by have := HN.out; omega
  rw [List.getElem?_eq_getElem hk]
  exact List.getElem_mem hk

theorem gown {w w1 w2 : World} {c row : Option Nat} (h : w.grownBy w1 c) (k : w1.grownBy w2 row) (hr : ∀ j, row = some j → w.heap.size ≤ j) : w.grownBy w2 c :=
  ⟨k.os.trans h.os, k.tape.trans h.tape, k.output.trans h.output, Nat.le_trans h.size k.size, fun j hj hne => (k.block j (Nat.lt_of_lt_of_le hj h.size) (fun e => by have := hr j e.symm; omega)).trans (h.block j hj hne)⟩

theorem own_some5 {w : World} {base n : Nat} {v : Value} {xs : List Value} (h : w.ownsRow base 5 1 v n xs) (hv : ¬ v = .slice none 0 0) : ∃ g cp, v = .slice (some ⟨g, 0, none⟩) n cp ∧ base ≤ g := by
  rcases h.2 with ⟨rfl, _⟩ | ⟨g, cap, cur, rfl, hb, _⟩
  · exact absurd rfl hv
  · exact ⟨g, cap, rfl, hb⟩

set_option maxRecDepth 10000 in
set_option maxHeartbeats 400000 in
theorem l1Bytes_any (B c : Nat) (a : Option Addr) (len cap : Nat) (zs : List Int) (n : Nat) (w : World) (hcur : Cur w B c a len cap zs) (hl : len ≤ 1099511627776) (hn2 : n ≤ 1000000) :
    Calls Try.prog 82 #[.pointer (some ⟨c, 0, none⟩), .int .i64 n] w fun e w' => ∃ g cp ys, e = .returned (.slice (some ⟨g, 0, none⟩) n cp) ∧ w.heap.size ≤ g ∧ Owns w' w.heap.size (some ⟨g, 0, none⟩) n cp ys ∧ Cur w' B c a len cap zs ∧ w.grownBy w' (some c) := by
  obtain ⟨i0, hi, hz0, hz1, hz2⟩ := info_parts Try.info5
  have hcl : c < w.heap.size := hcur.lt
  have HC : Hid (Cur (w.alloc (.cells #[] 5)) B c a len cap zs) := hcur.kept (World.grownBy_alloc w _ none) (by simp)
  have HB : Hid (B ≤ c) := hcur.1
  have HO : Hid ((w.alloc (.cells #[] 5)).ownsRow w.heap.size 5 1 (.slice (some ⟨w.heap.size, 0, none⟩) 0 0) 0 (([] : List Int).map (Value.int .u8))) := World.ownsRow_lit w #[] 0 (Nat.le_refl _) (Nat.zero_le _) rfl
  clear hcur
  go_enter Try.func82, Try.ntmps82
  go_wp2_with fail
  go_loopw [5, 6] (fun v i wr => ∃ (k g cp : Nat) (ys : List Int), k ≤ n ∧ i = .int .i64 k ∧ v = .slice (some ⟨g, 0, none⟩) k cp ∧ w.heap.size ≤ g ∧ Hid (wr.ownsRow w.heap.size 5 1 (.slice (some ⟨g, 0, none⟩) k cp) k (ys.map (Value.int .u8)) ∧ (∀ x ∈ ys, 0 ≤ x ∧ x ≤ 255)) ∧ Hid (Cur wr B c a len cap zs) ∧ Hid (w.grownBy wr (some c))) (fun _ i _ => n - (intOf i).toNat)
  case atStart => exact ⟨0, w.heap.size, 0, [], Nat.zero_le _, rfl, rfl, Nat.le_refl _, ⟨HO.out, by simp⟩, HC, World.grownBy_alloc w _ _⟩
  case round =>
    clear HO HC
    obtain ⟨k, g, cp, ys, hk, rfl, rfl, hgw, HO, HC, HG⟩ := hrel
    by_cases hlt : k < n
    · go_wp2_with fail
      refine (l1Byte_any B c a len cap zs _ HC.out hl).mono ?_
      rintro e w1 ⟨x, hx0, hx1, rfl, hc1, hg1⟩
      have hgc : ¬ g = c := by omega
      have HO1 : Hid (w1.ownsRow w.heap.size 5 1 (.slice (some ⟨g, 0, none⟩) k cp) k (ys.map (Value.int .u8))) := HO.out.1.kept hg1 (.inr (fun e => hgc (by simpa [Value.ownBlock] using e)))
      have HY : Hid (∀ x ∈ ys, 0 ≤ x ∧ x ≤ 255) := HO.out.2
      have HG1 : Hid (w.grownBy w1 (some c)) := gtrans HG.out hg1
      have HC1 : Hid (Cur w1 B c a len cap zs) := hc1
      have HN : Hid (∀ j u, [Value.int .u8 x][j]? = some u → (w1.alloc (.cells #[.int .u8 x] 5)).cell? ((⟨w1.heap.size, 0, none⟩ : Addr).add j) = some u) := one_new w1 x
      have hsz := HG1.out.size
      clear hc1 hg1 HO HC HG
      go_wp2_with (at_builtin; refine wpList_append_own _ rfl _ _ 22 rfl w.heap.size 5 i0 (.int .u8 0) 1 1 Try.underlying22 hi hz0 hz1 hz2 rfl (by decide) (.slice (some ⟨g, 0, none⟩) k cp) k _ rfl (HO1.out.alloc _) ⟨w1.heap.size, 0, none⟩ 1 1 [.int .u8 x] rfl rfl HN.out (ints_one [x]) (by unfold maxLen; omega) (by omega) (by simp; omega) ?_; intro v2 w2 hown2 hgrow2 hnil; refine Hid.out ?_)
      refine hidden ?_
      obtain ⟨g2, cp2, rfl, hg2⟩ := own_some5 hown2 (fun e => by have := (hnil.1 e).1; simp at this)
      have HO2 : Hid (w2.ownsRow w.heap.size 5 1 (.slice (some ⟨g2, 0, none⟩) (k + 1) cp2) (k + 1) ((ys ++ [x]).map (Value.int .u8)) ∧ (∀ z ∈ ys ++ [x], 0 ≤ z ∧ z ≤ 255)) := by
        refine ⟨by rw [List.map_append]; exact hown2, ?_⟩
        intro z hz
        rcases List.mem_append.1 hz with hz | hz
        · exact HY.out z hz
        · obtain rfl : z = x := by simpa using hz
          exact ⟨hx0, hx1⟩
      have hrow : ∀ j, (Value.slice (some ⟨g, 0, none⟩) k cp).ownBlock = some j → w.heap.size ≤ j ∧ j ≠ c := by
        intro j hj
        have : g = j := by simpa [Value.ownBlock] using hj
        omega
      have HG2 : Hid (w.grownBy w2 (some c)) := gown (gown HG1.out (World.grownBy_alloc w1 _ none) (by simp)) hgrow2 (fun j hj => (hrow j hj).1)
      have HC2 : Hid (Cur w2 B c a len cap zs) := (HC1.out.kept (World.grownBy_alloc w1 _ none) (by simp)).kept hgrow2 (fun j hj => ⟨by have := (hrow j hj).1; have := HB.out; omega, (hrow j hj).2⟩)
      clear hown2 hgrow2 hnil HO1 HC1 HG1 HN hrow
      go_wp2_with fail
      go_roundw
      case rel => exact ⟨k + 1, g2, cp2, ys ++ [x], by omega, by go_num, rfl, hg2, HO2, HC2, HG2⟩
      case measure => simp [intOf]; omega
    · have hkn : k = n := by omega
      subst hkn
      go_wp2_with fail
      go_ret
      exact ⟨g, cp, ys, rfl, hgw, ⟨HO.out.1, HO.out.2⟩, HC.out, HG.out⟩

theorem gnew {w W : World} {c : Option Nat} (h : w.grownBy W c) (o : Obj) : w.grownBy (W.alloc o) c := gown h (World.grownBy_alloc W o none) (by simp)
theorem gput {w W : World} {c : Option Nat} (h : w.grownBy W c) {b k : Nat} (hb : w.heap.size ≤ b) (v : Value) : w.grownBy (W.setCell ⟨b, k, none⟩ v) c := gown h (gset W b k v) (fun j e => by injection e with e; omega)
theorem Cur.put {w : World} {B c : Nat} {a : Option Addr} {len cap : Nat} {zs : List Int} (h : Cur w B c a len cap zs) {b k : Nat} (hb : c < b) (v : Value) : Cur (w.setCell ⟨b, k, none⟩ v) B c a len cap zs := h.kept (gset w b k v) (fun j e => by injection e with e; have := h.1; omega)
theorem Cur.new {w : World} {B c : Nat} {a : Option Addr} {len cap : Nat} {zs : List Int} (h : Cur w B c a len cap zs) (o : Obj) : Cur (w.alloc o) B c a len cap zs := h.kept (World.grownBy_alloc w o none) (by simp)


end Go.Proofs.Ytghakpcagacdaac

namespace Go.Proofs.Ytghakpcagacdaac
open Go.RowKit
set_option linter.unusedVariables false

theorem cell_of_strs {w : World} {g : Nat} {L : List ByteArray} (h : w.heap[g]? = some (.cells (L.map Value.string).toArray 9 (0, 0))) (k : Nat) (hk : k < L.length) : w.cell? ⟨g, k, none⟩ = some (.string (L[k]'hk)) := by
  rw [cell_of_row w g k _ 9 (0, 0) h]
  simp [hk]

set_option maxRecDepth 10000 in
set_option maxHeartbeats 400000 in
theorem l1Str_any (B c : Nat) (a : Option Addr) (len cap : Nat) (zs : List Int) (g n cp : Nat) (L : List ByteArray) (w : World) (hcur : Cur w B c a len cap zs) (hl : len ≤ 1099511627776)
    (hL : w.heap[g]? = some (.cells (L.map Value.string).toArray 9 (0, 0))) (hgc : g ≠ c) (hn : L.length = n) (h1 : 1 ≤ n) (h2 : n ≤ 256) :
    Calls Try.prog 75 #[.pointer (some ⟨c, 0, none⟩), .slice (some ⟨g, 0, none⟩) n cp] w fun e w' => ∃ v : ByteArray, e = .returned (.string v) ∧ v ∈ L ∧ Cur w' B c a len cap zs ∧ w.grownBy w' (some c) := by
  have HC : Hid _ := hcur
  have HL : Hid _ := hL
  have HN : Hid (L.length = n) := hn
  clear hcur hL hn
  have hi1 : (1 : Int) ≤ (n : Int) := by omega
  have hi2 : (n : Int) ≤ 1000000 := by omega
  have hglt : g < w.heap.size := by
    by_cases hk : g < w.heap.size
    · exact hk
    · have := HL.out; rw [Array.getElem?_eq_none (by omega)] at this; cases this
  go_enter Try.func75, Try.ntmps75
  go_wp2_with fail
  refine (l1Below_any B c a len cap zs _ _ HC.out hl hi1 hi2).mono ?_
  rintro e w1 ⟨x, rfl, hx0, hx1, hc1, hg1⟩
  obtain ⟨k, rfl⟩ := Int.eq_ofNat_of_zero_le hx0
  have HC1 : Hid _ := hc1
  have HG1 : Hid _ := hg1
  have hkl : k < L.length := by have := HN.out; omega
  obtain ⟨v, hv⟩ : ∃ v, L[k] = v := ⟨_, rfl⟩
  have hcell : w1.cell? ⟨g, k, none⟩ = some (.string v) := by
    rw [← hv]
    refine cell_of_strs ?_ k hkl
    rw [hg1.block g hglt (fun e => hgc (Option.some.inj e))]
    exact HL.out
  have HV : Hid (v ∈ L) := by
    show v ∈ L
    rw [← hv]
    exact List.getElem_mem hkl
  clear hc1 hg1 hv
  go_wp2_with fail
  go_ret
  exact ⟨v, rfl, HV.out, HC1.out, HG1.out⟩

end Go.Proofs.Ytghakpcagacdaac

namespace Go.Proofs.Ytghakpcagacdaac
open Go.RowKit
set_option linter.unusedVariables false

def nameStrs : List ByteArray := [⟨#[58, 109, 101, 116, 104, 111, 100]⟩, ⟨#[58, 112, 97, 116, 104]⟩, ⟨#[58, 115, 116, 97, 116, 117, 115]⟩, ⟨#[97, 103, 101]⟩, ⟨#[120, 45, 97]⟩, ⟨#[97, 117, 116, 104, 111, 114, 105, 122, 97, 116, 105, 111, 110]⟩, ⟨#[117, 112, 108, 111, 97, 100, 45, 111, 102, 102, 115, 101, 116]⟩, ⟨#[99, 111, 111, 107, 105, 101]⟩]
def valStrs : List ByteArray := [⟨#[71, 69, 84]⟩, ⟨#[47]⟩, ⟨#[50, 48, 48]⟩, ⟨#[]⟩, ⟨#[55]⟩, ⟨#[97, 32, 108, 111, 110, 103, 32, 118, 97, 108, 117, 101, 32, 111, 102, 32, 115, 111, 109, 101, 32, 98, 121, 116, 101, 115]⟩, ⟨#[80, 65, 84, 67, 72]⟩]

theorem nameStrs_size (v : ByteArray) (h : v ∈ nameStrs) : v.size ≤ 40 := by
  simp only [nameStrs, List.mem_cons, List.not_mem_nil, or_false] at h
  rcases h with rfl | rfl | rfl | rfl | rfl | rfl | rfl | rfl <;> decide
theorem valStrs_size (v : ByteArray) (h : v ∈ valStrs) : v.size ≤ 40 := by
  simp only [valStrs, List.mem_cons, List.not_mem_nil, or_false] at h
  rcases h with rfl | rfl | rfl | rfl | rfl | rfl | rfl <;> decide


set_option maxRecDepth 10000 in
set_option maxHeartbeats 800000 in
theorem l4Field_any (B c : Nat) (a : Option Addr) (len cap : Nat) (zs : List Int) (w : World) (hcur : Cur w B c a len cap zs) (hl : len ≤ 1099511627776) :
    Calls Try.prog 42 #[.pointer (some ⟨c, 0, none⟩)] w fun e w' => ∃ x y : ByteArray, e = .returned (.agg #[.string x, .string y]) ∧ x.size ≤ 40 ∧ y.size ≤ 40 ∧ Cur w' B c a len cap zs ∧ w.grownBy w' (some c) := by
  have hcl := hcur.lt
  obtain ⟨w1, hw1⟩ : ∃ w1, w.alloc (.cells #[.string ⟨#[]⟩, .string ⟨#[]⟩] 36) = w1 := ⟨_, rfl⟩
  have HQ1 : Hid (Box2 w1 w.heap.size 36 (.string ⟨#[]⟩) (.string ⟨#[]⟩)) := by show Box2 _ _ _ _ _; rw [← hw1]; exact Box2.new _ _ _ _
  have hs1 : w1.heap.size = w.heap.size + 1 := by rw [← hw1]; simp
  have HC1 : Hid (Cur w1 B c a len cap zs) := by rw [← hw1]; exact hcur.new _
  have HG1 : Hid (w.grownBy w1 (some c)) := by show World.grownBy _ _ _; rw [← hw1]; exact World.grownBy_alloc _ _ _
  clear hcur
  go_enter Try.func42, Try.ntmps42
  go_wp2_with fail
  refine (l1Str_any B c a len cap zs (w.heap.size + 1) 8 8 nameStrs _ (HC1.out.new _) hl (by rw [← hs1]; exact heap_alloc_new w1 _) (by omega) rfl (by omega) (by omega)).mono ?_
  rintro e w2 ⟨x, rfl, hx, hc2, hg2⟩
  have hx40 := nameStrs_size x hx
  have HC2 : Hid (Cur w2 B c a len cap zs) := hc2
  have HG2 : Hid (w.grownBy w2 (some c)) := gtrans (gnew HG1.out _) hg2
  have HQ2 : Hid (Box2 w2 w.heap.size 36 (.string ⟨#[]⟩) (.string ⟨#[]⟩)) := (HQ1.out.alloc _).grown hg2 (by intro e; injection e with e; omega)
  have hs2 : w.heap.size < w2.heap.size := HQ2.out.lt
  clear hx hc2 hg2 HC1 HG1 HQ1 hw1
  go_wp2_with fail
  refine (l1Str_any B c a len cap zs w2.heap.size 7 7 valStrs _ (HC2.out.new _) hl (heap_alloc_new w2 _) (by omega) rfl (by omega) (by omega)).mono ?_
  rintro e w3 ⟨y, rfl, hy, hc3, hg3⟩
  have hy40 := valStrs_size y hy
  have HC3 : Hid (Cur w3 B c a len cap zs) := hc3
  have HG3 : Hid (w.grownBy w3 (some c)) := gtrans (gnew HG2.out _) hg3
  have hq3 : Box2 w3 w.heap.size 36 (.string ⟨#[]⟩) (.string ⟨#[]⟩) := (HQ2.out.alloc _).grown hg3 (by intro e; injection e with e; omega)
  have HQ3 : Hid (Box2 ((w3.setCell ⟨w.heap.size, 0, none⟩ (.string x)).setCell ⟨w.heap.size, 1, none⟩ (.string y)) w.heap.size 36 (.string x) (.string y)) := two_set1 (two_set0 hq3 _) _
  obtain ⟨g0, g1, g2, g3⟩ := hq3.cells
  clear hy hc3 hg3 HC2 HG2 HQ2 hq3
  go_wp2_with fail
  obtain ⟨r0, r1, _, _⟩ := HQ3.out.cells
  refine bodyPost_ret (v := .agg #[.string x, .string y]) (by simp [results, Try.f42, go_sem, r0, r1]) rfl ?_
  exact ⟨x, y, rfl, hx40, hy40, (HC3.out.put hcl _).put hcl _, gput (gput HG3.out (Nat.le_refl _) _) (Nat.le_refl _) _⟩

end Go.Proofs.Ytghakpcagacdaac
