/- What the program's GetString answers. For lists of at most 2^40 bytes. The reader of a block: a text at its place. The program's FirstField. The program's FieldAt. The reader of a block: a name, a field that is told itself. -/
import Derived.Test.YtckpacifimpkgacGreatM03
import Derived.Test.YtckpacifimpkgacGreatM15
import Derived.Test.YtckpacifimpkgacGreatM15
import Derived.Test.YtckpacifimpkgacGreatM14
import Derived.Deep.RegionWith
import Derived.Test.YtckpacifimpkgacGreatM10
import Derived.Test.YtckpacifimpkgacGreatM07
import Derived.Test.YtckpacifimpkgacGreatM08
namespace Go.Proofs.YtckpacifimpkgacGreat
open Go.RowKit
set_option linter.unusedVariables false

theorem ret_str {s t : ByteArray} {c d : Int} {x y : Bool} (h : s = t) (k : c = d) (l : x = y) : Ending.returned (.tuple #[.string s, .int .i64 c, .bool x]) = .returned (.tuple #[.string t, .int .i64 d, .bool y]) := by rw [h, k, l]

theorem high_bit : ∀ x : Nat, x < 256 → (bits .and .u8 (x : Int) 128 != 0) = decide (128 ≤ x) := by decide +kernel

/-- A piece of a list. -/
theorem Seg.piece {w : World} {b off len : Nat} {zs : List Int} (h : Seg w (some ⟨b, off, none⟩) len zs) (k n : Nat) (hk : k + n ≤ len) : Seg w (some ⟨b, off + k, none⟩) n ((zs.drop k).take n) := by
  have h1 := h.drop k (by omega)
  obtain ⟨e1, e2, e3⟩ := h1
  have hz := h.1
  refine ⟨by rw [List.length_take, List.length_drop]; omega, fun x hx => e2 x (List.mem_of_mem_take hx), ?_⟩
  rcases e3 with e3 | ⟨b', o', e, hb, hc⟩
  · exact .inl (by omega)
  · cases e
    refine .inr ⟨b, off + k, rfl, hb, fun i hi => ?_⟩
    rw [hc i (by omega)]
    congr 2
    rw [List.getD_eq_getElem?_getD, List.getD_eq_getElem?_getD, List.getElem?_take_of_lt hi]

theorem Seg.empty {w : World} {a : Option Addr} : Seg w a 0 [] := ⟨rfl, by simp, .inl rfl⟩

/-- The bytes as a text. -/
theorem text_of (l : List Int) (h : ∀ x ∈ l, 0 ≤ x ∧ x ≤ 255) : ∃ u : List UInt8, asInts u = l := by
  refine ⟨l.map fun x => UInt8.ofNat x.toNat, ?_⟩
  simp only [asInts, List.map_map]
  conv => rhs; rw [← List.map_id l]
  refine List.map_congr_left fun x hx => ?_
  have := h x hx
  show ((UInt8.ofNat x.toNat).toNat : Int) = x
  rw [UInt8.toNat_ofNat']
  omega

theorem run_text_any {w : World} {a : Option Addr} {n cap : Nat} {u : List UInt8} (h : Seg w a n (asInts u)) : (convert 22 9 (.slice a n cap)).run Tryz.prog w = .ok (.string ⟨u.toArray⟩) w := by
  obtain rfl : u.length = n := by have := h.1; rwa [asInts_len] at this
  cases a with
  | none =>
    rcases h.2.2 with h0 | ⟨b, off, e, _⟩
    · obtain rfl : u = [] := List.eq_nil_of_length_eq_zero h0
      exact run_convert_bytes_nil (w := w) 22 5 Tryz.underlying22 Tryz.underlying5 0 cap 9 Tryz.underlying9
    · cases e
  | some ad =>
    refine run_convert_bytes_back w 22 9 5 ad cap u Tryz.underlying22 Tryz.underlying5 Tryz.underlying9 (fun j hj => ?_)
    rcases h.2.2 with h0 | ⟨b, off, e, _, _⟩
    · omega
    · injection e with e
      subst e
      exact cells_ints h j _ (by simp [asInts, hj])

set_option maxRecDepth 10000 in
set_option maxHeartbeats 1600000 in
theorem implGetS_any (b off len cap : Nat) (at_ : Int) (zs : List Int) (w : World) (hs : Seg w (some ⟨b, off, none⟩) len zs) (hcap : len ≤ cap) (hl : len ≤ 1099511627776) :
    Calls Tryz.prog 84 #[.slice (some ⟨b, off, none⟩) len cap, .int .i64 at_] w fun e w' => ∃ (t : ByteArray) (p : Int) (ok : Bool), e = .returned (.tuple #[.string t, .int .i64 p, .bool ok]) ∧ GetS zs at_ t p ok ∧ Below w.heap.size w w' := by
  have HS : Hid (Seg w (some ⟨b, off, none⟩) len zs) := hs
  have hzl : zs.length = len := hs.1
  clear hs
  go_enter Tryz.func84, Tryz.ntmps84
  go_wp2_with fail
  refine (implGpx_any b off len cap at_ 7 zs _ HS.out hcap hl).mono ?_
  rintro e w1 ⟨rfl, hb1⟩
  have HB1 : Hid (Below w.heap.size w w1) := hb1
  have HS1 : Hid (Seg w1 (some ⟨b, off, none⟩) len zs) := HS.out.below hb1
  clear hb1
  obtain ⟨⟨n, q, ok⟩, hg⟩ : ∃ x, getPfx zs at_ 7 = x := ⟨_, rfl⟩
  have HG : Hid (getPfx zs at_ 7 = (n, q, ok)) := hg
  rw [hg]
  clear hg
  dsimp only
  cases ok with
  | false =>
    go_wp2_with fail
    go_ret3
    refine ⟨⟨#[]⟩, 0, false, rfl, .inr ⟨rfl, rfl, rfl, ?_⟩, HB1.out⟩
    rintro s r ⟨n', q', h1, _⟩
    rw [HG.out] at h1
    simp at h1
  | true =>
    obtain ⟨hn0, hn1, ha0, haq, hql⟩ := getPfx_bound zs at_ 7 n q HS.out.2.1 HG.out
    obtain ⟨N, rfl⟩ := Int.eq_ofNat_of_zero_le hn0
    obtain ⟨Q, rfl⟩ := Int.eq_ofNat_of_zero_le (show 0 ≤ q by omega)
    obtain ⟨K, rfl⟩ := Int.eq_ofNat_of_zero_le ha0
    have hQl : Q ≤ len := by omega
    have hKl : K < len := by omega
    clear hn0 ha0 haq hql
    by_cases hbig : len < Q + N
    · have hd : decide ((len : Int) - (Q : Int) < (N : Int)) = true := by simp; omega
      have hdp : ((len : Int) - (Q : Int) < (N : Int)) = True := by simp; omega
      go_wp2_with fail
      go_ret3
      refine ⟨⟨#[]⟩, 0, false, rfl, .inr ⟨rfl, rfl, rfl, ?_⟩, HB1.out⟩
      rintro s r ⟨n', q', h1, h2, _⟩
      rw [HG.out] at h1
      injection h1 with e1 e2
      injection e2 with e2 _
      omega
    · have hd : decide ((len : Int) - (Q : Int) < (N : Int)) = false := by simp; omega
      have hdp : ((len : Int) - (Q : Int) < (N : Int)) = False := by simp; omega
      have hQN : Q + N ≤ len := by omega
      have hcell : w1.cell? ⟨b, off + K, none⟩ = some (.int .u8 (zs.getD K 0)) := by
        rcases HS1.out.2.2 with h | ⟨b', off', e, _, h⟩
        · omega
        · cases e
          exact h K hKl
      obtain ⟨hx0, hx1⟩ := HS1.out.range K
      obtain ⟨X, hX⟩ := Int.eq_ofNat_of_zero_le hx0
      have HX : Hid (zs.getD K 0 = (X : Int)) := hX
      rw [hX] at hcell hx1
      clear hx0 hX
      have hXb : X < 256 := by omega
      obtain ⟨u, hu⟩ := text_of ((zs.drop Q).take N) (fun x hx => HS1.out.2.1 x (List.mem_of_mem_drop (List.mem_of_mem_take hx)))
      have hul : u.length = N := by
        have := congrArg List.length hu
        rw [asInts_len, List.length_take, List.length_drop] at this
        omega
      obtain ⟨sa, hsa⟩ : ∃ sa : Option Addr, (if cap = Q then some ⟨b, off, none⟩ else some ⟨b, off + Q, none⟩) = sa := ⟨_, rfl⟩
      have HP : Hid (Seg w1 sa N ((zs.drop Q).take N)) := by
        rw [← hsa]
        by_cases hc : cap = Q
        · obtain rfl : N = 0 := by omega
          rw [if_pos hc]
          exact Seg.empty
        · rw [if_neg hc]
          exact HS1.out.piece Q N hQN
      have HU : Hid (asInts u = (zs.drop Q).take N) := hu
      have hconv : ∀ c : Nat, (convert 22 9 (.slice sa N c)).run Tryz.prog w1 = .ok (.string ⟨u.toArray⟩) w1 := fun c => run_text_any (by rw [hu]; exact HP.out)
      have hus : (⟨u.toArray⟩ : ByteArray).size = N := hul
      clear hu
      have hends : (Q : Int) + (N : Int) ≤ 1099511627776 := by omega
      have hcQ : (Q : Int) + (N : Int) ≤ (cap : Int) := by omega
      have hKi : (K : Int) < (len : Int) := by omega
      have hKeq : ∀ n q : Nat, getPfx zs (K : Int) 7 = ((n : Int), (q : Int), true) → n = N ∧ q = Q := by
        intro n' q' h1
        rw [HG.out] at h1
        injection h1 with e1 e2
        injection e2 with e2 _
        omega
      have HKeq : Hid (∀ n q : Nat, getPfx zs (K : Int) 7 = ((n : Int), (q : Int), true) → n = N ∧ q = Q) := hKeq
      clear hKeq
      by_cases hhi : 128 ≤ X
      · have hbit : (bits .and .u8 (X : Int) 128 != 0) = true := by rw [high_bit X hXb]; simpa using hhi
        have hpart : (cap = Q ∧ sa = some ⟨b, off, none⟩) ∨ (¬ cap = Q ∧ sa = some ⟨b, off + Q, none⟩) := by
          by_cases hc : cap = Q
          · rw [if_pos hc] at hsa
            exact .inl ⟨hc, hsa.symm⟩
          · rw [if_neg hc] at hsa
            exact .inr ⟨hc, hsa.symm⟩
        clear hsa
        rcases hpart with ⟨hc, rfl⟩ | ⟨hc, rfl⟩
        all_goals
          go_wp2_with fail
          refine (implUn_any _ N _ ((zs.drop Q).take N) _ HP.out (by omega)).mono ?_
          rintro e w2 ⟨hres, hb2⟩
          have HB2 : Hid (Below w.heap.size w w2) := HB1.out.trans (hb2.mono HB1.out.size)
          clear hb2 hconv hcell hc HP
          rcases hres with ⟨t, rfl, hf⟩ | ⟨rfl, hno⟩
          · have HF : Hid (HuffOf t.data.toList ((zs.drop Q).take N)) := hf
            clear hf
            by_cases hts : 4000 < t.size
            · have hd4 : decide ((4000 : Int) < (t.size : Int)) = true := by simp; omega
              have hd5 : ((4000 : Int) < (t.size : Int)) = True := by simp; omega
              go_wp2_with fail
              go_ret3
              refine ⟨⟨#[]⟩, 0, false, rfl, .inr ⟨rfl, rfl, rfl, ?_⟩, HB2.out⟩
              rintro s r ⟨n', q', h1, h2, h3, h4, h5⟩
              obtain ⟨rfl, rfl⟩ := HKeq.out _ _ h1
              rw [Int.toNat_natCast, HX.out] at h5
              rcases h5 with ⟨h5, _⟩ | ⟨_, h6⟩
              · omega
              · have := text_eq (h6.text HF.out)
                subst this
                omega
            · have hd4 : decide ((4000 : Int) < (t.size : Int)) = false := by simp; omega
              have hd5 : ((4000 : Int) < (t.size : Int)) = False := by simp; omega
              go_wp2_with fail
              go_ret3
              refine ⟨t, ((Q + N : Nat) : Int), true, ret_str rfl (by simp) rfl, .inl ⟨rfl, N, Q, HG.out, by omega, rfl, by omega, ?_⟩, HB2.out⟩
              rw [Int.toNat_natCast, HX.out]
              exact .inr ⟨by omega, HF.out⟩
          · have HNo : Hid (∀ l, ¬ HuffOf l ((zs.drop Q).take N)) := hno
            clear hno
            go_wp2_with fail
            go_ret3
            refine ⟨⟨#[]⟩, 0, false, rfl, .inr ⟨rfl, rfl, rfl, ?_⟩, HB2.out⟩
            rintro s r ⟨n', q', h1, h2, h3, h4, h5⟩
            obtain ⟨rfl, rfl⟩ := HKeq.out _ _ h1
            rw [Int.toNat_natCast, HX.out] at h5
            rcases h5 with ⟨h5, _⟩ | ⟨_, h6⟩
            · omega
            · exact HNo.out _ h6
      · have hbit : (bits .and .u8 (X : Int) 128 != 0) = false := by rw [high_bit X hXb]; simpa using hhi
        have hpart : (cap = Q ∧ sa = some ⟨b, off, none⟩) ∨ (¬ cap = Q ∧ sa = some ⟨b, off + Q, none⟩) := by
          by_cases hc : cap = Q
          · rw [if_pos hc] at hsa
            exact .inl ⟨hc, hsa.symm⟩
          · rw [if_neg hc] at hsa
            exact .inr ⟨hc, hsa.symm⟩
        clear hsa
        by_cases hts : 4000 < N
        · have hd4 : decide ((4000 : Int) < (N : Int)) = true := by simp; omega
          have hd5 : ((4000 : Int) < (N : Int)) = True := by simp; omega
          have HUS : Hid ((⟨u.toArray⟩ : ByteArray).size = N) := hus
          rcases hpart with ⟨hc, rfl⟩ | ⟨hc, rfl⟩
          all_goals
            go_wp2_with fail
            go_ret3
            refine ⟨⟨#[]⟩, 0, false, rfl, .inr ⟨rfl, rfl, rfl, ?_⟩, HB1.out⟩
            rintro s r ⟨n', q', h1, h2, h3, h4, h5⟩
            obtain ⟨rfl, rfl⟩ := HKeq.out _ _ h1
            rw [Int.toNat_natCast, HX.out] at h5
            rcases h5 with ⟨_, h6⟩ | ⟨h5, _⟩
            · have e1 := congrArg List.length h6
              rw [asInts_len, str_len, List.length_take, List.length_drop] at e1
              omega
            · omega
        · have hd4 : decide ((4000 : Int) < (N : Int)) = false := by simp; omega
          have hd5 : ((4000 : Int) < (N : Int)) = False := by simp; omega
          rcases hpart with ⟨hc, rfl⟩ | ⟨hc, rfl⟩
          all_goals
            go_wp2_with fail
            go_ret3
            refine ⟨⟨u.toArray⟩, ((Q + N : Nat) : Int), true, ret_str rfl (by simp) rfl, .inl ⟨rfl, N, Q, HG.out, by omega, rfl, by omega, ?_⟩, HB1.out⟩
            rw [Int.toNat_natCast, HX.out]
            exact .inl ⟨by omega, HU.out⟩

end Go.Proofs.YtckpacifimpkgacGreat

namespace Go.Proofs.YtckpacifimpkgacGreat
open Go.RowKit
set_option linter.unusedVariables false

/-- A reader: its bytes, its place, how much may be told, its table, its fields. -/
def Rd (W : World) (r : Nat) (b : Value) (i most m : Int) (tv fv : Value) : Prop := W.heap[r]? = some (.cells #[b, .int .i64 i, .int .i64 most, .int .i64 m, tv, fv] 47 (0, 0))

theorem Rd.lt {W : World} {r : Nat} {b : Value} {i most m : Int} {tv fv : Value} (h : Rd W r b i most m tv fv) : r < W.heap.size := (Array.getElem?_eq_some_iff.1 h).1

theorem Rd.stays {W W' : World} {r : Nat} {b : Value} {i most m : Int} {tv fv : Value} (h : Rd W r b i most m tv fv) (hb : Below W.heap.size W W') : Rd W' r b i most m tv fv := (hb.block r h.lt).trans h

theorem Rd.cells {W : World} {r : Nat} {b : Value} {i most m : Int} {tv fv : Value} (h : Rd W r b i most m tv fv) :
    W.cell? ⟨r, 0, none⟩ = some b ∧ W.cell? ⟨r, 1, none⟩ = some (.int .i64 i) ∧ W.cell? ⟨r, 2, none⟩ = some (.int .i64 most) ∧ W.cell? ⟨r, 3, none⟩ = some (.int .i64 m) ∧ W.cell? ⟨r, 4, none⟩ = some tv ∧ W.cell? ⟨r, 5, none⟩ = some fv ∧ ∀ k, k < 6 → W.frozen? ⟨r, k, none⟩ = false := by
  unfold Rd at h
  refine ⟨?_, ?_, ?_, ?_, ?_, ?_, ?_⟩
  · simp [World.cell?, h]
  · simp [World.cell?, h]
  · simp [World.cell?, h]
  · simp [World.cell?, h]
  · simp [World.cell?, h]
  · simp [World.cell?, h]
  · intro k _
    simp [World.frozen?, h]

theorem Rd.setAt {W : World} {r : Nat} {b : Value} {i most m : Int} {tv fv : Value} (h : Rd W r b i most m tv fv) (j : Int) : Rd (W.setCell ⟨r, 1, none⟩ (.int .i64 j)) r b j most m tv fv := by
  unfold Rd at h ⊢
  rw [setCell_eq_setRow W r 1 _ _ (0, 0) _ h, setRow_heap W r _ _ _ (0, 0) h]
  rfl

theorem grew_below {a b : World} {r : Option Nat} (h : Below a.heap.size a b) : a.grownBy b r := ⟨h.os, h.tape, h.output, h.size, fun k hk _ => h.block k hk⟩

theorem grew_set {a b : World} {r k : Nat} {v : Value} (h : a.grownBy b (some r)) : a.grownBy (b.setCell ⟨r, k, none⟩ v) (some r) :=
  ⟨h.os, h.tape, h.output, by have := h.size; simpa using this, fun j hj hne => (set_block_other b j r k v (fun e => hne (by rw [e]))).trans (h.block j hj hne)⟩

theorem ret_si {s t : ByteArray} {c d : Int} (h : s = t) (k : c = d) : Ending.returned (.tuple #[.string s, .int .i64 c]) = .returned (.tuple #[.string t, .int .i64 d]) := by rw [h, k]

set_option maxRecDepth 10000 in
set_option maxHeartbeats 1600000 in
theorem rdText_any (r bb off len cap : Nat) (i most m : Int) (tv fv : Value) (zs : List Int) (w : World) (hr : Rd w r (.slice (some ⟨bb, off, none⟩) len cap) i most m tv fv) (hs : Seg w (some ⟨bb, off, none⟩) len zs) (hcap : len ≤ cap) (hl : len ≤ 1099511627776) :
    Calls Tryz.prog 63 #[.pointer (some ⟨r, 0, none⟩)] w fun e w' => ∃ (t : ByteArray) (p : Int) (ok : Bool), GetS zs i t p ok ∧ e = .returned (.tuple #[.string t, .int .i64 (if ok then 0 else 1)]) ∧ Rd w' r (.slice (some ⟨bb, off, none⟩) len cap) (if ok then p else i) most m tv fv ∧ w.grownBy w' (some r) := by
  have HR : Hid (Rd w r (.slice (some ⟨bb, off, none⟩) len cap) i most m tv fv) := hr
  have HS : Hid (Seg w (some ⟨bb, off, none⟩) len zs) := hs
  clear hr hs
  obtain ⟨c0, c1, _, _, _, _, _⟩ := HR.out.cells
  go_enter Tryz.func63, Tryz.ntmps63
  go_wp2_with fail
  go_region_with (first
    | (go_at_call 84; refine (implGetS_any bb off len cap i zs _ (HS.out.below (Below.refl _ _).drew) hcap hl).mono ?_; rintro e y1 ⟨t, p, ok, rfl, hget, hb1⟩))
  all_goals
    have hb1' : Below w.heap.size w y1 := (Below.refl w.heap.size w).drew.trans (hb1.mono (Nat.le_refl _))
    have HB : Hid (Below w.heap.size w y1) := hb1'
    have HG : Hid (GetS zs i t p ok) := hget
    clear hb1 hb1' hget
    cases ok with
    | false =>
      go_wp2_with fail
      go_ret2
      have ht : t = ⟨#[]⟩ := by
        rcases HG.out with ⟨h, _⟩ | ⟨_, h, _⟩
        · cases h
        · exact h
      exact ⟨t, p, false, HG.out, ret_si ht.symm rfl, HR.out.stays HB.out, grew_below HB.out⟩
    | true =>
      obtain ⟨d0, d1, _, _, _, _, d6⟩ := (HR.out.stays HB.out).cells
      have d7 := d6 1 (by omega)
      clear d6
      go_wp2_with fail
      go_ret2
      exact ⟨t, p, true, HG.out, ret_si rfl rfl, (HR.out.stays HB.out).setAt p, grew_set (grew_below HB.out)⟩

end Go.Proofs.YtckpacifimpkgacGreat

namespace Go.Proofs.YtckpacifimpkgacGreat
open Go.RowKit
set_option linter.unusedVariables false

theorem index_fld (A : Array Value) (j : Nat) (hj : j < 61) (x y : ByteArray) (h0 : A[j * 2]? = some (.string x)) (h1 : A[j * 2 + 1]? = some (.string y)) (hs : A.size = 122) (w : World) : (Instr.index 111 (.agg A) (.int .i64 (j : Int))).run Tryz.prog w = .ok (.agg #[.string x, .string y]) w := by
  have hin : (0 : Int) ≤ (j : Int) ∧ (j : Int) < ((61 : Nat) : Int) := by omega
  have hz : (sizeOf 43).run Tryz.prog w = .ok 2 w := by simp [go_sem]
  have ha : (isAgg 43).run Tryz.prog w = .ok true w := by simp [go_sem]
  have hx : A.extract (j * 2) (j * 2 + 2) = #[.string x, .string y] := by
    apply Array.ext_getElem?
    intro i
    rw [Array.getElem?_extract]
    rcases i with _ | _ | i
    · simp [h0, hs]; omega
    · simp [h1, hs]; omega
    · simp; omega
  simp only [Instr.index, asIntOf, Sem.run_bind, Sem.run_pure, Result.andThen_ok, run_underlying Tryz.underlying111, hin, and_self, if_true, hz, part, ha, Int.toNat_natCast, hx]

set_option maxRecDepth 10000 in
set_option maxHeartbeats 800000 in
theorem implFF_any (i : Int) (w : World) : Calls Tryz.prog 61 #[.int .i64 i] w fun e w' => e = .returned (.tuple #[.agg #[.string (firstAns i).1.1, .string (firstAns i).1.2], .bool (firstAns i).2]) ∧ Below w.heap.size w w' := by
  by_cases h : 1 ≤ i ∧ i ≤ 61
  · obtain ⟨k, hk⟩ : ∃ k : Nat, i = (k : Int) + 1 := ⟨(i - 1).toNat, by omega⟩
    have hk61 : k < firstL.length := by rw [firstL_len]; omega
    have e : firstAns i = ((firstL[k]'hk61), true) := by
      rw [firstAns, if_pos h, show (i - 1).toNat = k by omega, List.getD_eq_getElem?_getD, List.getElem?_eq_getElem hk61]
      rfl
    rw [e]
    subst hk
    clear e
    obtain ⟨h1, h2⟩ := h
    have hc := fieldCells_at firstL k hk61
    rw [Nat.mul_comm 2 k] at hc
    obtain ⟨x, hx⟩ : ∃ x, (firstL[k]'hk61).1 = x := ⟨_, rfl⟩
    obtain ⟨y, hy⟩ : ∃ y, (firstL[k]'hk61).2 = y := ⟨_, rfl⟩
    rw [hx, hy] at hc ⊢
    obtain ⟨FC, hFC⟩ : ∃ FC, (fieldCells firstL).toArray = FC := ⟨_, rfl⟩
    have hidx := index_fld FC k (by rw [firstL_len] at hk61; exact hk61) x y (by rw [← hFC]; simpa using hc.1) (by rw [← hFC]; simpa using hc.2) (by rw [← hFC]; exact firstCells_len)
    have HF : Hid (∀ w : World, Calls Tryz.prog 71 #[] w fun e w' => e = .returned (.agg FC) ∧ w' = w.alloc (.cells FC 111)) := by rw [← hFC]; exact implFirst_any
    clear hx hy hc hFC
    go_enter Tryz.func61, Tryz.ntmps61
    go_wp2_with fail
    refine (HF.out _).mono ?_
    rintro e w2 ⟨rfl, rfl⟩
    go_wp2_with fail
    refine bodyPost_ret (v := .tuple #[.agg #[.string x, .string y], .bool true]) (by simp [results, Tryz.f61, go_sem]) rfl ?_
    exact ⟨rfl, ((Below.refl _ _).alloc (Nat.le_refl _) _).alloc (by simp) _⟩
  · have e : firstAns i = ((⟨#[]⟩, ⟨#[]⟩), false) := by rw [firstAns, if_neg h]
    rw [e]
    have HF : Hid (i < 1 ∨ 61 < i) := by show _ ∨ _; omega
    clear h e
    go_enter Tryz.func61, Tryz.ntmps61
    by_cases h1 : i < 1
    · go_wp2_with fail
      refine bodyPost_ret (v := .tuple #[.agg #[.string ⟨#[]⟩, .string ⟨#[]⟩], .bool false]) (by simp [results, Tryz.f61, go_sem]) rfl ?_
      exact ⟨rfl, (Below.refl _ _).alloc (Nat.le_refl _) _⟩
    · have h2 : 61 < i := by have := HF.out; omega
      go_wp2_with fail
      refine bodyPost_ret (v := .tuple #[.agg #[.string ⟨#[]⟩, .string ⟨#[]⟩], .bool false]) (by simp [results, Tryz.f61, go_sem]) rfl ?_
      exact ⟨rfl, (Below.refl _ _).alloc (Nat.le_refl _) _⟩

end Go.Proofs.YtckpacifimpkgacGreat

namespace Go.Proofs.YtckpacifimpkgacGreat
open Go.RowKit
set_option linter.unusedVariables false

set_option maxRecDepth 10000 in
set_option maxHeartbeats 1600000 in
theorem implAt_any (m i : Int) (a : Option Addr) (len ca : Nat) (xs : List Fld) (w : World) (hx : Flds w a len xs) (hl : len ≤ 2097152) (hi2 : i ≤ 9223372036854775807) :
    Calls Tryz.prog 41 #[.agg #[.int .i64 m, .slice a len ca], .int .i64 i] w fun e w' => e = .returned (.tuple #[.agg #[.string (atAns xs i).1.1, .string (atAns xs i).1.2], .bool (atAns xs i).2]) ∧ Below w.heap.size w w' := by
  have HX : Hid (Flds w a len xs) := hx
  have hlen := hx.1
  clear hx
  obtain ⟨w2, hw2⟩ : ∃ w2, (w.alloc (.cells #[.int .i64 m, .slice a len ca] 26)).alloc (.cells #[.string ⟨#[]⟩, .string ⟨#[]⟩] 43) = w2 := ⟨_, rfl⟩
  have hq1 : w2.heap[w.heap.size]? = some (.cells #[.int .i64 m, .slice a len ca] 26 (0, 0)) := by
    rw [← hw2]
    have h1 := heap_alloc_new w (.cells #[.int .i64 m, .slice a len ca] 26)
    have hlt : w.heap.size < (w.alloc (.cells #[.int .i64 m, .slice a len ca] 26)).heap.size := by simp
    exact (((Below.refl _ _).alloc (Nat.le_refl _) (.cells #[.string ⟨#[]⟩, .string ⟨#[]⟩] 43)).block _ hlt).trans h1
  have hq2 : w2.heap[w.heap.size + 1]? = some (.cells #[.string ⟨#[]⟩, .string ⟨#[]⟩] 43 (0, 0)) := by
    rw [← hw2]
    have h1 := heap_alloc_new (w.alloc (.cells #[.int .i64 m, .slice a len ca] 26)) (.cells #[.string ⟨#[]⟩, .string ⟨#[]⟩] 43)
    rw [World.size_alloc] at h1
    exact h1
  have HB2 : Hid (Below w.heap.size w w2) := by show Below _ _ _; rw [← hw2]; exact ((Below.refl _ _).alloc (Nat.le_refl _) _).alloc (by simp) _
  have HW2 : Hid (w2.heap.size = w.heap.size + 2) := by show _ = _; rw [← hw2]; simp
  have HQ2 : Hid (w2.heap[w.heap.size + 1]? = some (.cells #[.string ⟨#[]⟩, .string ⟨#[]⟩] 43 (0, 0))) := hq2
  obtain ⟨c0, c1, _, _⟩ := two_cells hq1
  obtain ⟨g0, g1, g2, g3⟩ := two_cells hq2
  clear hq1 hq2
  by_cases h61 : i ≤ 61
  · have e : atAns xs i = firstAns i := by rw [atAns, if_pos h61]
    rw [e]
    generalize hF : firstAns i = F
    have HF : Hid (firstAns i = F) := hF
    clear e hF
    go_enter Tryz.func41, Tryz.ntmps41
    go_wp2_with fail
    refine (implFF_any i w2).mono ?_
    rintro e w3 ⟨rfl, hb3⟩
    rw [HF.out]
    obtain ⟨k0, k1, k2, k3⟩ := two_cells ((hb3.block _ (by have := HW2.out; omega)).trans HQ2.out)
    have HB3 : Hid (Below w.heap.size w w3) := HB2.out.trans (hb3.mono HB2.out.size)
    clear hb3 g0 g1 g2 g3 c0 c1
    go_wp2_with fail
    refine bodyPost_ret (v := .tuple #[.agg #[.string F.1.1, .string F.1.2], .bool F.2]) (by simp [results, Tryz.f41, go_sem, k0, k1]) rfl ?_
    exact ⟨rfl, (HB3.out.setCell (p := ⟨w.heap.size + 1, 0, none⟩) (by simp) _).setCell (p := ⟨w.heap.size + 1, 1, none⟩) (by simp) _⟩
  · obtain ⟨k, rfl⟩ : ∃ k : Nat, i = (k : Int) + 62 := ⟨(i - 62).toNat, by omega⟩
    have hk62 : ((k : Int) + 62 - 62).toNat = k := by omega
    by_cases hk : k < len
    · obtain ⟨b, off, x, y, rfl, hb, hfx, hc0, hc1⟩ := (HX.out.below HB2.out).at hk
      have e : atAns xs ((k : Int) + 62) = ((x, y), true) := by
        rw [atAns, if_neg h61, hk62, if_pos (by omega), List.getD_eq_getElem?_getD, hfx]
        rfl
      rw [e]
      clear e hfx
      have hki : (k : Int) < (len : Int) := by omega
      have hkb : (k : Int) ≤ 2097152 := by omega
      clear hi2 h61 hk62
      go_enter Tryz.func41, Tryz.ntmps41
      go_wp2_with fail
      refine bodyPost_ret (v := .tuple #[.agg #[.string x, .string y], .bool true]) (by simp [results, Tryz.f41, go_sem, g0, g1]) rfl ?_
      exact ⟨rfl, (HB2.out.setCell (p := ⟨w.heap.size + 1, 0, none⟩) (by simp) _).setCell (p := ⟨w.heap.size + 1, 1, none⟩) (by simp) _⟩
    · have e : atAns xs ((k : Int) + 62) = (fnil, false) := by
        rw [atAns, if_neg h61, hk62, if_neg (by omega)]
      rw [e]
      clear e
      have hki : (len : Int) ≤ (k : Int) := by omega
      have hw : wrap64 (wrap64 ((k : Int) + 62 - 61) - 1) = (k : Int) := by unfold wrap64; omega
      have hd : decide ((k : Int) + 62 ≤ 61) = false := by simp; omega
      have hd2 : decide ((len : Int) ≤ (k : Int)) = true := by simp; omega
      clear hi2 h61 hk hk62
      go_enter Tryz.func41, Tryz.ntmps41
      go_wp2_with fail
      refine bodyPost_ret (v := .tuple #[.agg #[.string ⟨#[]⟩, .string ⟨#[]⟩], .bool false]) (by simp [results, Tryz.f41, go_sem, g0, g1]) rfl ?_
      exact ⟨rfl, (HB2.out.setCell (p := ⟨w.heap.size + 1, 0, none⟩) (by simp) _).setCell (p := ⟨w.heap.size + 1, 1, none⟩) (by simp) _⟩

end Go.Proofs.YtckpacifimpkgacGreat

namespace Go.Proofs.YtckpacifimpkgacGreat
open Go.RowKit
set_option linter.unusedVariables false

/-- What is read as a name: of its number, or as a text at place i; the place behind, a code. -/
def NameAns (zs : List Int) (i : Int) (xs : List Fld) (n : Int) (t : ByteArray) (j code : Int) : Prop :=
  (n = 0 ∧ ∃ (p : Int) (ok : Bool), GetS zs i t p ok ∧ code = (if ok then 0 else 1) ∧ j = (if ok then p else i)) ∨
  (n ≠ 0 ∧ j = i ∧ (((atAns xs n).2 = true ∧ t = (atAns xs n).1.1 ∧ code = 0) ∨ ((atAns xs n).2 = false ∧ t = ⟨#[]⟩ ∧ code = 2)))

set_option maxRecDepth 10000 in
set_option maxHeartbeats 1600000 in
theorem rdName_any (r bb off len cap : Nat) (i most m : Int) (ta : Option Addr) (tl tc : Nat) (xs : List Fld) (fv : Value) (zs : List Int) (n : Int) (w : World) (hr : Rd w r (.slice (some ⟨bb, off, none⟩) len cap) i most m (.slice ta tl tc) fv) (hs : Seg w (some ⟨bb, off, none⟩) len zs) (hx : Flds w ta tl xs) (hcap : len ≤ cap) (hl : len ≤ 1099511627776) (htl : tl ≤ 2097152) (hn : n ≤ 9223372036854775807) :
    Calls Tryz.prog 62 #[.pointer (some ⟨r, 0, none⟩), .int .i64 n] w fun e w' => ∃ (t : ByteArray) (j code : Int), NameAns zs i xs n t j code ∧ e = .returned (.tuple #[.string t, .int .i64 code]) ∧ Rd w' r (.slice (some ⟨bb, off, none⟩) len cap) j most m (.slice ta tl tc) fv ∧ w.grownBy w' (some r) := by
  have HR : Hid (Rd w r (.slice (some ⟨bb, off, none⟩) len cap) i most m (.slice ta tl tc) fv) := hr
  have HS : Hid (Seg w (some ⟨bb, off, none⟩) len zs) := hs
  have HX : Hid (Flds w ta tl xs) := hx
  clear hr hs hx
  by_cases h0 : n = 0
  · subst h0
    go_enter Tryz.func62, Tryz.ntmps62
    go_wp2_with fail
    refine (rdText_any r bb off len cap i most m _ fv zs _ HR.out HS.out hcap hl).mono ?_
    rintro e w1 ⟨t, p, ok, hg, rfl, hr1, hg1⟩
    obtain ⟨code, hc⟩ : ∃ code : Int, (if ok = true then (0 : Int) else 1) = code := ⟨_, rfl⟩
    have HA : Hid (NameAns zs i xs 0 t (if ok then p else i) code) := .inl ⟨rfl, p, ok, hg, hc.symm, rfl⟩
    have HR1 : Hid _ := hr1
    have HG1 : Hid (w.grownBy w1 (some r)) := hg1
    rw [hc]
    clear hc hg hr1 hg1
    go_wp2_with fail
    go_ret2
    exact ⟨t, _, code, HA.out, rfl, HR1.out, HG1.out⟩
  · have h0' : (n == 0) = false := by simp; omega
    obtain ⟨_, _, _, c3, c4, _, _⟩ := HR.out.cells
    have HAt : Hid (Calls Tryz.prog 41 #[.agg #[.int .i64 m, .slice ta tl tc], .int .i64 n] w fun e w' => e = .returned (.tuple #[.agg #[.string (atAns xs n).1.1, .string (atAns xs n).1.2], .bool (atAns xs n).2]) ∧ Below w.heap.size w w') := implAt_any m n ta tl tc xs w HX.out htl hn
    have HNe : Hid (∀ t j code, j = i → (((atAns xs n).2 = true ∧ t = (atAns xs n).1.1 ∧ code = 0) ∨ ((atAns xs n).2 = false ∧ t = ⟨#[]⟩ ∧ code = 2)) → NameAns zs i xs n t j code) := fun t j code h1 h2 => .inr ⟨h0, h1, h2⟩
    generalize atAns xs n = A at *
    obtain ⟨⟨x, y⟩, ok⟩ := A
    dsimp only at HAt HNe
    go_enter Tryz.func62, Tryz.ntmps62
    go_wp2_with fail
    refine HAt.out.mono ?_
    rintro e w1 ⟨rfl, hb1⟩
    obtain ⟨w2, hw2⟩ : ∃ w2, w1.alloc (.cells #[.string x, .string y] 43) = w2 := ⟨_, rfl⟩
    have hb2 : Below w.heap.size w w2 := by rw [← hw2]; exact hb1.alloc hb1.size _
    have q2 : Box2 w2 w1.heap.size 43 (.string x) (.string y) := by rw [← hw2]; exact Box2.new _ _ _ _
    have HR2 : Hid _ := HR.out.stays hb2
    have HG2 : Hid (w.grownBy w2 (some r)) := grew_below hb2
    obtain ⟨d0, d1, _, _⟩ := q2.cells
    clear hb1 hb2 q2 c3 c4 HAt
    cases ok with
    | false =>
      go_wp2_with fail
      go_ret2
      exact ⟨⟨#[]⟩, i, 2, HNe.out _ _ _ rfl (by first | exact .inr ⟨rfl, rfl, rfl⟩ | simp), rfl, HR2.out, HG2.out⟩
    | true =>
      go_wp2_with fail
      go_ret2
      exact ⟨x, i, 0, HNe.out _ _ _ rfl (by first | exact .inl ⟨rfl, rfl, rfl⟩ | simp), rfl, HR2.out, HG2.out⟩

end Go.Proofs.YtckpacifimpkgacGreat
