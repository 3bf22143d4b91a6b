/- What the program's GetString answers. For lists of at most 2^40 bytes. -/
import Derived.Test.YtljhplddgcmmoabStrNums
import Derived.Test.YtljhplddgcmmoabGpxImpl
import Derived.Test.YtljhplddgcmmoabHimUn
namespace Go.Proofs.Ytljhplddgcmmoab
open Go.RowKit
set_option linter.unusedVariables false

theorem ret_str {s t : ByteArray} {c d : Int} {x y : Bool} (h : s = t) (k : c = d) (l : x = y) : Ending.returned (.tuple #[.string s, .int .i64 c, .bool x]) = .returned (.tuple #[.string t, .int .i64 d, .bool y]) := by rw [h, k, l]

theorem high_bit : ∀ x : Nat, x < 256 → (bits .and .u8 (x : Int) 128 != 0) = decide (128 ≤ x) := by decide +kernel

/-- A piece of a list. -/
theorem Seg.piece {w : World} {b off len : Nat} {zs : List Int} (h : Seg w (some ⟨b, off, none⟩) len zs) (k n : Nat) (hk : k + n ≤ len) : Seg w (some ⟨b, off + k, none⟩) n ((zs.drop k).take n) := by
  have h1 := h.drop k (by omega)
  obtain ⟨e1, e2, e3⟩ := h1
  have hz := h.1
  refine ⟨by rw [List.length_take, List.length_drop]; omega, fun x hx => e2 x (List.mem_of_mem_take hx), ?_⟩
  rcases e3 with e3 | ⟨b', o', e, hb, hc⟩
  · exact .inl (by omega)
  · cases e
    refine .inr ⟨b, off + k, rfl, hb, fun i hi => ?_⟩
    rw [hc i (by omega)]
    congr 2
    rw [List.getD_eq_getElem?_getD, List.getD_eq_getElem?_getD, List.getElem?_take_of_lt hi]

theorem Seg.empty {w : World} {a : Option Addr} : Seg w a 0 [] := ⟨rfl, by simp, .inl rfl⟩

/-- The bytes as a text. -/
theorem text_of (l : List Int) (h : ∀ x ∈ l, 0 ≤ x ∧ x ≤ 255) : ∃ u : List UInt8, asInts u = l := by
  refine ⟨l.map fun x => UInt8.ofNat x.toNat, ?_⟩
  simp only [asInts, List.map_map]
  conv => rhs; rw [← List.map_id l]
  refine List.map_congr_left fun x hx => ?_
  have := h x hx
  show ((UInt8.ofNat x.toNat).toNat : Int) = x
  rw [UInt8.toNat_ofNat']
  omega

theorem run_text_any {w : World} {a : Option Addr} {n cap : Nat} {u : List UInt8} (h : Seg w a n (asInts u)) : (convert 22 9 (.slice a n cap)).run Try.prog w = .ok (.string ⟨u.toArray⟩) w := by
  obtain rfl : u.length = n := by have := h.1; rwa [asInts_len] at this
  cases a with
  | none =>
    rcases h.2.2 with h0 | ⟨b, off, e, _⟩
    · obtain rfl : u = [] := List.eq_nil_of_length_eq_zero h0
      exact run_convert_bytes_nil (w := w) 22 5 Try.underlying22 Try.underlying5 0 cap 9 Try.underlying9
    · cases e
  | some ad =>
    refine run_convert_bytes_back w 22 9 5 ad cap u Try.underlying22 Try.underlying5 Try.underlying9 (fun j hj => ?_)
    rcases h.2.2 with h0 | ⟨b, off, e, _, _⟩
    · omega
    · injection e with e
      subst e
      exact cells_ints h j _ (by simp [asInts, hj])

set_option maxRecDepth 10000 in
set_option maxHeartbeats 1600000 in
theorem implGetS_any (b off len cap : Nat) (at_ : Int) (zs : List Int) (w : World) (hs : Seg w (some ⟨b, off, none⟩) len zs) (hcap : len ≤ cap) (hl : len ≤ 1099511627776) :
    Calls Try.prog 34 #[.slice (some ⟨b, off, none⟩) len cap, .int .i64 at_] w fun e w' => ∃ (t : ByteArray) (p : Int) (ok : Bool), e = .returned (.tuple #[.string t, .int .i64 p, .bool ok]) ∧ GetS zs at_ t p ok ∧ Below w.heap.size w w' := by
  have HS : Hid (Seg w (some ⟨b, off, none⟩) len zs) := hs
  have hzl : zs.length = len := hs.1
  clear hs
  go_enter Try.func34, Try.ntmps34
  go_wp2_with fail
  refine (implGpx_any b off len cap at_ 7 zs _ HS.out hcap hl).mono ?_
  rintro e w1 ⟨rfl, hb1⟩
  have HB1 : Hid (Below w.heap.size w w1) := hb1
  have HS1 : Hid (Seg w1 (some ⟨b, off, none⟩) len zs) := HS.out.below hb1
  clear hb1
  obtain ⟨⟨n, q, ok⟩, hg⟩ : ∃ x, getPfx zs at_ 7 = x := ⟨_, rfl⟩
  have HG : Hid (getPfx zs at_ 7 = (n, q, ok)) := hg
  rw [hg]
  clear hg
  dsimp only
  cases ok with
  | false =>
    go_wp2_with fail
    go_ret3
    refine ⟨⟨#[]⟩, 0, false, rfl, .inr ⟨rfl, rfl, rfl, ?_⟩, HB1.out⟩
    rintro s r ⟨n', q', h1, _⟩
    rw [HG.out] at h1
    simp at h1
  | true =>
    obtain ⟨hn0, hn1, ha0, haq, hql⟩ := getPfx_bound zs at_ 7 n q HS.out.2.1 HG.out
    obtain ⟨N, rfl⟩ := Int.eq_ofNat_of_zero_le hn0
    obtain ⟨Q, rfl⟩ := Int.eq_ofNat_of_zero_le (show 0 ≤ q by omega)
    obtain ⟨K, rfl⟩ := Int.eq_ofNat_of_zero_le ha0
    have hQl : Q ≤ len := by omega
    have hKl : K < len := by omega
    clear hn0 ha0 haq hql
    by_cases hbig : len < Q + N
    · have hd : decide ((len : Int) - (Q : Int) < (N : Int)) = true := by simp; omega
      have hdp : ((len : Int) - (Q : Int) < (N : Int)) = True := by simp; omega
      go_wp2_with fail
      go_ret3
      refine ⟨⟨#[]⟩, 0, false, rfl, .inr ⟨rfl, rfl, rfl, ?_⟩, HB1.out⟩
      rintro s r ⟨n', q', h1, h2, _⟩
      rw [HG.out] at h1
      injection h1 with e1 e2
      injection e2 with e2 _
      omega
    · have hd : decide ((len : Int) - (Q : Int) < (N : Int)) = false := by simp; omega
      have hdp : ((len : Int) - (Q : Int) < (N : Int)) = False := by simp; omega
      have hQN : Q + N ≤ len := by omega
      have hcell : w1.cell? ⟨b, off + K, none⟩ = some (.int .u8 (zs.getD K 0)) := by
        rcases HS1.out.2.2 with h | ⟨b', off', e, _, h⟩
        · omega
        · cases e
          exact h K hKl
      obtain ⟨hx0, hx1⟩ := HS1.out.range K
      obtain ⟨X, hX⟩ := Int.eq_ofNat_of_zero_le hx0
      have HX : Hid (zs.getD K 0 = (X : Int)) := hX
      rw [hX] at hcell hx1
      clear hx0 hX
      have hXb : X < 256 := by omega
      obtain ⟨u, hu⟩ := text_of ((zs.drop Q).take N) (fun x hx => HS1.out.2.1 x (List.mem_of_mem_drop (List.mem_of_mem_take hx)))
      have hul : u.length = N := by
        have := congrArg List.length hu
        rw [asInts_len, List.length_take, List.length_drop] at this
        omega
      obtain ⟨sa, hsa⟩ : ∃ sa : Option Addr, (if cap = Q then some ⟨b, off, none⟩ else some ⟨b, off + Q, none⟩) = sa := ⟨_, rfl⟩
      have HP : Hid (Seg w1 sa N ((zs.drop Q).take N)) := by
        rw [← hsa]
        by_cases hc : cap = Q
        · obtain rfl : N = 0 := by omega
          rw [if_pos hc]
          exact Seg.empty
        · rw [if_neg hc]
          exact HS1.out.piece Q N hQN
      have HU : Hid (asInts u = (zs.drop Q).take N) := hu
      have hconv : ∀ c : Nat, (convert 22 9 (.slice sa N c)).run Try.prog w1 = .ok (.string ⟨u.toArray⟩) w1 := fun c => run_text_any (by rw [hu]; exact HP.out)
      have hus : (⟨u.toArray⟩ : ByteArray).size = N := hul
      clear hu
      have hends : (Q : Int) + (N : Int) ≤ 1099511627776 := by omega
      have hcQ : (Q : Int) + (N : Int) ≤ (cap : Int) := by omega
      have hKi : (K : Int) < (len : Int) := by omega
      have hKeq : ∀ n q : Nat, getPfx zs (K : Int) 7 = ((n : Int), (q : Int), true) → n = N ∧ q = Q := by
        intro n' q' h1
        rw [HG.out] at h1
        injection h1 with e1 e2
        injection e2 with e2 _
        omega
      have HKeq : Hid (∀ n q : Nat, getPfx zs (K : Int) 7 = ((n : Int), (q : Int), true) → n = N ∧ q = Q) := hKeq
      clear hKeq
      by_cases hhi : 128 ≤ X
      · have hbit : (bits .and .u8 (X : Int) 128 != 0) = true := by rw [high_bit X hXb]; simpa using hhi
        have hpart : (cap = Q ∧ sa = some ⟨b, off, none⟩) ∨ (¬ cap = Q ∧ sa = some ⟨b, off + Q, none⟩) := by
          by_cases hc : cap = Q
          · rw [if_pos hc] at hsa
            exact .inl ⟨hc, hsa.symm⟩
          · rw [if_neg hc] at hsa
            exact .inr ⟨hc, hsa.symm⟩
        clear hsa
        rcases hpart with ⟨hc, rfl⟩ | ⟨hc, rfl⟩
        all_goals
          go_wp2_with fail
          refine (implUn_any _ N _ ((zs.drop Q).take N) _ HP.out (by omega)).mono ?_
          rintro e w2 ⟨hres, hb2⟩
          have HB2 : Hid (Below w.heap.size w w2) := HB1.out.trans (hb2.mono HB1.out.size)
          clear hb2 hconv hcell hc HP
          rcases hres with ⟨t, rfl, hf⟩ | ⟨rfl, hno⟩
          · have HF : Hid (HuffOf t.data.toList ((zs.drop Q).take N)) := hf
            clear hf
            by_cases hts : 4000 < t.size
            · have hd4 : decide ((4000 : Int) < (t.size : Int)) = true := by simp; omega
              have hd5 : ((4000 : Int) < (t.size : Int)) = True := by simp; omega
              go_wp2_with fail
              go_ret3
              refine ⟨⟨#[]⟩, 0, false, rfl, .inr ⟨rfl, rfl, rfl, ?_⟩, HB2.out⟩
              rintro s r ⟨n', q', h1, h2, h3, h4, h5⟩
              obtain ⟨rfl, rfl⟩ := HKeq.out _ _ h1
              rw [Int.toNat_natCast, HX.out] at h5
              rcases h5 with ⟨h5, _⟩ | ⟨_, h6⟩
              · omega
              · have := text_eq (h6.text HF.out)
                subst this
                omega
            · have hd4 : decide ((4000 : Int) < (t.size : Int)) = false := by simp; omega
              have hd5 : ((4000 : Int) < (t.size : Int)) = False := by simp; omega
              go_wp2_with fail
              go_ret3
              refine ⟨t, ((Q + N : Nat) : Int), true, ret_str rfl (by simp) rfl, .inl ⟨rfl, N, Q, HG.out, by omega, rfl, by omega, ?_⟩, HB2.out⟩
              rw [Int.toNat_natCast, HX.out]
              exact .inr ⟨by omega, HF.out⟩
          · have HNo : Hid (∀ l, ¬ HuffOf l ((zs.drop Q).take N)) := hno
            clear hno
            go_wp2_with fail
            go_ret3
            refine ⟨⟨#[]⟩, 0, false, rfl, .inr ⟨rfl, rfl, rfl, ?_⟩, HB2.out⟩
            rintro s r ⟨n', q', h1, h2, h3, h4, h5⟩
            obtain ⟨rfl, rfl⟩ := HKeq.out _ _ h1
            rw [Int.toNat_natCast, HX.out] at h5
            rcases h5 with ⟨h5, _⟩ | ⟨_, h6⟩
            · omega
            · exact HNo.out _ h6
      · have hbit : (bits .and .u8 (X : Int) 128 != 0) = false := by rw [high_bit X hXb]; simpa using hhi
        have hpart : (cap = Q ∧ sa = some ⟨b, off, none⟩) ∨ (¬ cap = Q ∧ sa = some ⟨b, off + Q, none⟩) := by
          by_cases hc : cap = Q
          · rw [if_pos hc] at hsa
            exact .inl ⟨hc, hsa.symm⟩
          · rw [if_neg hc] at hsa
            exact .inr ⟨hc, hsa.symm⟩
        clear hsa
        by_cases hts : 4000 < N
        · have hd4 : decide ((4000 : Int) < (N : Int)) = true := by simp; omega
          have hd5 : ((4000 : Int) < (N : Int)) = True := by simp; omega
          have HUS : Hid ((⟨u.toArray⟩ : ByteArray).size = N) := hus
          rcases hpart with ⟨hc, rfl⟩ | ⟨hc, rfl⟩
          all_goals
            go_wp2_with fail
            go_ret3
            refine ⟨⟨#[]⟩, 0, false, rfl, .inr ⟨rfl, rfl, rfl, ?_⟩, HB1.out⟩
            rintro s r ⟨n', q', h1, h2, h3, h4, h5⟩
            obtain ⟨rfl, rfl⟩ := HKeq.out _ _ h1
            rw [Int.toNat_natCast, HX.out] at h5
            rcases h5 with ⟨_, h6⟩ | ⟨h5, _⟩
            · have e1 := congrArg List.length h6
              rw [asInts_len, str_len, List.length_take, List.length_drop] at e1
              omega
            · omega
        · have hd4 : decide ((4000 : Int) < (N : Int)) = false := by simp; omega
          have hd5 : ((4000 : Int) < (N : Int)) = False := by simp; omega
          rcases hpart with ⟨hc, rfl⟩ | ⟨hc, rfl⟩
          all_goals
            go_wp2_with fail
            go_ret3
            refine ⟨⟨u.toArray⟩, ((Q + N : Nat) : Int), true, ret_str rfl (by simp) rfl, .inl ⟨rfl, N, Q, HG.out, by omega, rfl, by omega, ?_⟩, HB1.out⟩
            rw [Int.toNat_natCast, HX.out]
            exact .inl ⟨by omega, HU.out⟩

end Go.Proofs.Ytljhplddgcmmoab
