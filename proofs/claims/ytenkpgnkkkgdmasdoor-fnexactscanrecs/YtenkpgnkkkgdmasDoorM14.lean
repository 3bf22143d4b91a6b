/- A list of bytes as what is appended. No program in it. Rows of bytes that grow: an append as a step of a region that draws, PutBig onto a row of the call's own, a row as a text. The specification's PutBig onto bytes that are there, and where its row lies. What the specification's Crc answers: the sum of the bytes; nothing is written. For lists of at most 2^40 bytes. -/
import Derived.Test.YtenkpgnkkkgdmasDoorM01
import Derived.Test.YtenkpgnkkkgdmasDoorM03
import Derived.Test.YtenkpgnkkkgdmasDoorM13
import Derived.Test.YtenkpgnkkkgdmasDoorM02
import Derived.Deep.RegionLaw
import Derived.Laws.IdiomStrings
namespace Go.Proofs.YtenkpgnkkkgdmasDoor
open Go.RowKit
set_option linter.unusedVariables false

theorem ownBlock_of (a : Option Addr) (n cap : Nat) : (Value.slice a n cap).ownBlock = a.map (·.block) := by cases a <;> rfl

theorem seg_nil {w : World} {a : Option Addr} {len : Nat} {zs : List Int} (hs : Seg w a len zs) : a = none → len = 0 := by
  intro h
  rcases hs.2.2 with h0 | ⟨b, off, e, _⟩
  · exact h0
  · rw [h] at e; cases e

theorem seg_src {w : World} {a : Option Addr} {len : Nat} {zs : List Int} (hs : Seg w a len zs) : ∀ ad, a = some ad → ∀ j u, (zs.map (Value.int .u8))[j]? = some u → w.cell? (ad.add j) = some u := by
  intro ad ha j u hj
  have hl2 : j < zs.length := by
    by_cases h : j < zs.length
    · exact h
    · rw [List.getElem?_eq_none (by simp; omega)] at hj; cases hj
  rcases hs.2.2 with h | ⟨b, off, h, _⟩
  · have := hs.1; omega
  · rw [ha] at h
    injection h with h
    subst h
    subst ha
    exact cells_ints hs j u hj

end Go.Proofs.YtenkpgnkkkgdmasDoor

namespace Go.Proofs.YtenkpgnkkkgdmasDoor
open Go.RowKit
set_option linter.unusedVariables false

theorem step_append_app {P : Program} {ops : Array Oper} {o : Oper} {a : Act} {w : World} {K : Act → World → Prop} {Q : Exit → Act → World → Prop} {E : Prop} (hgd : o.guard = none) (s x : Operand) (t tx : TypeId)
    (ho : o.op = .call { callee := .builtin .append, args := #[s, x], argTypes := #[t, tx] })
    (base : Nat) (e : TypeId) (i : TypeInfo) (z : Value) (size bytes : Nat) (ht : P.underlying t = some (.slice e)) (hi : P.info? e = some i) (hz : i.zero = some z)
    (hsize : i.size = size) (hby : i.bytes = bytes) (hzs : z.cells.size = size) (hsz : 0 < size)
    (g n cap : Nat) (xs : List Value) (hs : a.eval s = .slice (some ⟨g, 0, none⟩) n cap) (hown : w.ownsRow base e size (.slice (some ⟨g, 0, none⟩) n cap) n xs)
    (u : Value) (m : Nat) (news : List Value) (hx : a.eval x = u) (hsrc : Src P size tx u m news w)
    (h63 : n + m ≤ maxLen) (hbytes : (n + m) * bytes ≤ 140737488355328) (hbase : base ≤ w.heap.size) (M : Nat) (hM : n + m = M) (hM0 : 0 < M) (ys : List Value) (hys : xs ++ news = ys)
    (h : ∀ g' c' w', w'.ownsRow base e size (.slice (some ⟨g', 0, none⟩) M c') M ys → w.grownBy w' (some g) → K (a.put o.dst (.slice (some ⟨g', 0, none⟩) M c')) w') :
    if Region.wanted o (yielded ops a.tmps) = true then Oper.wp P o a w K Q else E := by
  have hw : Region.wanted o (yielded ops a.tmps) = true := by simp [Region.wanted, hgd]
  rw [if_pos hw]
  obtain ⟨v', w', hr, h2, h3⟩ := run_append_any (P := P) w base t tx o.type e i z size bytes ht hi hz hsize hby hzs hsz g n cap xs hown u m news hsrc h63 hbytes hbase
  unfold Oper.wp execOp
  simp only [ho, resolve, invoke, builtin, Sem.run_bind, Sem.run_pure, Result.andThen_ok, List.map_toArray, List.map_cons, List.map_nil, hs, hx, hr]
  rw [hM, hys] at h2
  rcases h2.2 with ⟨_, h0⟩ | ⟨g', c', cur, rfl, _⟩
  · omega
  · exact h g' c' w' h2 h3

theorem owns_low {w : World} {base lo n cap : Nat} {a : Option Addr} {zs : List Int} (h : Owns w base a n cap zs) (hl : lo ≤ base) : Owns w lo a n cap zs := ⟨own_low h.1 hl, h.2⟩

/-- Where a row of some bytes lies. -/
theorem owns_at {w : World} {base n cap : Nat} {a : Option Addr} {zs : List Int} (h : Owns w base a n cap zs) (hn : 0 < n) : ∃ g, a = some ⟨g, 0, none⟩ ∧ base ≤ g ∧ g < w.heap.size := by
  rcases h.1.2 with ⟨_, h0⟩ | ⟨g, cap', cur, he, hb, hg, _⟩
  · omega
  · injection he with e1 _ _
    exact ⟨g, e1, hb, (Array.getElem?_eq_some_iff.1 hg).1⟩

/-- A row of bytes as a text. -/
theorem conv_txt {W : World} {g M c : Nat} {zs : List Int} (h : Seg W (some ⟨g, 0, none⟩) M zs) : (convert 22 9 (.slice (some ⟨g, 0, none⟩) M c)).run Tryd.prog W = .ok (.string (txU zs)) W := by
  have hl : (zs.map fun z => UInt8.ofNat z.toNat).length = M := by rw [List.length_map, h.1]
  have hr := run_convert_bytes_back (P := Tryd.prog) W 22 9 5 ⟨g, 0, none⟩ c (zs.map fun z => UInt8.ofNat z.toNat) Tryd.underlying22 (by kernel_rfl) (by kernel_rfl) (by
    intro j hj
    have hjM : j < M := by omega
    have hp : (⟨g, 0, none⟩ : Addr).add j = ⟨g, j, none⟩ := by unfold Addr.add; split <;> simp_all
    rw [hp]
    rcases h.2.2 with h0 | ⟨b, off, e, _, hc⟩
    · omega
    · injection e with e
      injection e with e1 e2 _
      subst e1 e2
      have := hc j hjM
      rw [Nat.zero_add] at this
      rw [this]
      have hjz : j < zs.length := by rw [h.1]; exact hjM
      have hz := h.2.1 zs[j] (List.getElem_mem hjz)
      rw [List.getD_eq_getElem?_getD, List.getElem?_eq_getElem hjz]
      simp
      omega)
  rw [hl] at hr
  exact hr

/-- A part of bytes. -/
theorem Seg.part7 {w : World} {b len : Nat} {zs : List Int} (h : Seg w (some ⟨b, 0, none⟩) len zs) (T n : Nat) (hT : T + n ≤ len) : Seg w (some ⟨b, T, none⟩) n ((zs.drop T).take n) := by
  obtain ⟨h1, h2, h3⟩ := h
  refine ⟨by simp; omega, fun x hx => h2 x (List.mem_of_mem_drop (List.mem_of_mem_take hx)), ?_⟩
  by_cases hn : n = 0
  · exact .inl hn
  · rcases h3 with h0 | ⟨b', off, e, hb, hc⟩
    · omega
    · injection e with e
      injection e with e1 e2 _
      subst e1 e2
      refine .inr ⟨b, T, rfl, hb, fun i hi => ?_⟩
      have := hc (T + i) (by omega)
      rw [Nat.zero_add] at this
      rw [this]
      simp [List.getD_eq_getElem?_getD, List.getElem?_drop, hi]

/-- A part of bytes as a text. -/
theorem conv_txt_at {W : World} {g o M c : Nat} {zs : List Int} (h : Seg W (some ⟨g, o, none⟩) M zs) : (convert 22 9 (.slice (some ⟨g, o, none⟩) M c)).run Tryd.prog W = .ok (.string (txU zs)) W := by
  have hl : (zs.map fun z => UInt8.ofNat z.toNat).length = M := by rw [List.length_map, h.1]
  have hr := run_convert_bytes_back (P := Tryd.prog) W 22 9 5 ⟨g, o, none⟩ c (zs.map fun z => UInt8.ofNat z.toNat) Tryd.underlying22 (by kernel_rfl) (by kernel_rfl) (by
    intro j hj
    have hjM : j < M := by omega
    have hp : (⟨g, o, none⟩ : Addr).add j = ⟨g, o + j, none⟩ := by unfold Addr.add; split <;> simp_all
    rw [hp]
    rcases h.2.2 with h0 | ⟨b, off, e, _, hc⟩
    · omega
    · injection e with e
      injection e with e1 e2 _
      subst e1 e2
      rw [hc j hjM]
      have hjz : j < zs.length := by rw [h.1]; exact hjM
      have hz := h.2.1 zs[j] (List.getElem_mem hjz)
      rw [List.getD_eq_getElem?_getD, List.getElem?_eq_getElem hjz]
      simp
      omega)
  rw [hl] at hr
  exact hr

theorem Seg.src {W : World} {a : Option Addr} {d c : Nat} {zs : List Int} (hs : Seg W a d zs) : Src Tryd.prog 1 22 (.slice a d c) d (zs.map (Value.int .u8)) W := by
  cases a with
  | none =>
    have h0 : d = 0 := seg_nil hs rfl
    subst h0
    obtain rfl : zs = [] := List.eq_nil_of_length_eq_zero hs.1
    exact Src.ofNil _ Tryd.underlying22 c
  | some ad => exact Src.ofSlice _ Tryd.underlying22 ad d c _ (by rw [List.length_map, hs.1, Nat.mul_one]) (seg_src hs ad rfl) (ints_one zs)

theorem byteCells_txI (s : ByteArray) : byteCells s = (txI s).map (Value.int .u8) := by
  simp [byteCells, txI]

end Go.Proofs.YtenkpgnkkkgdmasDoor

namespace Go.Proofs.YtenkpgnkkkgdmasDoor
open Go.RowKit
set_option linter.unusedVariables false

theorem specPutL (b len cap n k m : Nat) (K : Int) (hK : K = (k : Int)) (zs ys : List Int) (w : World) (hs : Seg w (some ⟨b, 0, none⟩) len zs) (hb : b < w.heap.size) (hl : len ≤ 1099511627776) (hn : n ≤ 9223372036854775807) (h1 : 1 ≤ k) (h8 : k ≤ 8) (hm : len + k = m) (hys : zs ++ pbl n k k = ys) :
    Calls Tryd.prog 47 #[.slice (some ⟨b, 0, none⟩) len cap, .int .i64 n, .int .i64 K] w fun e w' => (∃ g c, e = .returned (.slice (some ⟨g, 0, none⟩) m c) ∧ Owns w' w.heap.size (some ⟨g, 0, none⟩) m c ys) ∧ Below w.heap.size w w' := by
  subst hK
  refine (specPut_yes b 0 len cap n k zs w hs hb hl hn h1 h8).mono ?_
  rintro e w' ⟨a', c', rfl, ho, hbl⟩
  rw [hm, hys] at ho
  obtain ⟨g, rfl, _, _⟩ := owns_at ho (by omega)
  exact ⟨⟨g, c', by rw [hm], ho⟩, hbl⟩

end Go.Proofs.YtenkpgnkkkgdmasDoor

namespace Go.Proofs.YtenkpgnkkkgdmasDoor
open Go.RowKit

set_option maxHeartbeats 400000 in
theorem specCrc_any (a : Option Addr) (len cap : Nat) (zs : List Int) (w : World) (hs : Seg w a len zs) (hl : len ≤ 1099511627776) :
    Calls Tryd.prog 48 #[.slice a len cap] w fun e w' => e = .returned (.int .i64 ((crcL zs ^^^ 4294967295 : Nat) : Int)) ∧ w' = w := by
  have HS : Hid (Seg w a len zs) := hs
  clear hs
  go_enter Tryd.func48, Tryd.ntmps48
  go_wp2
  go_loop [3, 4] (fun m i => ∃ j : Nat, j ≤ len ∧ i = .int .i64 j ∧ m = .int .i64 ((crcL (zs.take j) : Nat) : Int)) (fun _ i => len - (intOf i).toNat)
  case atStart => exact ⟨0, Nat.zero_le _, rfl, rfl⟩
  case round =>
    obtain ⟨j, hj, rfl, rfl⟩ := hrel
    have hb := crcL_lt (zs.take j) (fun n hn => HS.out.2.1 n (List.mem_of_mem_take hn))
    by_cases hlt : j < len
    · have hsn : Hid (crcL (zs.take (j + 1)) = crcN 8 (crcL (zs.take j) ^^^ (zs.getD j 0).toNat)) := by
        show crcL _ = _
        rw [take_snoc zs j (by have := HS.out.1; omega), crcL_snoc]
      obtain ⟨b, off, rfl, hb2, hc⟩ : ∃ b off, a = some ⟨b, off, none⟩ ∧ b < w.heap.size ∧ ∀ i, i < len → w.cell? ⟨b, off + i, none⟩ = some (.int .u8 (zs.getD i 0)) := by
        rcases HS.out.2.2 with h | h
        · omega
        · exact h
      have hcell : w.cell? ⟨b, off + j, none⟩ = some (.int .u8 (zs.getD j 0)) := hc j hlt
      clear hc
      obtain ⟨hx0, hx1⟩ := HS.out.range j
      generalize crcL (zs.take j) = m at *
      generalize zs.getD j 0 = x at *
      have hxor := i64_xor_int m x hb hx0 (by omega)
      have hq := xor_lt32 m x.toNat hb (by omega)
      generalize m ^^^ x.toNat = q at *
      go_wp2
      clear hxor hcell
      go_loop [3, 5] (fun v i => ∃ t : Nat, t ≤ 8 ∧ i = .int .i64 t ∧ v = .int .i64 ((crcN t q : Nat) : Int)) (fun _ i => 8 - (intOf i).toNat)
      case atStart => exact ⟨0, Nat.zero_le _, rfl, rfl⟩
      case round =>
        obtain ⟨t, ht8, rfl, rfl⟩ := hrel
        have hbm := crcN_lt t q hq
        have hst : Hid (crcN (t + 1) q = crc1 (crcN t q)) := rfl
        generalize hm0 : crcN t q = y at *
        have HM : Hid (crcN t q = y) := hm0
        clear hm0
        by_cases hlt8 : t < 8
        · have ht := i64_turn y hbm
          rcases Nat.mod_two_eq_zero_or_one y with h0 | h0
          · have ha : bits .and .i64 (y : Int) 1 = 0 := by rw [i64_and1 y hbm]; omega
            go_wp2
            go_round
            case rel => exact ⟨t + 1, by omega, by go_num, by rw [hst.out, crc1, if_neg (by omega)]; go_num⟩
            case measure => simp [intOf]; omega
          · have ha : bits .and .i64 (y : Int) 1 = 1 := by rw [i64_and1 y hbm]; omega
            go_wp2
            go_round
            case rel => exact ⟨t + 1, by omega, by go_num, by rw [hst.out, crc1, if_pos (by omega)]⟩
            case measure => simp [intOf]; omega
        · have ht9 : t = 8 := by omega
          subst ht9
          go_wp2
          go_round
          case rel => exact ⟨j + 1, by omega, by go_num, by rw [hsn.out, HM.out]⟩
          case measure => simp [intOf]; omega
    · have hjl : j = len := by omega
      subst hjl
      have hz : zs.take j = zs := List.take_of_length_le (by have := HS.out.1; omega)
      rw [hz] at hb ⊢
      clear hz
      have hr := i64_xor_int (crcL zs) 4294967295 hb (by omega) (by omega)
      go_wp2
      go_ret
      exact ⟨rfl, rfl⟩

end Go.Proofs.YtenkpgnkkkgdmasDoor
