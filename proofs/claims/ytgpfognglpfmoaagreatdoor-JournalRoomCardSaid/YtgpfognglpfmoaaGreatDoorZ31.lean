/- Texts of this claim, one behind the other: QRef, QAz, Qa. -/
import Derived.Test.YtgpfognglpfmoaaGreatDoorZ02
import Derived.Test.YtgpfognglpfmoaaGreatDoorZ01
import Derived.Test.YtgpfognglpfmoaaGreatDoorZ03
import Derived.Test.YtgpfognglpfmoaaGreatDoorZ08
import Derived.Lib.AppendZerosOnto
set_option linter.unusedSimpArgs false
set_option linter.unusedVariables false
section
/- The document's own answers for numbers, blocks and words as bytes. -/
namespace Go.Proofs.YtgpfognglpfmoaaGreatDoor
set_option linter.unusedSimpArgs false
set_option linter.unusedVariables false
open Go.RowKit

theorem numSize_is (n k : Nat) (hn : n < 2 ^ 64) (h1 : 1 ≤ k) (h9 : k ≤ 9) (ha : k = 1 ∨ n / 2 ^ (7 * (k - 1)) ≠ 0) (hb : k = 9 ∨ n / 2 ^ (7 * k) = 0) : k = numSize n := by
  have hd := numSize_bd n
  rcases Nat.lt_trichotomy k (numSize n) with h | h | h
  · have h2 := numSize_ge n (by omega)
    have hp : 2 ^ (7 * k) ≤ 2 ^ (7 * (numSize n - 1)) := Nat.pow_le_pow_right (by decide) (by omega)
    have := Nat.div_pos (Nat.le_trans hp h2) (Nat.two_pow_pos (7 * k))
    omega
  · exact h
  · have h2 := numSize_lt n hn (by omega)
    have hp : 2 ^ (7 * numSize n) ≤ 2 ^ (7 * (k - 1)) := Nat.pow_le_pow_right (by decide) (by omega)
    have := Nat.div_eq_of_lt (Nat.lt_of_lt_of_le h2 hp)
    omega

theorem div_castR (n k : Nat) : ((n : Int) / 2 ^ k) = ((n / 2 ^ k : Nat) : Int) := by simp

set_option maxHeartbeats 400000 in
theorem Qroom_any (n : Nat) (w : World) (h1 : n < 18446744073709551616) :
    Calls Tryz.prog 154 #[.int .u64 (n : Int)] w fun e w' => e = .returned (.int .i64 (numSize n)) ∧ w = w' := by
  go_enter Tryz.func154, Tryz.ntmps154
  go_wp2
  go_loop [3] (fun vk => ∃ k : Nat, 1 ≤ k ∧ k ≤ 9 ∧ vk = .int .i64 (k : Int) ∧ Hid (k = 1 ∨ n / 2 ^ (7 * (k - 1)) ≠ 0)) (fun vk => 9 - (intOf vk).toNat)
  case atStart => exact ⟨1, by omega, by omega, rfl, Lib.hid (Or.inl rfl)⟩
  case round =>
    obtain ⟨k, k1, k9, rfl, hk⟩ := hrel
    by_cases h9 : k < 9
    · by_cases hz : n / 2 ^ (7 * k) = 0
      · have hzz : ((n : Int) / 2 ^ (7 * k)) = 0 := by rw [div_castR, hz]; rfl
        have hzb : ((n : Int) / 2 ^ (7 * k) != 0) = false := by rw [hzz]; rfl
        have HZ := Lib.hid hz
        clear hz
        go_wp2
        go_ret
        exact ⟨Oret_int (by rw [numSize_is n k (by omega) k1 k9 hk.out (Or.inr HZ.out)]), rfl⟩
      · have hzz : ((n : Int) / 2 ^ (7 * k) != 0) = true := by rw [bne_iff_ne, div_castR]; omega
        have HZ := Lib.hid hz
        clear hz
        go_wp2
        go_round
        case rel => exact ⟨k + 1, by omega, by omega, by go_num, Lib.hid (Or.inr (by rw [Nat.add_sub_cancel]; exact HZ.out))⟩
        case measure => simp [intOf]; omega
    · obtain rfl : k = 9 := by omega
      go_wp2
      go_ret
      exact ⟨Oret_int (by rw [← numSize_is n 9 (by omega) k1 k9 hk.out (Or.inl rfl)]; rfl), rfl⟩


theorem byte_atN (n i : Nat) : ((n : Int) / 2 ^ (8 * i) % 256) = ((n / 2 ^ (8 * i) % 256 : Nat) : Int) := by simp

theorem lead_wrap : ∀ (k : Fin 9), 1 ≤ k.val → IntKind.u64.wrap (256 - IntKind.u64.wrap (2 ^ (9 - k.val))) = (leadOf k.val : Int) := by decide +kernel

set_option maxHeartbeats 400000 in
theorem QNumber_any {A : Option Addr} {k c : Nat} {l : List UInt8} (n : Nat) (w : World) (hr : Rd w w.heap.size A k c l) (hk : k ≤ 4294967296) (h1 : n < 18446744073709551616) :
    Calls Tryz.prog 134 #[.slice A k c, .int .u64 (n : Int)] w (OGives w (l ++ numB n)) := by
  have hs := numSize_bd n
  have hl := hr.len
  have hnb := numB_eq n (by omega)
  have hlt := top_lt n (by omega)
  have hho := headOf_lt n (by omega)
  have HNB := Lib.hid hnb
  clear hnb
  have hb0 : Below w.heap.size w (w.alloc (.cells #[] 5)) := bl_alloc (bl0 w) _
  go_enter Tryz.func134, Tryz.ntmps134
  go_wp2_with (at_builtin; refine wpList_app rfl _ _ rfl rfl (Ow.lit w #[] [] rfl (by simp)) rfl (hr.below hb0) (by simp; omega) (by simp) ?_; intro v2 w2 ho2 hg2 hv2)
  rw [List.nil_append] at ho2
  have hb2 : Below w.heap.size w w2 := hb0.grown hg2 hb0.size (fun g hg => (World.ownsRow.lt (Ow.lit w #[] [] rfl (by simp)) g hg).1)
  refine (Qroom_any n w2 h1).mono ?_; rintro x w3 ⟨rfl, rfl⟩
  have hs2 := hb2.size
  by_cases h9 : numSize n = 9
  · have h9b : ((numSize n : Int) == 9) = true := by simp [h9]
    have hh : headOf n = 255 := by
      unfold headOf
      rw [h9, Nat.div_eq_of_lt (by simpa using h1)]
      decide
    rw [hh] at HNB
    rw [h9] at HNB ⊢
    have hfin : Hid ((l ++ [255]) ++ putB n 0 8 = l ++ numB n) := by rw [HNB.out]; exact Lib.hid (by simp)
    clear h9 hh HNB hlt hho h9b
    go_wp2_with (at_builtin; refine wpList_app rfl _ _ rfl rfl (ho2.alloc _) rfl (Rd.litN w2 _ [255] 1 rfl rfl (by decide)) (by simp; omega) (by simp; omega) ?_; intro v3 w3 ho3 hg3 hv3)
    have hb3 : Below w.heap.size w w3 := (bl_alloc hb2 _).grown hg3 (bl_alloc hb2 _).size (fun g hg => (World.ownsRow.lt ho2 g hg).1)
    go_loopw [5, 7] (fun vb vi wr => ∃ (i : Int) (ys : List UInt8), -1 ≤ i ∧ i ≤ 7 ∧ vi = .int .i64 i ∧ Ow wr w.heap.size vb ys ∧ Hid (ys ++ putB n 0 (i + 1).toNat = l ++ numB n) ∧ Below w.heap.size w wr) (fun _ vi _ => (intOf vi + 1).toNat)
    case atStart => exact ⟨_, _, by omega, by omega, rfl, ho3, hfin, hb3⟩
    case round =>
      obtain ⟨i, ys, hr1, hr2, rfl, ho, he, hbl⟩ := hrel
      have hbs := hbl.size
      by_cases hi : 0 ≤ i
      · have hlen : ys.length + (i + 1).toNat = l.length + (numB n).length := by
          have := congrArg List.length he.out
          simpa [putB_length] using this
        have hnl : (numB n).length ≤ 9 := by rw [numB_length]; exact (numSize_bd n).2
        have hlen' : ys.length ≤ 8589934601 := by omega
        clear hlen hnl
        have hx0 : 0 ≤ (n : Int) / 2 ^ (8 * i).toNat % 256 := Int.emod_nonneg _ (by omega)
        have hx1 : (n : Int) / 2 ^ (8 * i).toNat % 256 < 256 := Int.emod_lt_of_pos _ (by omega)
        have hstep : Hid (ys ++ [UInt8.ofNat ((n : Int) / 2 ^ (8 * i).toNat % 256).toNat] ++ putB n 0 i.toNat = l ++ numB n) := by
          have := he.out
          rw [show (i + 1).toNat = i.toNat + 1 from by omega, putB, Nat.zero_or] at this
          rw [show (8 * i).toNat = 8 * i.toNat from by omega, byte_atN, Int.toNat_natCast, ← this]
          exact Lib.hid (by simp)
        clear he
        go_wp2_with (at_builtin; refine wpList_app rfl _ _ rfl rfl (ho.alloc _) rfl (Rd.lit1 wr _ hx0 hx1) (by omega) (by simp; omega) ?_; intro v4 w4 ho4 hg4 hv4)
        go_roundw
        case rel => exact ⟨_, _, by omega, by omega, rfl, ho4, by rw [show (i - 1 + 1).toNat = i.toNat from by omega]; exact hstep, (bl_alloc hbl _).grown hg4 (bl_alloc hbl _).size (fun g hg => (World.ownsRow.lt ho g hg).1)⟩
        case measure => simp [intOf]; omega
      · go_wp2
        go_ret
        have := he.out
        rw [show (i + 1).toNat = 0 from by omega, putB, List.append_nil] at this
        subst this
        exact OGives.mk ho hbl
  · have h9b : ((numSize n : Int) == 9) = false := by simp; omega
    have hlt2 : numSize n ≤ 8 := by omega
    have h1k : (1 : Int) ≤ (numSize n : Int) := by omega
    have h8k : (numSize n : Int) ≤ 8 := by omega
    clear h9
    have hv : IntKind.u64.wrap (256 - IntKind.u64.wrap (2 ^ (9 - numSize n))) = (leadOf (numSize n) : Int) := lead_wrap ⟨numSize n, by omega⟩ hs.1
    have hval : (IntKind.u64.wrap (256 - IntKind.u64.wrap (2 ^ (9 - numSize n))) + (n : Int) / 2 ^ (8 * (numSize n - 1))) % 256 = (headOf n : Int) := by
      rw [hv, div_castR]
      clear hlt HNB
      unfold headOf at hho ⊢
      generalize n / 2 ^ (8 * (numSize n - 1)) = x at *
      omega
    have HV := Lib.hid hval
    have hfin : Hid ((l ++ [UInt8.ofNat (headOf n)]) ++ putB n 0 (numSize n - 1) = l ++ numB n) := by rw [HNB.out]; exact Lib.hid (by simp)
    clear hv hval
    go_wp2_with (at_builtin; rw [HV.out]; refine wpList_app rfl _ _ rfl rfl (ho2.alloc _) rfl (Rd.lit1 w2 _ (by omega) (by omega)) (by simp; omega) (by simp; omega) ?_; intro v3 w3 ho3 hg3 hv3; rw [Int.toNat_natCast] at ho3)
    have hb3 : Below w.heap.size w w3 := (bl_alloc hb2 _).grown hg3 (bl_alloc hb2 _).size (fun g hg => (World.ownsRow.lt ho2 g hg).1)
    clear hg3 hv3
    go_loopw [5, 7] (fun vb vi wr => ∃ (i : Int) (ys : List UInt8), -1 ≤ i ∧ i ≤ 6 ∧ vi = .int .i64 i ∧ Ow wr w.heap.size vb ys ∧ Hid (ys ++ putB n 0 (i + 1).toNat = l ++ numB n) ∧ Below w.heap.size w wr) (fun _ vi _ => (intOf vi + 1).toNat)
    case atStart => exact ⟨_, _, by omega, by omega, rfl, ho3, by rw [show ((numSize n : Int) - 2 + 1).toNat = numSize n - 1 from by omega]; exact hfin, hb3⟩
    case round =>
      obtain ⟨i, ys, hr1, hr2, rfl, ho, he, hbl⟩ := hrel
      have hbs := hbl.size
      by_cases hi : 0 ≤ i
      · have hlen : ys.length + (i + 1).toNat = l.length + (numB n).length := by
          have := congrArg List.length he.out
          simpa [putB_length] using this
        have hnl : (numB n).length ≤ 9 := by rw [numB_length]; exact (numSize_bd n).2
        have hlen' : ys.length ≤ 8589934601 := by omega
        clear hlen hnl
        have hx0 : 0 ≤ (n : Int) / 2 ^ (8 * i).toNat % 256 := Int.emod_nonneg _ (by omega)
        have hx1 : (n : Int) / 2 ^ (8 * i).toNat % 256 < 256 := Int.emod_lt_of_pos _ (by omega)
        have hstep : Hid (ys ++ [UInt8.ofNat ((n : Int) / 2 ^ (8 * i).toNat % 256).toNat] ++ putB n 0 i.toNat = l ++ numB n) := by
          have := he.out
          rw [show (i + 1).toNat = i.toNat + 1 from by omega, putB, Nat.zero_or] at this
          rw [show (8 * i).toNat = 8 * i.toNat from by omega, byte_atN, Int.toNat_natCast, ← this]
          exact Lib.hid (by simp)
        clear he
        go_wp2_with (at_builtin; refine wpList_app rfl _ _ rfl rfl (ho.alloc _) rfl (Rd.lit1 wr _ hx0 hx1) (by omega) (by simp; omega) ?_; intro v4 w4 ho4 hg4 hv4)
        go_roundw
        case rel => exact ⟨_, _, by omega, by omega, rfl, ho4, by rw [show (i - 1 + 1).toNat = i.toNat from by omega]; exact hstep, (bl_alloc hbl _).grown hg4 (bl_alloc hbl _).size (fun g hg => (World.ownsRow.lt ho g hg).1)⟩
        case measure => simp [intOf]; omega
      · go_wp2
        go_ret
        have := he.out
        rw [show (i + 1).toNat = 0 from by omega, putB, List.append_nil] at this
        subst this
        exact OGives.mk ho hbl

set_option maxHeartbeats 400000 in
theorem QBlock_any {A A2 : Option Addr} {k c k2 c2 : Nat} {l l2 : List UInt8} (w : World) (hr : Rd w w.heap.size A k c l) (hk : k ≤ 2147483648) (hr2 : Rd w w.heap.size A2 k2 c2 l2) (hk2 : k2 ≤ 2147483648) :
    Calls Tryz.prog 103 #[.slice A k c, .slice A2 k2 c2] w (OGives w (l ++ (numB l2.length ++ l2))) := by
  have hs := numSize_bd k2
  have hl := hr.len
  have hl2 := Lib.hid hr2.len
  have hn : (numB k2).length ≤ 9 := by rw [numB_length]; omega
  rw [hl2.out]
  go_enter Tryz.func103, Tryz.ntmps103
  go_wp2_with fail
  refine (QNumber_any k2 _ hr (by omega) (by omega)).mono ?_; rintro e w1 ⟨v1, rfl, ho1, hb1⟩
  go_wp2_with (at_builtin; refine wpList_app rfl _ _ rfl rfl ho1 rfl (hr2.below hb1) (by simp; omega) hb1.size ?_; intro v3 w3 ho3 hg3 hv3)
  go_ret
  rw [List.append_assoc] at ho3
  exact OGives.mk ho3 (hb1.grown hg3 hb1.size (fun g hg => (World.ownsRow.lt ho1 g hg).1))

set_option maxHeartbeats 400000 in
theorem QWord_any {A : Option Addr} {k c : Nat} {l : List UInt8} (n : Nat) (m : Int) (w : World) (hr : Rd w w.heap.size A k c l) (hk : k ≤ 2147483648) (_h1 : n < 18446744073709551616) :
    Calls Tryz.prog 99 #[.slice A k c, .int .u64 (n : Int), .int .i64 m] w (OGives w (l ++ OwordB n (min (max m 1) 8).toNat)) := by
  have hl := hr.len
  obtain ⟨j, hj, hj1, hj8⟩ : ∃ j : Nat, (j : Int) = min (max m 1) 8 ∧ 1 ≤ j ∧ j ≤ 8 := ⟨(min (max m 1) 8).toNat, by omega, by omega, by omega⟩
  rw [← hj]
  have hJ : min (max m 1) 8 = (j : Int) := hj.symm
  clear hj
  have hb0 : Below w.heap.size w (w.alloc (.cells #[] 5)) := bl_alloc (bl0 w) _
  go_enter Tryz.func99, Tryz.ntmps99
  go_wp2_with (at_builtin; refine wpList_app rfl _ _ rfl rfl (Ow.lit w #[] [] rfl (by simp)) rfl (hr.below hb0) (by simp; omega) (by simp) ?_; intro v2 w2 ho2 hg2 hv2)
  rw [List.nil_append] at ho2
  have hb2 : Below w.heap.size w w2 := hb0.grown hg2 hb0.size (fun g hg => (World.ownsRow.lt (Ow.lit w #[] [] rfl (by simp)) g hg).1)
  clear hg2 hv2 hb0
  go_loopw [7, 8] (fun v i wr => ∃ t : Nat, t ≤ j ∧ i = .int .i64 (t : Int) ∧ Ow wr w.heap.size v (l ++ OwordB n t) ∧ Below w.heap.size w wr) (fun _ i _ => j - (intOf i).toNat)
  case atStart => exact ⟨0, by omega, rfl, by simpa [OwordB] using ho2, hb2⟩
  case round =>
    obtain ⟨t, ht, rfl, ho, hb⟩ := hrel
    have hbs := hb.size
    by_cases hlt : t < j
    · have hx0 : 0 ≤ (n : Int) / 2 ^ (8 * t) % 256 := Int.emod_nonneg _ (by omega)
      have hx1 : (n : Int) / 2 ^ (8 * t) % 256 < 256 := Int.emod_lt_of_pos _ (by omega)
      have hstep : Hid (l ++ OwordB n t ++ [UInt8.ofNat ((n : Int) / 2 ^ (8 * t) % 256).toNat] = l ++ OwordB n (t + 1)) := by
        rw [byte_atN, Int.toNat_natCast, OwordB, OwordB, List.range_succ, List.map_append, List.append_assoc]
        exact Lib.hid rfl
      have hw : (OwordB n t).length = t := by simp [OwordB]
      go_wp2_with (at_builtin; refine wpList_app rfl _ _ rfl rfl (ho.alloc _) rfl (Rd.lit1 wr _ hx0 hx1) (by simp; omega) (by simp; omega) ?_; intro v2 w2 ho2 hg2 hv2)
      go_roundw
      case rel => exact ⟨t + 1, by omega, by go_num, by rw [← hstep.out]; exact ho2, (bl_alloc hb _).grown hg2 (bl_alloc hb _).size (fun g hg => (World.ownsRow.lt ho g hg).1)⟩
      case measure => simp [intOf]; omega
    · obtain rfl : t = j := by omega
      go_wp2
      go_ret
      exact OGives.mk ho hb
end Go.Proofs.YtgpfognglpfmoaaGreatDoor
end
section
/- append(row, make([]byte, n)...): noughts put behind a row of the call's own. -/
namespace Go.Proofs.YtgpfognglpfmoaaGreatDoor
set_option linter.unusedSimpArgs false
set_option linter.unusedVariables false
open Go.RowKit

theorem zc (n : Nat) : (Builtin.zeroCells (Value.int .u8 0).cells n).toList = cs8 (List.replicate n 0) := by
  apply List.ext_getElem?
  intro j
  simp only [Builtin.zeroCells, Value.cells, cs8, Array.toList_map, List.map_replicate, Array.toList_range]
  by_cases hj : j < n
  · simp [hj, B8, Nat.mod_one]
  · simp [hj]

theorem run_appz {w : World} {base : Nat} {v : Value} {xs : List UInt8} (hown : Ow w base v xs) (n : Nat) (hx : xs.length ≤ 8589934592) (hn : n ≤ 64) (hbase : base ≤ w.heap.size) (ty : TypeId) :
    ∃ v' w', (Builtin.append_ #[31, 3] ty #[v, .int .i64 (n : Int)]).run Tryz.prog w = .ok v' w' ∧ Ow w' base v' (xs ++ List.replicate n 0) ∧ w.grownBy w' v.ownBlock := by
  obtain ⟨i, hi, hz0, hz1, hz2⟩ := info_parts info_u8
  have hml : (maxLen : Nat) = 9223372036854775807 := by simp [maxLen]
  have hlen : (cs8 xs ++ cs8 (List.replicate n 0)).length = (xs.length + n) * 1 := by rw [List.length_append, cs8_length, cs8_length, List.length_replicate, Nat.mul_one]
  have hgoal : ∀ (v' : Value) (w' : World), w'.ownsRow base 5 1 v' (xs.length + n) (cs8 xs ++ cs8 (List.replicate n 0)) → Ow w' base v' (xs ++ List.replicate n 0) := by
    intro v' w' h
    unfold Ow
    rw [cs8_append, List.length_append, List.length_replicate]
    exact h
  have grown : ∀ (old : Nat), old < xs.length + n → ∀ (row : Option Nat) (cells : Array Value),
      cells.toList = cs8 xs ++ cs8 (List.replicate n 0) ++ (Builtin.zeroCells (Value.int .u8 0).cells (grownCap w (xs.length + n) old 5 - (xs.length + n))).toList →
      (w.drew.alloc (.cells cells 5)).ownsRow base 5 1 (.slice (some ⟨w.heap.size, 0, none⟩) (xs.length + n) (grownCap w (xs.length + n) old 5)) (xs.length + n) (cs8 xs ++ cs8 (List.replicate n 0)) ∧
      w.grownBy (w.drew.alloc (.cells cells 5)) row := by
    intro old ho row cells hc
    have hge := grownCap_ge w (xs.length + n) old 5
    have hcm : grownCap w (xs.length + n) old 5 ≤ maxLen := grownCap_le_maxLen w (xs.length + n) old 5 (by omega)
    have hz := zc (grownCap w (xs.length + n) old 5 - (xs.length + n))
    refine ⟨⟨hlen, .inr ⟨w.heap.size, _, _, rfl, hbase, heap_alloc_new w.drew _, hge, hcm, ?_, ?_⟩⟩, ⟨rfl, rfl, rfl, by simp, fun k hk _ => Below.heap_alloc w.drew _ k hk⟩⟩
    · rw [← Array.length_toList, hc, List.length_append, hlen, hz, cs8_length, List.length_replicate]
      omega
    · rw [hc, ← hlen]
      exact List.take_left
  rcases Nat.eq_zero_or_pos n with h0 | h0
  · subst h0
    refine ⟨v, w, ?_, by simpa using hown, World.grownBy.refl w _⟩
    rcases hown.2 with ⟨rfl, _⟩ | ⟨g, cap, cur, rfl, _, _, hnc, _⟩
    · simp [Builtin.append_, run_underlying Tryz.underlying31, run_underlying Tryz.underlying3, sizeOf, typeInfo, hi, asInt, asIntOf, IntKind.wrap_i64]
    · simp [Builtin.append_, run_underlying Tryz.underlying31, run_underlying Tryz.underlying3, sizeOf, typeInfo, hi, hnc, storeCells, asInt, asIntOf, IntKind.wrap_i64]
  · rcases hown.2 with ⟨rfl, hl0⟩ | ⟨g, cap, cur, rfl, hbg, hg, hnc, hcm, hcs, htake⟩
    · have hx0 : xs = [] := List.eq_nil_of_length_eq_zero hl0
      subst hx0
      have hr := Lib.run_append_nil_zeros (P := Tryz.prog) w 31 3 ty 5 i (.int .u8 0) .i64 .i64 Tryz.underlying31 Tryz.underlying3 hi hz0 n h0 (by omega) (by omega) (by rw [hz2]; omega)
      have hgr := grown 0 (by simp; omega) (Value.ownBlock (.slice none 0 0)) (Builtin.zeroCells (Value.int .u8 0).cells n ++ Builtin.zeroCells (Value.int .u8 0).cells (grownCap w n 0 5 - n)) (by rw [Array.toList_append, zc n]; simp [cs8])
      simp only [List.length_nil, Nat.zero_add] at hgr
      exact ⟨_, _, hr, hgoal _ _ (by simpa using hgr.1), hgr.2⟩
    · by_cases hroom : xs.length + n ≤ cap
      · have hst := run_storeCells_at Tryz.prog g xs.length 5 (cs8 (List.replicate n 0)) 0 cur w hg (by rw [cs8_length, List.length_replicate]; omega) (cs8_one _)
        simp only [Nat.add_zero] at hst
        refine ⟨.slice (some ⟨g, 0, none⟩) (xs.length + n) cap, w.setRow g (cur.toList.take xs.length ++ cs8 (List.replicate n 0) ++ cur.toList.drop (xs.length + (cs8 (List.replicate n 0)).length)).toArray, ?_, hgoal _ _ ⟨hlen, .inr ⟨g, cap, _, rfl, hbg, setRow_heap w g cur _ 5 _ hg, hroom, hcm, ?_, ?_⟩⟩, ⟨rfl, rfl, rfl, by simp, fun k _ hk => setRow_other w g k _ (fun e => hk (by simp [Value.ownBlock, e]))⟩⟩
        · have hw : IntKind.i64.wrap (n : Int) = n := by rw [IntKind.wrap_i64]; omega
          have hneg : ¬ ((n : Int) < 0) := by omega
          have hn0 : n ≠ 0 := by omega
          have hb : ¬ (281474976710656 < (n : Int) * (i.bytes : Int)) := by rw [hz2]; omega
          have hzr : (zeroValue 5).run Tryz.prog w = .ok (.int .u8 0) w := by simp [zeroValue, Sem.run_bind, typeInfo, hi, hz0]
          have hzc := zc n
          simp [Builtin.append_, run_underlying Tryz.underlying31, run_underlying Tryz.underlying3, sizeOf, typeInfo, hi, hz1, hz2, asInt, asIntOf, hw, hneg, hn0, hroom, hzr, hzc, Addr.add_lit, hst]
          intro h
          exfalso
          omega
        · simp only [List.size_toArray, List.length_append, List.length_take, List.length_drop, Array.length_toList, cs8_length, List.length_replicate]
          omega
        · rw [Nat.mul_one] at htake
          rw [htake, ← hlen]
          exact List.take_left
      · have holds : ∀ j u, (cs8 xs)[j]? = some u → w.drew.cell? ((⟨g, 0, none⟩ : Addr).add j) = some u := World.ownsRow.cells hown (g := g) rfl
        have hf := run_firstCells_some (P := Tryz.prog) w.drew i.size xs.length ⟨g, 0, none⟩ xs.length cap (cs8 xs) (by rw [cs8_length, hz1, Nat.mul_one]) holds
        have hr := Lib.run_append_grow_zeros (P := Tryz.prog) w 31 3 ty 5 i (.int .u8 0) .i64 .i64 Tryz.underlying31 Tryz.underlying3 hi hz0 (some ⟨g, 0, none⟩) xs.length cap (cs8 xs) hf n h0 (by omega) (by omega) (by omega) (by rw [hz2]; omega) (growslice_fits (by omega) (by rw [hz2]; omega))
        have hgr := grown cap (by omega) (Value.ownBlock (.slice (some ⟨g, 0, none⟩) xs.length cap)) (((cs8 xs).toArray ++ Builtin.zeroCells (Value.int .u8 0).cells n ++ Builtin.zeroCells (Value.int .u8 0).cells (grownCap w (xs.length + n) cap 5 - (xs.length + n)))) (by rw [Array.toList_append, Array.toList_append, zc n])
        exact ⟨_, _, hr, hgoal _ _ hgr.1, hgr.2⟩
end Go.Proofs.YtgpfognglpfmoaaGreatDoor
end
section
/- The document's own SHA-512: its words, turns, padding. -/
namespace Go.Proofs.YtgpfognglpfmoaaGreatDoor
set_option maxRecDepth 8192
set_option linter.unusedSimpArgs false
set_option linter.unusedVariables false
open Go.RowKit

theorem rotr_bits (x : UInt64) (k : Nat) : bits .or .u64 ((x.toNat : Int) / 2 ^ k) (IntKind.u64.wrap ((x.toNat : Int) * 2 ^ (64 - k))) = ((rotr k x).toNat : Int) := by
  have hx : x.toNat < 18446744073709551616 := x.toNat_lt
  have e1 : IntKind.u64.wrap ((x.toNat : Int) * 2 ^ (64 - k)) = ((x.toNat * 2 ^ (64 - k) % 18446744073709551616 : Nat) : Int) := by
    rw [← wrapN]; simp
  have e2 : ((x.toNat : Int) / 2 ^ k) = ((x.toNat / 2 ^ k : Nat) : Int) := by simp
  have b1 : x.toNat * 2 ^ (64 - k) % 18446744073709551616 < 18446744073709551616 := Nat.mod_lt _ (by omega)
  have b2 : x.toNat / 2 ^ k < 18446744073709551616 := Nat.lt_of_le_of_lt (Nat.div_le_self _ _) hx
  have : x.toNat * 2 ^ (64 - k) % 18446744073709551616 ||| x.toNat / 2 ^ k < 2 ^ 64 := Nat.or_lt_two_pow (by omega) (by omega)
  rw [e1, e2, u64_or_nat _ _ b2 b1, Nat.or_comm, rotr, toNat_of this]
set_option maxHeartbeats 400000 in
theorem Qrot_any (x : UInt64) (k : Nat) (hk : 1 ≤ k) (hk2 : k ≤ 63) (w : World) : Calls Tryz.prog 173 #[.int .u64 (x.toNat : Int), .int .i64 (k : Int)] w fun e w' => e = .returned (.int .u64 ((rotr k x).toNat : Int)) ∧ w' = w := by
  have hx : x.toNat < 18446744073709551616 := x.toNat_lt
  have HB := Lib.hid (rotr_bits x k)
  go_enter Tryz.func173, Tryz.ntmps173
  go_wp2
  go_ret
  rw [HB.out]
  exact ⟨rfl, rfl⟩

set_option maxHeartbeats 1600000 in
theorem QK_any (w : World) : Calls Tryz.prog 172 #[] w fun e w' => e = .returned (.agg (cs64 KK).toArray) ∧ Below w.heap.size w w' := by
  have HL := Lib.hid (show (cs64 KK).length = 80 by decide +kernel)
  have hb : Below w.heap.size w (w.alloc (.cells z47.toArray 160)) := bl_alloc (bl0 w) _
  have HB := Lib.hid (Bk.new w z47 160)
  go_enter Tryz.func172, Tryz.ntmps172
  go_wp2_with (first | (refine wpList_alloc_z rfl 160 rfl z47 zero47 ?_) | (refine wpList_buildTo rfl 1 rfl 160 _ rfl (cs64 KK).toArray (by kernel_rfl) ?_) | (refine wpList_store_bk rfl 160 _ _ rfl w.heap.size rfl (cs64 KK) z47 rfl HB.out (by rw [HL.out]; exact info47) (by rw [HL.out]; exact len_z47) (cs64_one _) ?_))
  exact ret_bk rfl w.heap.size _ _ rfl rfl (HB.out.setRow _) Tryz.underlying160 rfl (by rw [HL.out]; exact info47) ⟨rfl, bl_setRow hb (Nat.le_refl _) _⟩
set_option maxHeartbeats 1600000 in
theorem QStart_any (w : World) : Calls Tryz.prog 153 #[] w fun e w' => e = .returned (.agg (cs64 startL).toArray) ∧ Below w.heap.size w w' := by
  have HL := Lib.hid (show (cs64 startL).length = 8 by decide +kernel)
  have hb : Below w.heap.size w (w.alloc (.cells z38.toArray 161)) := bl_alloc (bl0 w) _
  have HB := Lib.hid (Bk.new w z38 161)
  go_enter Tryz.func153, Tryz.ntmps153
  go_wp2_with (first | (refine wpList_alloc_z rfl 161 rfl z38 zero38 ?_) | (refine wpList_buildTo rfl 1 rfl 161 _ rfl (cs64 startL).toArray (by kernel_rfl) ?_) | (refine wpList_store_bk rfl 161 _ _ rfl w.heap.size rfl (cs64 startL) z38 rfl HB.out (by rw [HL.out]; exact info38) (by rw [HL.out]; exact len_z38) (cs64_one _) ?_))
  exact ret_bk rfl w.heap.size _ _ rfl rfl (HB.out.setRow _) Tryz.underlying161 rfl (by rw [HL.out]; exact info38) ⟨rfl, bl_setRow hb (Nat.le_refl _) _⟩
end Go.Proofs.YtgpfognglpfmoaaGreatDoor
end
