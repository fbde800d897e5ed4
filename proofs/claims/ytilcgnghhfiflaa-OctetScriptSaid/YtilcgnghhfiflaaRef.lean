/- The document's own answers for numbers, blocks and words as bytes. -/
import Derived.Test.YtilcgnghhfiflaaNum
namespace Go.Proofs.Ytilcgnghhfiflaa
open Go.RowKit

theorem numSize_is (n k : Nat) (hn : n < 2 ^ 64) (h1 : 1 ≤ k) (h9 : k ≤ 9) (ha : k = 1 ∨ n / 2 ^ (7 * (k - 1)) ≠ 0) (hb : k = 9 ∨ n / 2 ^ (7 * k) = 0) : k = numSize n := by
  have hd := numSize_bd n
  rcases Nat.lt_trichotomy k (numSize n) with h | h | h
  · have h2 := numSize_ge n (by omega)
    have hp : 2 ^ (7 * k) ≤ 2 ^ (7 * (numSize n - 1)) := Nat.pow_le_pow_right (by decide) (by omega)
    have := Nat.div_pos (Nat.le_trans hp h2) (Nat.two_pow_pos (7 * k))
    omega
  · exact h
  · have h2 := numSize_lt n hn (by omega)
    have hp : 2 ^ (7 * numSize n) ≤ 2 ^ (7 * (k - 1)) := Nat.pow_le_pow_right (by decide) (by omega)
    have := Nat.div_eq_of_lt (Nat.lt_of_lt_of_le h2 hp)
    omega

theorem div_castR (n k : Nat) : ((n : Int) / 2 ^ k) = ((n / 2 ^ k : Nat) : Int) := by simp

set_option maxHeartbeats 400000 in
theorem refRoom_any (n : Nat) (w : World) (h1 : n < 18446744073709551616) :
    Calls Try.prog 41 #[.int .u64 (n : Int)] w fun e w' => e = .returned (.int .i64 (numSize n)) ∧ w = w' := by
  go_enter Try.func41, Try.ntmps41
  go_wp2
  go_loop [3] (fun vk => ∃ k : Nat, 1 ≤ k ∧ k ≤ 9 ∧ vk = .int .i64 (k : Int) ∧ Hid (k = 1 ∨ n / 2 ^ (7 * (k - 1)) ≠ 0)) (fun vk => 9 - (intOf vk).toNat)
  case atStart => exact ⟨1, by omega, by omega, rfl, Lib.hid (Or.inl rfl)⟩
  case round =>
    obtain ⟨k, k1, k9, rfl, hk⟩ := hrel
    by_cases h9 : k < 9
    · by_cases hz : n / 2 ^ (7 * k) = 0
      · have hzz : ((n : Int) / 2 ^ (7 * k)) = 0 := by rw [div_castR, hz]; rfl
        have hzb : ((n : Int) / 2 ^ (7 * k) != 0) = false := by rw [hzz]; rfl
        have HZ := Lib.hid hz
        clear hz
        go_wp2
        go_ret
        exact ⟨ret_int (by rw [numSize_is n k (by omega) k1 k9 hk.out (Or.inr HZ.out)]), rfl⟩
      · have hzz : ((n : Int) / 2 ^ (7 * k) != 0) = true := by rw [bne_iff_ne, div_castR]; omega
        have HZ := Lib.hid hz
        clear hz
        go_wp2
        go_round
        case rel => exact ⟨k + 1, by omega, by omega, by go_num, Lib.hid (Or.inr (by rw [Nat.add_sub_cancel]; exact HZ.out))⟩
        case measure => simp [intOf]; omega
    · obtain rfl : k = 9 := by omega
      go_wp2
      go_ret
      exact ⟨ret_int (by rw [← numSize_is n 9 (by omega) k1 k9 hk.out (Or.inl rfl)]; rfl), rfl⟩


theorem byte_atN (n i : Nat) : ((n : Int) / 2 ^ (8 * i) % 256) = ((n / 2 ^ (8 * i) % 256 : Nat) : Int) := by simp

theorem lead_wrap : ∀ (k : Fin 9), 1 ≤ k.val → IntKind.u64.wrap (256 - IntKind.u64.wrap (2 ^ (9 - k.val))) = (leadOf k.val : Int) := by decide +kernel

set_option maxHeartbeats 400000 in
theorem refNumber_any {A : Option Addr} {k c : Nat} {l : List UInt8} (n : Nat) (w : World) (hr : Rd w w.heap.size A k c l) (hk : k ≤ 4294967296) (h1 : n < 18446744073709551616) :
    Calls Try.prog 21 #[.slice A k c, .int .u64 (n : Int)] w (Gives w (l ++ numB n)) := by
  have hs := numSize_bd n
  have hl := hr.len
  have hnb := numB_eq n (by omega)
  have hlt := top_lt n (by omega)
  have hho := headOf_lt n (by omega)
  have HNB := Lib.hid hnb
  clear hnb
  have hb0 : Below w.heap.size w (w.alloc (.cells #[] 5)) := bl_alloc (bl0 w) _
  go_enter Try.func21, Try.ntmps21
  go_wp2_with (at_builtin; refine wpList_app rfl _ _ rfl rfl (Ow.lit w #[] [] rfl (by simp)) rfl (hr.below hb0) (by simp; omega) (by simp) ?_; intro v2 w2 ho2 hg2 hv2)
  rw [List.nil_append] at ho2
  have hb2 : Below w.heap.size w w2 := hb0.grown hg2 hb0.size (fun g hg => (World.ownsRow.lt (Ow.lit w #[] [] rfl (by simp)) g hg).1)
  refine (refRoom_any n w2 h1).mono ?_; rintro x w3 ⟨rfl, rfl⟩
  have hs2 := hb2.size
  by_cases h9 : numSize n = 9
  · have h9b : ((numSize n : Int) == 9) = true := by simp [h9]
    have hh : headOf n = 255 := by
      unfold headOf
      rw [h9, Nat.div_eq_of_lt (by simpa using h1)]
      decide
    rw [hh] at HNB
    rw [h9] at HNB ⊢
    have hfin : Hid ((l ++ [255]) ++ putB n 0 8 = l ++ numB n) := by rw [HNB.out]; exact Lib.hid (by simp)
    clear h9 hh HNB hlt hho h9b
    go_wp2_with (at_builtin; refine wpList_app rfl _ _ rfl rfl (ho2.alloc _) rfl (Rd.litN w2 _ [255] 1 rfl rfl (by decide)) (by simp; omega) (by simp; omega) ?_; intro v3 w3 ho3 hg3 hv3)
    have hb3 : Below w.heap.size w w3 := (bl_alloc hb2 _).grown hg3 (bl_alloc hb2 _).size (fun g hg => (World.ownsRow.lt ho2 g hg).1)
    go_loopw [5, 7] (fun vb vi wr => ∃ (i : Int) (ys : List UInt8), -1 ≤ i ∧ i ≤ 7 ∧ vi = .int .i64 i ∧ Ow wr w.heap.size vb ys ∧ Hid (ys ++ putB n 0 (i + 1).toNat = l ++ numB n) ∧ Below w.heap.size w wr) (fun _ vi _ => (intOf vi + 1).toNat)
    case atStart => exact ⟨_, _, by omega, by omega, rfl, ho3, hfin, hb3⟩
    case round =>
      obtain ⟨i, ys, hr1, hr2, rfl, ho, he, hbl⟩ := hrel
      have hbs := hbl.size
      by_cases hi : 0 ≤ i
      · have hlen : ys.length + (i + 1).toNat = l.length + (numB n).length := by
          have := congrArg List.length he.out
          simpa [putB_length] using this
        have hnl : (numB n).length ≤ 9 := by rw [numB_length]; exact (numSize_bd n).2
        have hlen' : ys.length ≤ 8589934601 := by omega
        clear hlen hnl
        have hx0 : 0 ≤ (n : Int) / 2 ^ (8 * i).toNat % 256 := Int.emod_nonneg _ (by omega)
        have hx1 : (n : Int) / 2 ^ (8 * i).toNat % 256 < 256 := Int.emod_lt_of_pos _ (by omega)
        have hstep : Hid (ys ++ [UInt8.ofNat ((n : Int) / 2 ^ (8 * i).toNat % 256).toNat] ++ putB n 0 i.toNat = l ++ numB n) := by
          have := he.out
          rw [show (i + 1).toNat = i.toNat + 1 from by omega, putB, Nat.zero_or] at this
          rw [show (8 * i).toNat = 8 * i.toNat from by omega, byte_atN, Int.toNat_natCast, ← this]
          exact Lib.hid (by simp)
        clear he
        go_wp2_with (at_builtin; refine wpList_app rfl _ _ rfl rfl (ho.alloc _) rfl (Rd.lit1 wr _ hx0 hx1) (by omega) (by simp; omega) ?_; intro v4 w4 ho4 hg4 hv4)
        go_roundw
        case rel => exact ⟨_, _, by omega, by omega, rfl, ho4, by rw [show (i - 1 + 1).toNat = i.toNat from by omega]; exact hstep, (bl_alloc hbl _).grown hg4 (bl_alloc hbl _).size (fun g hg => (World.ownsRow.lt ho g hg).1)⟩
        case measure => simp [intOf]; omega
      · go_wp2
        go_ret
        have := he.out
        rw [show (i + 1).toNat = 0 from by omega, putB, List.append_nil] at this
        subst this
        exact Gives.mk ho hbl
  · have h9b : ((numSize n : Int) == 9) = false := by simp; omega
    have hlt2 : numSize n ≤ 8 := by omega
    have h1k : (1 : Int) ≤ (numSize n : Int) := by omega
    have h8k : (numSize n : Int) ≤ 8 := by omega
    clear h9
    have hv : IntKind.u64.wrap (256 - IntKind.u64.wrap (2 ^ (9 - numSize n))) = (leadOf (numSize n) : Int) := lead_wrap ⟨numSize n, by omega⟩ hs.1
    have hval : (IntKind.u64.wrap (256 - IntKind.u64.wrap (2 ^ (9 - numSize n))) + (n : Int) / 2 ^ (8 * (numSize n - 1))) % 256 = (headOf n : Int) := by
      rw [hv, div_castR]
      clear hlt HNB
      unfold headOf at hho ⊢
      generalize n / 2 ^ (8 * (numSize n - 1)) = x at *
      omega
    have HV := Lib.hid hval
    have hfin : Hid ((l ++ [UInt8.ofNat (headOf n)]) ++ putB n 0 (numSize n - 1) = l ++ numB n) := by rw [HNB.out]; exact Lib.hid (by simp)
    clear hv hval
    go_wp2_with (at_builtin; rw [HV.out]; refine wpList_app rfl _ _ rfl rfl (ho2.alloc _) rfl (Rd.lit1 w2 _ (by omega) (by omega)) (by simp; omega) (by simp; omega) ?_; intro v3 w3 ho3 hg3 hv3; rw [Int.toNat_natCast] at ho3)
    have hb3 : Below w.heap.size w w3 := (bl_alloc hb2 _).grown hg3 (bl_alloc hb2 _).size (fun g hg => (World.ownsRow.lt ho2 g hg).1)
    clear hg3 hv3
    go_loopw [5, 7] (fun vb vi wr => ∃ (i : Int) (ys : List UInt8), -1 ≤ i ∧ i ≤ 6 ∧ vi = .int .i64 i ∧ Ow wr w.heap.size vb ys ∧ Hid (ys ++ putB n 0 (i + 1).toNat = l ++ numB n) ∧ Below w.heap.size w wr) (fun _ vi _ => (intOf vi + 1).toNat)
    case atStart => exact ⟨_, _, by omega, by omega, rfl, ho3, by rw [show ((numSize n : Int) - 2 + 1).toNat = numSize n - 1 from by omega]; exact hfin, hb3⟩
    case round =>
      obtain ⟨i, ys, hr1, hr2, rfl, ho, he, hbl⟩ := hrel
      have hbs := hbl.size
      by_cases hi : 0 ≤ i
      · have hlen : ys.length + (i + 1).toNat = l.length + (numB n).length := by
          have := congrArg List.length he.out
          simpa [putB_length] using this
        have hnl : (numB n).length ≤ 9 := by rw [numB_length]; exact (numSize_bd n).2
        have hlen' : ys.length ≤ 8589934601 := by omega
        clear hlen hnl
        have hx0 : 0 ≤ (n : Int) / 2 ^ (8 * i).toNat % 256 := Int.emod_nonneg _ (by omega)
        have hx1 : (n : Int) / 2 ^ (8 * i).toNat % 256 < 256 := Int.emod_lt_of_pos _ (by omega)
        have hstep : Hid (ys ++ [UInt8.ofNat ((n : Int) / 2 ^ (8 * i).toNat % 256).toNat] ++ putB n 0 i.toNat = l ++ numB n) := by
          have := he.out
          rw [show (i + 1).toNat = i.toNat + 1 from by omega, putB, Nat.zero_or] at this
          rw [show (8 * i).toNat = 8 * i.toNat from by omega, byte_atN, Int.toNat_natCast, ← this]
          exact Lib.hid (by simp)
        clear he
        go_wp2_with (at_builtin; refine wpList_app rfl _ _ rfl rfl (ho.alloc _) rfl (Rd.lit1 wr _ hx0 hx1) (by omega) (by simp; omega) ?_; intro v4 w4 ho4 hg4 hv4)
        go_roundw
        case rel => exact ⟨_, _, by omega, by omega, rfl, ho4, by rw [show (i - 1 + 1).toNat = i.toNat from by omega]; exact hstep, (bl_alloc hbl _).grown hg4 (bl_alloc hbl _).size (fun g hg => (World.ownsRow.lt ho g hg).1)⟩
        case measure => simp [intOf]; omega
      · go_wp2
        go_ret
        have := he.out
        rw [show (i + 1).toNat = 0 from by omega, putB, List.append_nil] at this
        subst this
        exact Gives.mk ho hbl

set_option maxHeartbeats 400000 in
theorem refBlock_any {A A2 : Option Addr} {k c k2 c2 : Nat} {l l2 : List UInt8} (w : World) (hr : Rd w w.heap.size A k c l) (hk : k ≤ 2147483648) (hr2 : Rd w w.heap.size A2 k2 c2 l2) (hk2 : k2 ≤ 2147483648) :
    Calls Try.prog 23 #[.slice A k c, .slice A2 k2 c2] w (Gives w (l ++ (numB l2.length ++ l2))) := by
  have hs := numSize_bd k2
  have hl := hr.len
  have hl2 := Lib.hid hr2.len
  have hn : (numB k2).length ≤ 9 := by rw [numB_length]; omega
  rw [hl2.out]
  go_enter Try.func23, Try.ntmps23
  go_wp2_with fail
  refine (refNumber_any k2 _ hr (by omega) (by omega)).mono ?_; rintro e w1 ⟨v1, rfl, ho1, hb1⟩
  go_wp2_with (at_builtin; refine wpList_app rfl _ _ rfl rfl ho1 rfl (hr2.below hb1) (by simp; omega) hb1.size ?_; intro v3 w3 ho3 hg3 hv3)
  go_ret
  rw [List.append_assoc] at ho3
  exact Gives.mk ho3 (hb1.grown hg3 hb1.size (fun g hg => (World.ownsRow.lt ho1 g hg).1))

set_option maxHeartbeats 400000 in
theorem refWord_any {A : Option Addr} {k c : Nat} {l : List UInt8} (n : Nat) (m : Int) (w : World) (hr : Rd w w.heap.size A k c l) (hk : k ≤ 2147483648) (_h1 : n < 18446744073709551616) :
    Calls Try.prog 24 #[.slice A k c, .int .u64 (n : Int), .int .i64 m] w (Gives w (l ++ wordB n (min (max m 1) 8).toNat)) := by
  have hl := hr.len
  obtain ⟨j, hj, hj1, hj8⟩ : ∃ j : Nat, (j : Int) = min (max m 1) 8 ∧ 1 ≤ j ∧ j ≤ 8 := ⟨(min (max m 1) 8).toNat, by omega, by omega, by omega⟩
  rw [← hj]
  have hJ : min (max m 1) 8 = (j : Int) := hj.symm
  clear hj
  have hb0 : Below w.heap.size w (w.alloc (.cells #[] 5)) := bl_alloc (bl0 w) _
  go_enter Try.func24, Try.ntmps24
  go_wp2_with (at_builtin; refine wpList_app rfl _ _ rfl rfl (Ow.lit w #[] [] rfl (by simp)) rfl (hr.below hb0) (by simp; omega) (by simp) ?_; intro v2 w2 ho2 hg2 hv2)
  rw [List.nil_append] at ho2
  have hb2 : Below w.heap.size w w2 := hb0.grown hg2 hb0.size (fun g hg => (World.ownsRow.lt (Ow.lit w #[] [] rfl (by simp)) g hg).1)
  clear hg2 hv2 hb0
  go_loopw [7, 8] (fun v i wr => ∃ t : Nat, t ≤ j ∧ i = .int .i64 (t : Int) ∧ Ow wr w.heap.size v (l ++ wordB n t) ∧ Below w.heap.size w wr) (fun _ i _ => j - (intOf i).toNat)
  case atStart => exact ⟨0, by omega, rfl, by simpa [wordB] using ho2, hb2⟩
  case round =>
    obtain ⟨t, ht, rfl, ho, hb⟩ := hrel
    have hbs := hb.size
    by_cases hlt : t < j
    · have hx0 : 0 ≤ (n : Int) / 2 ^ (8 * t) % 256 := Int.emod_nonneg _ (by omega)
      have hx1 : (n : Int) / 2 ^ (8 * t) % 256 < 256 := Int.emod_lt_of_pos _ (by omega)
      have hstep : Hid (l ++ wordB n t ++ [UInt8.ofNat ((n : Int) / 2 ^ (8 * t) % 256).toNat] = l ++ wordB n (t + 1)) := by
        rw [byte_atN, Int.toNat_natCast, wordB, wordB, List.range_succ, List.map_append, List.append_assoc]
        exact Lib.hid rfl
      have hw : (wordB n t).length = t := by simp [wordB]
      go_wp2_with (at_builtin; refine wpList_app rfl _ _ rfl rfl (ho.alloc _) rfl (Rd.lit1 wr _ hx0 hx1) (by simp; omega) (by simp; omega) ?_; intro v2 w2 ho2 hg2 hv2)
      go_roundw
      case rel => exact ⟨t + 1, by omega, by go_num, by rw [← hstep.out]; exact ho2, (bl_alloc hb _).grown hg2 (bl_alloc hb _).size (fun g hg => (World.ownsRow.lt ho g hg).1)⟩
      case measure => simp [intOf]; omega
    · obtain rfl : t = j := by omega
      go_wp2
      go_ret
      exact Gives.mk ho hb
end Go.Proofs.Ytilcgnghhfiflaa
