/- ShaRoots: a root is the greatest number of which the square is not above. -/
import Derived.Test.YtgpgolegedfjfaaRm
import Derived.Test.YtgpgolegedfjfaaLiv
namespace Go.Proofs.Ytgpgolegedfjfaa
open Go.RowKit Go.Shelf

theorem mul_any {x y : Int} {X Y hi lo : Nat} (hx : x = X) (hy : y = Y) (bx : X < 18446744073709551616) (bY : Y < 18446744073709551616) (h1 : X * Y / 18446744073709551616 = hi) (h2 : X * Y % 18446744073709551616 = lo) (w : World) :
    Calls Try.prog 8 #[.int .u64 x, .int .u64 y] w fun e w' => e = .returned (.tuple #[.int .u64 (hi : Int), .int .u64 (lo : Int)]) ∧ w' = w := by
  subst hx hy
  have := Try.bits_Mul64 X Y bx bY w
  rw [h1, h2] at this
  exact this
theorem add_any {x y c : Int} {X Y C s o : Nat} (hx : x = X) (hy : y = Y) (hc : c = C) (bc : C ≤ 1) (h1 : (X + Y + C) % 18446744073709551616 = s) (h2 : (X + Y + C) / 18446744073709551616 = o) (w : World) :
    (callFunc 9 #[.int .u64 x, .int .u64 y, .int .u64 c]).run Try.prog w = .ok (.value (.tuple #[.int .u64 (s : Int), .int .u64 (o : Int)])) w := by
  subst hx hy hc
  have h := Any7.bits_Add64 lays25 X Y C bc w
  rw [h1, h2] at h
  exact h

theorem twice_any {R R2 : Nat} (h : 2 * R % 18446744073709551616 = R2) : IntKind.u64.wrap (2 * (R : Int)) = (R2 : Int) := by rw [wrapU]; omega
theorem high_any {R ov : Nat} (h : R / 9223372036854775808 = ov) : (R : Int) / 9223372036854775808 = (ov : Int) := by omega
theorem square_any {s Q : Nat} (h : s * s = Q) (b : Q < 18446744073709551616) : IntKind.u64.wrap ((s : Int) * (s : Int)) = (Q : Int) := by
  have e : (Q : Int) = (s : Int) * (s : Int) := by rw [← h]; simp
  rw [← e, wrapN, Nat.mod_eq_of_lt b]
theorem sides_A {N Q tp c1 m1 lo : Nat} (h : tp + c1 < N - Q ∨ (tp + c1 = N - Q ∧ m1 = 0 ∧ lo = 0)) (hQ : Q ≤ N) :
    (tp : Int) + (c1 : Int) < (N : Int) - (Q : Int) ∨ ((tp : Int) + (c1 : Int) = (N : Int) - (Q : Int) ∧ ((m1 : Int) != 0) = false ∧ ((lo : Int) != 0) = false) := by
  rcases h with h | ⟨h, rfl, rfl⟩
  · exact Or.inl (by omega)
  · exact Or.inr ⟨by omega, rfl, rfl⟩
theorem sides_B {N Q tp c1 f g x y : Nat} (h : N - Q < tp + c1 + f + g ∨ (tp + c1 + f + g = N - Q ∧ x ≠ 0) ∨ (tp + c1 + f + g = N - Q ∧ x = 0 ∧ y ≠ 0)) (hQ : Q ≤ N) :
    (N : Int) - (Q : Int) < (tp : Int) + (c1 : Int) + (f : Int) + (g : Int) ∨ ((tp : Int) + (c1 : Int) + (f : Int) + (g : Int) = (N : Int) - (Q : Int) ∧ ((x : Int) != 0) = true) ∨
      ((tp : Int) + (c1 : Int) + (f : Int) + (g : Int) = (N : Int) - (Q : Int) ∧ ((x : Int) != 0) = false ∧ ((y : Int) != 0) = true) := by
  rcases h with h | ⟨h, hx⟩ | ⟨h, rfl, hy⟩
  · exact Or.inl (by omega)
  · exact Or.inr (Or.inl ⟨by omega, by rw [bne_iff_ne]; omega⟩)
  · exact Or.inr (Or.inr ⟨by omega, rfl, by rw [bne_iff_ne]; omega⟩)
/-- All that the law's second half reckons with. -/
theorem roots_parts (N s : Nat) (hN : N < 4294967296) (hs : s ≤ 65535) (hsq : s * s ≤ N) (hnx : N < (s + 1) * (s + 1))
    (hR0 : ∀ w, Calls Try.prog 7 #[.int .u64 (N : Int)] w fun e w' => e = .returned (.int .u64 ((behindT N 1).toNat : Int)) ∧ Below w.heap.size w w') :
    ∃ R Q hi lo tp md m1 c1 R2 ov x1 cc x e y1 f y g : Nat,
      Hid (∀ w, Calls Try.prog 8 #[.int .u64 (R : Int), .int .u64 (R : Int)] w fun e w' => e = .returned (.tuple #[.int .u64 (hi : Int), .int .u64 (lo : Int)]) ∧ w' = w) ∧
      Hid (∀ w, Calls Try.prog 8 #[.int .u64 (2 * (s : Int)), .int .u64 (R : Int)] w fun e w' => e = .returned (.tuple #[.int .u64 (tp : Int), .int .u64 (md : Int)]) ∧ w' = w) ∧
      Hid (∀ w, (callFunc 9 #[.int .u64 (md : Int), .int .u64 (hi : Int), .int .u64 0]).run Try.prog w = .ok (.value (.tuple #[.int .u64 (m1 : Int), .int .u64 (c1 : Int)])) w) ∧
      Hid (∀ w, (callFunc 9 #[.int .u64 (lo : Int), .int .u64 (R2 : Int), .int .u64 0]).run Try.prog w = .ok (.value (.tuple #[.int .u64 (x1 : Int), .int .u64 (cc : Int)])) w) ∧
      Hid (∀ w, (callFunc 9 #[.int .u64 (x1 : Int), .int .u64 1, .int .u64 0]).run Try.prog w = .ok (.value (.tuple #[.int .u64 (x : Int), .int .u64 (e : Int)])) w) ∧
      Hid (∀ w, (callFunc 9 #[.int .u64 (m1 : Int), .int .u64 (2 * (s : Int)), .int .u64 (cc : Int)]).run Try.prog w = .ok (.value (.tuple #[.int .u64 (y1 : Int), .int .u64 (f : Int)])) w) ∧
      Hid (∀ w, (callFunc 9 #[.int .u64 (y1 : Int), .int .u64 ((ov : Int) + (e : Int)), .int .u64 0]).run Try.prog w = .ok (.value (.tuple #[.int .u64 (y : Int), .int .u64 (g : Int)])) w) ∧
      IntKind.u64.wrap (2 * (R : Int)) = (R2 : Int) ∧ (R : Int) / 9223372036854775808 = (ov : Int) ∧ IntKind.u64.wrap ((s : Int) * (s : Int)) = (Q : Int) ∧
      tp ≤ 131072 ∧ c1 ≤ 1 ∧ cc ≤ 1 ∧ ov ≤ 1 ∧ e ≤ 1 ∧ f ≤ 1 ∧ g ≤ 1 ∧ Q ≤ N ∧
      Hid (tp + c1 < N - Q ∨ (tp + c1 = N - Q ∧ m1 = 0 ∧ lo = 0)) ∧ Hid (N - Q < tp + c1 + f + g ∨ (tp + c1 + f + g = N - Q ∧ x ≠ 0) ∨ (tp + c1 + f + g = N - Q ∧ x = 0 ∧ y ≠ 0)) ∧
      Hid (∀ w, Calls Try.prog 7 #[.int .u64 (N : Int)] w fun e w' => e = .returned (.int .u64 (R : Int)) ∧ Below w.heap.size w w') := by
  obtain ⟨T, hT1, hT2, hTR⟩ := root_val N hN
  have hTW := two_words N s T _ hsq hnx hT1 hT2 hTR
  generalize (behindT N 1).toNat = R at hTR hTW hR0
  have hRlt : R < 18446744073709551616 := by rw [hTR]; exact Nat.mod_lt _ (by decide)
  rw [hTW] at hT1 hT2
  have h2s : 2 * s < 18446744073709551616 := by clear hT1 hT2 hTW hTR hsq hnx; omega
  have hQ2 : s * s < 18446744073709551616 := by clear hT1 hT2 hTW hTR hnx; omega
  obtain ⟨hi, lo, tp, md, m1, c1, R2, ov, x1, cc, x, e, y1, f, y, g, p1, p2, p3, p4, p5, p6, p7, p8, p9, p10, p11, p12, p13, p14, p15, p16, u1, u2, u3, u4, u5, u6, u7, u8, hA, hB⟩ := law_parts N s R hN hs hRlt hsq hT1 hT2
  exact ⟨R, s * s, hi, lo, tp, md, m1, c1, R2, ov, x1, cc, x, e, y1, f, y, g, Lib.hid (mul_any rfl rfl hRlt hRlt p1 p2), Lib.hid (mul_any (X := 2 * s) (by simp) rfl h2s hRlt p3 p4),
    Lib.hid (add_any (C := 0) rfl rfl rfl (by decide) p5 p6), Lib.hid (add_any (C := 0) rfl rfl rfl (by decide) p9 p10), Lib.hid (add_any (Y := 1) (C := 0) rfl rfl rfl (by decide) p11 p12),
    Lib.hid (add_any (Y := 2 * s) rfl (by simp) rfl u4 p13 p14), Lib.hid (add_any (Y := ov + e) (C := 0) rfl (by simp) rfl (by decide) p15 p16),
    twice_any p7, high_any p8, square_any rfl hQ2, u2, u3, u4, u5, u6, u7, u8, hsq, Lib.hid hA, Lib.hid hB, Lib.hid hR0⟩

set_option maxHeartbeats 1600000 in
set_option maxRecDepth 8192 in
theorem ShaRoots_walk (n : Int) (w : World) (h0 : 0 ≤ n) (h1 : n ≤ 4294967295) : Calls Try.prog 3 #[.int .u32 n] w fun e w' => e = .returned (.bool true) ∧ Below w.heap.size w w' := by
  obtain ⟨N, rfl⟩ := Int.eq_ofNat_of_zero_le h0
  have hN : N < 4294967296 := by omega
  have hR0 : Hid (∀ w, Calls Try.prog 7 #[.int .u64 (N : Int)] w fun e w' => e = .returned (.int .u64 ((behindT N 1).toNat : Int)) ∧ Below w.heap.size w w') := Lib.hid (fun w => by
    have := Root_any (UInt64.ofNat N) w
    rw [toNat_of (show N < 18446744073709551616 by omega)] at this
    exact this)
  go_enter Try.func3, Try.ntmps3
  go_wp2_with fail
  refine (lives_any _).mono ?_; rintro e w1 ⟨rfl, hb1⟩
  have HBW := Lib.hid hb1
  clear hb1
  go_wp2_with fail
  go_loopw [3] (fun v3 wr => ∃ s : Nat, s ≤ 65535 ∧ v3 = .int .u64 (s : Int) ∧ Hid (s * s ≤ N) ∧ Hid (Below w.heap.size w wr)) (fun v3 _ => 65535 - (intOf v3).toNat)
  case atStart => exact ⟨0, by omega, rfl, Lib.hid (by omega), HBW⟩
  case round =>
    clear HBW
    obtain ⟨s, hs, rfl, HSQ, HBW⟩ := hrel
    have hsI : (s : Int) ≤ 65535 := by omega
    by_cases hlt : s < 65535
    · have hltI : (s : Int) < 65535 := by omega
      obtain ⟨Q1, hQ1⟩ : ∃ Q1, (s + 1) * (s + 1) = Q1 := ⟨_, rfl⟩
      have hQ1b : Q1 ≤ 65536 * 65536 := by rw [← hQ1]; exact Nat.mul_le_mul (by omega) (by omega)
      have e1 : IntKind.u64.wrap (((s : Int) + 1) * ((s : Int) + 1)) = (Q1 : Int) := by
        rw [show ((s : Int) + 1) * ((s : Int) + 1) = ((Q1 : Nat) : Int) from by rw [← hQ1]; simp, wrapN, Nat.mod_eq_of_lt (by omega)]
      have HQ1 := Lib.hid hQ1
      clear hQ1
      by_cases hq : Q1 ≤ N
      · go_wp2
        go_loopw [4] (fun v4 wz => ∃ p : Nat, 1 ≤ p ∧ s + p ≤ 65535 ∧ v4 = .int .u64 (p : Int) ∧ Hid ((s + p) * (s + p) ≤ N) ∧ Hid (Below w.heap.size w wz)) (fun v4 _ => 65536 - (intOf v4).toNat)
        case atStart => exact ⟨1, by omega, by omega, rfl, Lib.hid (by rw [HQ1.out]; exact hq), HBW⟩
        case round =>
          clear HBW
          obtain ⟨p, hp, hsp, rfl, HSP, HBW⟩ := hrel
          obtain ⟨Q2, hQ2⟩ : ∃ Q2, (s + 2 * p) * (s + 2 * p) = Q2 := ⟨_, rfl⟩
          have hQ2b : Q2 ≤ 131070 * 131070 := by rw [← hQ2]; exact Nat.mul_le_mul (by omega) (by omega)
          have e2 : IntKind.u64.wrap (((s : Int) + 2 * (p : Int)) * ((s : Int) + 2 * (p : Int))) = (Q2 : Int) := by
            rw [show ((s : Int) + 2 * (p : Int)) * ((s : Int) + 2 * (p : Int)) = ((Q2 : Nat) : Int) from by rw [← hQ2]; simp, wrapN, Nat.mod_eq_of_lt (by omega)]
          by_cases hq2 : Q2 ≤ N
          · have hsp2 : s + 2 * p ≤ 65535 := by
              rcases Nat.lt_or_ge 65535 (s + 2 * p) with h | h
              · have := Nat.mul_le_mul h h
                rw [hQ2] at this
                omega
              · exact h
            have HQ2 := Lib.hid hQ2
            clear hQ2
            go_wp2
            go_roundw
            case rel => exact ⟨2 * p, by omega, hsp2, val_int (by omega), Lib.hid (by rw [HQ2.out]; exact hq2), HBW⟩
            case measure => simp [intOf]; omega
          · clear hQ2
            go_wp2
            go_roundw
            case rel => exact ⟨s + p, hsp, val_int (by omega), HSP, HBW⟩
            case measure => simp [intOf]; omega
      · have hqI : ¬ (Q1 : Int) ≤ (N : Int) := by omega
        have hsq := HSQ.out
        have hnx : N < (s + 1) * (s + 1) := by rw [HQ1.out]; omega
        clear HSQ hq HQ1
        obtain ⟨R, Q, hi, lo, tp, md, m1, c1, R2, ov, x1, cc, x, e, y1, f, y, g, K1, K2, A1, A2, A3, A4, A5, w1, w2, w3, u2, u3, u4, u5, u6, u7, u8, HQ, HA, HB, HRC⟩ := roots_parts N s hN hs hsq hnx hR0.out
        have a1 := A1.out
        have a2 := A2.out
        have a3 := A3.out
        have a4 := A4.out
        have a5 := A5.out
        clear A1 A2 A3 A4 A5 hsq hnx hR0 hs hlt
        go_wp2_with fail
        refine (HRC.out _).mono ?_; rintro e' w5 ⟨rfl, hb5⟩
        have HB5 := Lib.hid (bl_call HBW.out hb5)
        clear hb5
        try clear hltI hQ1b e1 hqI
        go_wp2_with fail
        refine (K1.out _).mono ?_; rintro e' w6 ⟨rfl, rfl⟩
        go_wp2_with fail
        refine (K2.out _).mono ?_; rintro e' w7 ⟨rfl, rfl⟩
        rcases sides_A HA.out HQ with hA | ⟨hA, b1, b2⟩
        all_goals
          rcases sides_B HB.out HQ with hB | ⟨hB, b3⟩ | ⟨hB, b3, b4⟩
          all_goals
            go_wp2_with (first | simp only [a1] | simp only [a2] | simp only [a3] | simp only [a4] | simp only [a5])
            go_ret
            exact ⟨rfl, HB5.out⟩
    · have hsq := HSQ.out
      have hnlt : ¬ (s : Int) < 65535 := by omega
      have hnx : N < (s + 1) * (s + 1) := by
        obtain rfl : s = 65535 := by omega
        omega
      clear HSQ
      obtain ⟨R, Q, hi, lo, tp, md, m1, c1, R2, ov, x1, cc, x, e, y1, f, y, g, K1, K2, A1, A2, A3, A4, A5, w1, w2, w3, u2, u3, u4, u5, u6, u7, u8, HQ, HA, HB, HRC⟩ := roots_parts N s hN hs hsq hnx hR0.out
      have a1 := A1.out
      have a2 := A2.out
      have a3 := A3.out
      have a4 := A4.out
      have a5 := A5.out
      clear A1 A2 A3 A4 A5 hsq hnx hR0 hs hlt
      go_wp2_with fail
      refine (HRC.out _).mono ?_; rintro e' w5 ⟨rfl, hb5⟩
      have HB5 := Lib.hid (bl_call HBW.out hb5)
      clear hb5
      try clear hltI hQ1b e1 hqI
      go_wp2_with fail
      refine (K1.out _).mono ?_; rintro e' w6 ⟨rfl, rfl⟩
      go_wp2_with fail
      refine (K2.out _).mono ?_; rintro e' w7 ⟨rfl, rfl⟩
      rcases sides_A HA.out HQ with hA | ⟨hA, b1, b2⟩
      all_goals
        rcases sides_B HB.out HQ with hB | ⟨hB, b3⟩ | ⟨hB, b3, b4⟩
        all_goals
          go_wp2_with (first | simp only [a1] | simp only [a2] | simp only [a3] | simp only [a4] | simp only [a5])
          go_ret
          exact ⟨rfl, HB5.out⟩
end Go.Proofs.Ytgpgolegedfjfaa
