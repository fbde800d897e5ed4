/- A journal: JournalRoom, its walk. -/
import Derived.Test.YtgpfognglpfmoaaGreatDoorZ36
set_option linter.unusedSimpArgs false
set_option linter.unusedVariables false
namespace Go.Proofs.YtgpfognglpfmoaaGreatDoor
set_option maxRecDepth 8192
set_option linter.unusedSimpArgs false
set_option linter.unusedVariables false
open Go.RowKit Go.Maps

theorem stp_sep {F F' : Nat → Prop} {w w' : World} {b0 t : Nat} (s : Stp F F' w w') (h : ∀ k, F k → k < b0 ∨ t ≤ k) (ht : t ≤ w.heap.size) : ∀ k, F' k → k < b0 ∨ t ≤ k := fun k e => by
  rcases s.2 k e with h1 | h1
  · exact h k h1
  · exact .inr (by omega)
theorem recsB_len_snoc (S : List UInt8) (rs : List (UInt8 × List UInt8)) (k : UInt8) (d : List UInt8) : (recsB S (rs ++ [(k, d)])).length = (recsB S rs).length + (1 + (numSize d.length + d.length) + 8) := by
  rw [recsB_append, List.length_append]
  simp [recsB, recB_length]
set_option maxHeartbeats 12800000 in
theorem JournalRoom_walk (a0 : Int) (A : Option Addr) (n c : Nat) (l : List Av) (a2 : Int) (w : World) (hx0 : -9223372036854775808 ≤ a0) (hx1 : a0 ≤ 9223372036854775807) (u : Ai w w.heap.size A n c l) (hy0 : -9223372036854775808 ≤ a2) (hy1 : a2 ≤ 9223372036854775807) :
    Calls Tryz.prog 6 #[.int .i64 a0, .slice A n c, .int .i64 a2] w fun e w' => e = .returned (.bool true) ∧ Below w.heap.size w w' := by
  have HU := Lib.hid u
  have HP12 := Lib.hid (fun (W : World) => Pick_any a0 12 (by omega) (by omega) W)
  rw [show ((12 : Nat) : Int) = 12 from rfl] at HP12
  have HLA := Lib.hid (fun (W : World) (A : Option Addr) (n c : Nat) (hn : n ≤ 900000) => last_any W A n c a2 hn)
  clear u hx0 hx1 hy0 hy1
  go_enter Tryz.func6, Tryz.ntmps6
  go_wp2_with fail
  refine (lives_any w).mono ?_
  rintro e w1 ⟨rfl, hb1⟩
  have HB1 := Lib.hid hb1
  have HU1 := Lib.hid (HU.out.below hb1)
  clear hb1
  go_wp2_with fail
  have HSM := Lib.hid (small_any w1 HU1.out)
  by_cases hf : ¬ few l
  · rw [decide_eq_false hf] at HSM
    refine HSM.out.mono ?_; rintro e w' ⟨rfl, hw⟩; subst w'
    go_wp2
    go_ret
    exact ⟨rfl, HB1.out⟩
  have hf := Decidable.not_not.1 hf
  rw [decide_eq_true hf] at HSM
  refine HSM.out.mono ?_; rintro e w' ⟨rfl, hw⟩; subst w'
  have HFW := Lib.hid hf
  have hn40 : n ≤ 40 := by have := hf.1; have := HU.out.1; omega
  clear hf HSM
  go_wp2_with fail
  refine (HP12.out w1).mono ?_; rintro e w' ⟨⟨r, hr, rfl⟩, hw⟩; subst w'
  obtain ⟨a, ha⟩ : ∃ a : Nat, (a : Int) = 1 + (r : Int) := ⟨1 + r, by omega⟩
  have ha1 : 1 ≤ a := by omega
  have ha12 : a ≤ 12 := by omega
  have haI : (a : Int) ≤ 12 := by omega
  have haJ : (1 : Int) ≤ (a : Int) := by omega
  have HSE := Lib.hid (Sectors_any (a : Int) w1)
  have hsn := sectN_ok (a := (a : Int)) (by omega) (by omega)
  generalize sectN (a : Int) = N at HSE hsn
  have HSN := Lib.hid (show N = 2 + 2 * a by omega)
  have HNW := Lib.hid (new_any w1 N (by omega) (by omega))
  have HA := Lib.hid ha
  clear hsn ha
  go_wp2_with fail
  rw [← HA.out]
  refine HSE.out.mono ?_; rintro e w' ⟨rfl, hw⟩; subst w'
  go_wp2_with fail
  refine HNW.out.mono ?_
  rintro e w2 ⟨p, s, m, rfl, hd2, hi2, hb2⟩
  have hNl : (noC N).length = N := noC_len N
  generalize zs (N * 256) = B0 at hd2
  generalize noC N = C0 at hd2 hNl
  have hw1 := HB1.out.size
  have hlo : ∀ k, k = s ∨ k = m → w.heap.size ≤ k := fun k hk => by obtain ⟨h1, h2, h3⟩ := hi2; omega
  have HLO := Lib.hid hlo
  have HLP := Lib.hid (show w.heap.size ≤ p by obtain ⟨h1, h2, h3⟩ := hi2; omega)
  have HF := Lib.hid (Format_j (area := a) hd2 ha1 (by omega) (by rw [hNl]; exact Nat.le_of_eq HSN.out.symm))
  have HHZ := Lib.hid (Hz.format (area := a) hd2.hC hd2.hB (by rw [hNl]; exact Nat.le_of_eq HSN.out.symm))
  rw [hNl] at HF HHZ
  have HB2 := Lib.hid (bl_call HB1.out hb2)
  clear hd2 hi2 hb2 hlo HNW HSE
  go_wp2_with fail
  refine HF.out.mono ?_
  rintro e w3 ⟨J, L, rfl, hj3, hJ3, hL3, hk3⟩
  generalize begB B0 (C0.set 1 (some (List.replicate 256 0))) 0 a [] = BB at *
  have HB3 := Lib.hid (bl_dk (p := p) (s := s) (m := m) HB2.out hk3 HLO.out)
  have HF3 := Lib.hid (show ∀ k, jF J p s m L (.slice none 0 0) k → w.heap.size ≤ k from fun k hk => by
    have hw2 := HB2.out.size
    have h1 := HLP.out
    rcases hk with (rfl | rfl | hk) | rfl | hk
    · omega
    · omega
    · exact HLO.out k hk
    · omega
    · cases hk)
  have HLE := Lib.hid (Left_j hj3)
  rw [show ((a * 256 - (recsB (fstC 0) []).length : Nat) : Int) = (a : Int) * 256 from by simp [recsB]] at HLE
  clear hj3 hk3 HF HB2
  go_wp2_with fail
  refine HLE.out.mono ?_
  rintro e w4 ⟨v4, rfl, hj4, hst4⟩
  obtain ⟨hb4, hf4⟩ := bl_stp HB3.out HF3.out hst4
  have HJ4 := Lib.hid hj4
  have HB4 := Lib.hid hb4
  have HF4 := Lib.hid hf4
  clear hj4 hst4 hb4 hf4 HB3 HF3 HLE
  go_wp2
  go_loopw [11] (fun vi wr => ∃ (i : Nat) (rs : List (UInt8 × List UInt8)) (v : Value) (C : Ca), i ≤ n ∧ vi = .int .i64 (i : Int) ∧ Hid (Jd wr J p s m L v a 0 rs 0 BB C) ∧ Hid (Hz BB C a 0) ∧ Hid (C.length = N) ∧ Hid (∀ k, jF J p s m L v k → w.heap.size ≤ k) ∧ Hid (rs.length ≤ i) ∧ Hid (Below w.heap.size w wr)) (fun vi _ => n - (intOf vi).toNat)
  case atStart => exact ⟨0, [], v4, noC N, by omega, rfl, HJ4, HHZ, Lib.hid (noC_len N), HF4, Lib.hid (by simp), HB4⟩
  case round =>
    clear HJ4 HHZ HB4 HF4
    obtain ⟨i, rs, v, C, hi, rfl, HJ, HZ, HCL, HFF, HRL, HB⟩ := hrel
    by_cases hlt : i < n
    · obtain ⟨ad, x, rfl, hx, hm, ho, c0, c1, c2, c3, c4⟩ := (HU.out.below HB.out).at_ hlt
      have hxf := HFW.out.2 x hm
      have hd7 : x.a.d.length ≤ 700 := hxf.1
      have hbw := HB.out.size
      have hba := bl_alloc (bl0 wr) (.cells #[.int .u8 (x.a.k.toNat : Int), .slice x.A x.a.d.length x.c] 33)
      have HBK := Lib.hid (Bk.new wr [.int .u8 (x.a.k.toNat : Int), .slice x.A x.a.d.length x.c] 33)
      have HJA := Lib.hid (HJ.out.old hba)
      have HBA := Lib.hid (bl_call HB.out hba)
      have HRA := Lib.hid ((ho.1.below (hba.mono hbw)).more (Nat.le_trans hbw hba.size))
      have HGF := Lib.hid (show ¬ jF J p s m L v wr.heap.size from fun h => by have := HJ.out.lt _ h; omega)
      have hm0 := hm
      clear hba ho hm hx hxf c3 c4 c0
      have hox := HU.out.2.2.1 x hm0
      obtain ⟨LF, hLF⟩ : ∃ LF : Nat, a * 256 - (recsB (fstC 0) rs).length = LF := ⟨_, rfl⟩
      obtain ⟨SZ, hSZ⟩ : ∃ SZ : Nat, (if x.a.k ≠ 0 ∧ x.a.d.length ≤ 8192 then 1 + (numSize x.a.d.length + x.a.d.length) + 8 else 0 : Nat) = SZ := ⟨_, rfl⟩
      have HLF := Lib.hid hLF
      have HSZ := Lib.hid hSZ
      have HQS := Lib.hid (fun (W : World) (hB : Below w.heap.size w W) => by have h := QSize_any (k := x.a.k) W ((hox.1.below hB).more hB.size); rw [hSZ] at h; exact h)
      have HOW := Lib.hid (fun (W : World) (hB : Below w.heap.size w W) => Own_any W ((hox.1.below hB).more hB.size) (by omega))
      have hLFb : (LF : Int) ≤ 3072 := by omega
      have hSZb : (SZ : Int) ≤ 720 := by
        have := numSize_bd x.a.d.length
        rw [← hSZ]
        split <;> omega
      clear hLF hSZ hox hm0
      go_wp2_with fail
      obtain ⟨wa, hwa⟩ : ∃ wa, wa = wr.alloc (.cells #[.int .u8 (x.a.k.toNat : Int), .slice x.A x.a.d.length x.c] 33) := ⟨_, rfl⟩
      obtain ⟨g, hg⟩ : ∃ g, g = wr.heap.size := ⟨_, rfl⟩
      rw [← hwa] at HBK HJA HBA HRA ⊢
      rw [← hg] at HBK HGF ⊢
      clear hwa hg c1 c2 HJ HB HRA
      have hR := Kp.stays (jF J p s m L v)
      refine reg_start (Kp (jF J p s m L v)) follows_mixed ?_
      have HJD := Lib.hid (HJA.out.old (Below.refl _ wa).drew)
      have HBD := Lib.hid HBA.out.drew
      have HKD := Lib.hid HBK.out.drew
      have HLD := Lib.hid (Left_j HJD.out)
      rw [HLF.out] at HLD
      clear HJA HBA HBK
      refine reg_take (v := pt0 J) hR 0 rfl (by kernel_rfl) (by kernel_rfl) (by kernel_rfl) (fun _ _ _ h => h) (by rfl) ?_ ?_
      · intro W hW; go_simp; try with_reducible rfl
      try simp only [Act.put, List.getElem_toArray, List.getElem_cons_succ, List.getElem_cons_zero, List.setIfInBounds_toArray, List.set_cons_zero, List.set_cons_succ]
      refine reg_take (v := .agg #[.int .u8 (x.a.k.toNat : Int), .slice x.A x.a.d.length x.c]) hR 2 rfl (by kernel_rfl) (by kernel_rfl) (by kernel_rfl) (fun _ _ _ h => h) (by rfl) ?_ ?_
      · intro W hW; exact exec_load_at 33 _ rfl ⟨g, 0, none⟩ rfl [.int .u8 (x.a.k.toNat : Int), .slice x.A x.a.d.length x.c] _ (HKD.out.kp hW HGF.out).at_ Tryz.underlying33 rfl info31
      try simp only [Act.put, List.getElem_toArray, List.getElem_cons_succ, List.getElem_cons_zero, List.setIfInBounds_toArray, List.set_cons_zero, List.set_cons_succ]
      refine reg_step hR 1 (by kernel_rfl) rfl fun K hK => ?_
      try simp only [Act.put, List.getElem_toArray, List.getElem_cons_succ, List.getElem_cons_zero, List.setIfInBounds_toArray, List.set_cons_zero, List.set_cons_succ]
      rw [if_pos (by rfl)]
      go_simp
      refine HLD.out.mono ?_; rintro e w5 ⟨v5, rfl, hj5, hst5⟩
      refine hK.out _ _ hst5.1 ?_
      obtain ⟨hb5, hf5⟩ := bl_stp (w0 := w) HBD.out HFF.out hst5
      have HJ5 := Lib.hid hj5
      have HB5 := Lib.hid hb5
      have HF5 := Lib.hid hf5
      have HK5 := Lib.hid (HKD.out.kp hst5.1 HGF.out)
      have HG5 := Lib.hid (hst5.not HKD.out.lt HGF.out)
      clear hj5 hst5 hb5 hf5 HLD HJD HBD HKD
      clear hK K
      try simp only [Act.put, List.getElem_toArray, List.getElem_cons_succ, List.getElem_cons_zero, List.setIfInBounds_toArray, List.set_cons_zero, List.set_cons_succ]
      refine reg_step hR 3 (by kernel_rfl) rfl fun K hK => ?_
      try simp only [Act.put, List.getElem_toArray, List.getElem_cons_succ, List.getElem_cons_zero, List.setIfInBounds_toArray, List.set_cons_zero, List.set_cons_succ]
      rw [if_pos (by rfl)]
      go_simp
      refine (HQS.out _ HB5.out).mono ?_; rintro e w6 ⟨rfl, hb6⟩
      refine hK.out _ _ (Kp.of_old hb6) ?_
      have HJ6 := Lib.hid (HJ5.out.old hb6)
      have HB6 := Lib.hid (bl_call HB5.out hb6)
      have HK6 := Lib.hid (HK5.out.keep hb6)
      clear hb6 HJ5 HB5 HK5
      clear hK K
      try simp only [Act.put, List.getElem_toArray, List.getElem_cons_succ, List.getElem_cons_zero, List.setIfInBounds_toArray, List.set_cons_zero, List.set_cons_succ]
      refine reg_take (v := .int .i64 (LF : Int)) hR 4 rfl (by kernel_rfl) (by kernel_rfl) (by kernel_rfl) (fun _ _ _ h => h) (by rfl) ?_ ?_
      · intro W hW; go_simp; try with_reducible rfl
      try simp only [Act.put, List.getElem_toArray, List.getElem_cons_succ, List.getElem_cons_zero, List.setIfInBounds_toArray, List.set_cons_zero, List.set_cons_succ]
      refine reg_take (v := .int .i64 (SZ : Int)) hR 5 rfl (by kernel_rfl) (by kernel_rfl) (by kernel_rfl) (fun _ _ _ h => h) (by rfl) ?_ ?_
      · intro W hW; go_simp; try with_reducible rfl
      try simp only [Act.put, List.getElem_toArray, List.getElem_cons_succ, List.getElem_cons_zero, List.setIfInBounds_toArray, List.set_cons_zero, List.set_cons_succ]
      refine reg_done (by kernel_rfl) ?_ _
      go_wp2_with fail
      have hR := Kp.stays (jF J p s m L v5)
      refine reg_start (Kp (jF J p s m L v5)) follows_mixed ?_
      have HJD := Lib.hid (HJ6.out.old (Below.refl _ w6).drew)
      have HBD := Lib.hid HB6.out.drew
      have HKD := Lib.hid HK6.out.drew
      clear HJ6 HB6 HK6
      refine reg_take (v := pt0 J) hR 0 rfl (by kernel_rfl) (by kernel_rfl) (by kernel_rfl) (fun _ _ _ h => h) (by rfl) ?_ ?_
      · intro W hW; go_simp; try with_reducible rfl
      try simp only [Act.put, List.getElem_toArray, List.getElem_cons_succ, List.getElem_cons_zero, List.setIfInBounds_toArray, List.set_cons_zero, List.set_cons_succ]
      refine reg_take (v := .pointer (some ⟨g, 0, none⟩)) hR 1 rfl (by kernel_rfl) (by kernel_rfl) (by kernel_rfl) (fun _ _ _ h => h) (by rfl) ?_ ?_
      · intro W hW; go_simp; try with_reducible rfl
      try simp only [Act.put, List.getElem_toArray, List.getElem_cons_succ, List.getElem_cons_zero, List.setIfInBounds_toArray, List.set_cons_zero, List.set_cons_succ]
      refine reg_take (v := .int .u8 (x.a.k.toNat : Int)) hR 2 rfl (by kernel_rfl) (by kernel_rfl) (by kernel_rfl) (fun _ _ _ h => h) (by rfl) ?_ ?_
      · intro W hW; exact exec_load_cell 5 _ rfl Tryz.isAgg5 rfl ((HKD.out.kp hW HG5.out).cell (k := 0) rfl)
      try simp only [Act.put, List.getElem_toArray, List.getElem_cons_succ, List.getElem_cons_zero, List.setIfInBounds_toArray, List.set_cons_zero, List.set_cons_succ]
      refine reg_take (v := .pointer (some ⟨g, 1, none⟩)) hR 3 rfl (by kernel_rfl) (by kernel_rfl) (by kernel_rfl) (fun _ _ _ h => h) (by rfl) ?_ ?_
      · intro W hW; go_simp; try with_reducible rfl
      try simp only [Act.put, List.getElem_toArray, List.getElem_cons_succ, List.getElem_cons_zero, List.setIfInBounds_toArray, List.set_cons_zero, List.set_cons_succ]
      refine reg_take (v := .slice x.A x.a.d.length x.c) hR 4 rfl (by kernel_rfl) (by kernel_rfl) (by kernel_rfl) (fun _ _ _ h => h) (by rfl) ?_ ?_
      · intro W hW; exact exec_load_cell 31 _ rfl Tryz.isAgg31 rfl ((HKD.out.kp hW HG5.out).cell (k := 1) rfl)
      try simp only [Act.put, List.getElem_toArray, List.getElem_cons_succ, List.getElem_cons_zero, List.setIfInBounds_toArray, List.set_cons_zero, List.set_cons_succ]
      refine reg_step hR 5 (by kernel_rfl) rfl fun K hK => ?_
      try simp only [Act.put, List.getElem_toArray, List.getElem_cons_succ, List.getElem_cons_zero, List.setIfInBounds_toArray, List.set_cons_zero, List.set_cons_succ]
      rw [if_pos (by rfl)]
      go_simp
      refine (HOW.out _ HBD.out).mono ?_; rintro e w7 ⟨v7, rfl, ho7, hb7⟩
      refine hK.out _ _ (Kp.of_old hb7) ?_
      obtain ⟨A7, c7, rfl, hr7⟩ := ho7.rd
      have HR7 := Lib.hid hr7
      have HA7 := Lib.hid (show ∀ ad, A7 = some ad → ¬ jF J p s m L v5 ad.block from fun a e h => by have h1 := (World.ownsRow.lt ho7 a.block (by rw [e]; rfl)).1; have h2 := HJD.out.lt _ h; omega)
      have HJ7 := Lib.hid (HJD.out.old hb7)
      have HB7 := Lib.hid (bl_call HBD.out hb7)
      clear ho7 hb7 hr7 HJD HBD HKD
      clear hK K
      try simp only [Act.put, List.getElem_toArray, List.getElem_cons_succ, List.getElem_cons_zero, List.setIfInBounds_toArray, List.set_cons_zero, List.set_cons_succ]
      refine reg_take (v := .agg #[.int .u8 (x.a.k.toNat : Int), .slice A7 x.a.d.length c7]) hR 6 rfl (by kernel_rfl) (by kernel_rfl) (by kernel_rfl) (fun _ _ _ h => h) (by rfl) ?_ ?_
      · intro W hW; go_simp; try with_reducible rfl
      try simp only [Act.put, List.getElem_toArray, List.getElem_cons_succ, List.getElem_cons_zero, List.setIfInBounds_toArray, List.set_cons_zero, List.set_cons_succ]
      refine reg_step hR 7 (by kernel_rfl) rfl fun K hK => ?_
      try simp only [Act.put, List.getElem_toArray, List.getElem_cons_succ, List.getElem_cons_zero, List.setIfInBounds_toArray, List.set_cons_zero, List.set_cons_succ]
      rw [if_pos (by rfl)]
      go_simp
      refine (Append_all HJ7.out HZ.out x.a.k x.a.d HR7.out HA7.out).mono ?_; rintro e w8 ⟨ev, v8, rs8, C8, rfl, hst8, hj8, hcl8, hz8, hapd⟩
      refine hK.out _ _ hst8.1 ?_
      obtain ⟨hb8, hf8⟩ := bl_stp (w0 := w) HB7.out HF5.out hst8
      have HJ8 := Lib.hid hj8
      have HB8 := Lib.hid hb8
      have HF8 := Lib.hid hf8
      have HC8 := Lib.hid (hcl8.trans HCL.out)
      have HZ8 := Lib.hid hz8
      have HAP := Lib.hid hapd
      clear hj8 hst8 hb8 hf8 hcl8 hz8 hapd HJ7 HB7 HR7 HA7 HF5
      clear hK K
      try simp only [Act.put, List.getElem_toArray, List.getElem_cons_succ, List.getElem_cons_zero, List.setIfInBounds_toArray, List.set_cons_zero, List.set_cons_succ]
      refine reg_take (v := .int .i64 ev) hR 8 rfl (by kernel_rfl) (by kernel_rfl) (by kernel_rfl) (fun _ _ _ h => h) (by rfl) ?_ ?_
      · intro W hW; go_simp; try with_reducible rfl
      try simp only [Act.put, List.getElem_toArray, List.getElem_cons_succ, List.getElem_cons_zero, List.setIfInBounds_toArray, List.set_cons_zero, List.set_cons_succ]
      refine reg_done (by kernel_rfl) ?_ _
      have hfl := HJ8.out.hf
      have hsn := recsB_len_snoc (fstC 0) rs x.a.k x.a.d
      have hLF := HLF.out
      have hSZ := HSZ.out
      rcases HAP.out with ⟨hbad, rfl, hrs⟩ | ⟨hv, hlen, rfl, hrs⟩ | ⟨hv, hlen, rfl, hrs⟩
      · rw [hrs] at HJ8
        clear hrs
        rw [if_neg hbad] at hSZ
        subst hSZ
        have HLE := Lib.hid (Left_j HJ8.out)
        rw [HLF.out] at HLE
        clear hLF hsn hfl hbad
        go_wp2_with fail
        refine HLE.out.mono ?_; rintro e w9 ⟨v9, rfl, hj9, hst9⟩
        obtain ⟨hb9, hf9⟩ := bl_stp (w0 := w) HB8.out HF8.out hst9
        have HJ9 := Lib.hid hj9
        have HB9 := Lib.hid hb9
        have HF9 := Lib.hid hf9
        clear hj9 hst9 hb9 hf9
        go_wp2
        go_roundw
        case rel => exact ⟨i + 1, rs, v9, C8, by omega, by go_num, HJ9, HZ8, HC8, HF9, Lib.hid (by have := HRL.out; omega), HB9⟩
        case measure => simp [intOf]; omega
      · rw [hrs] at HJ8
        rw [hrs] at hfl
        clear hrs
        rw [if_pos (show x.a.k ≠ 0 ∧ x.a.d.length ≤ 8192 from hv)] at hSZ
        have hz0 : ((SZ : Int) == 0) = false := by rw [beq_eq_false_iff_ne]; omega
        have hgt : (SZ : Int) > (LF : Int) := by omega
        have HLE := Lib.hid (Left_j HJ8.out)
        rw [HLF.out] at HLE
        clear hLF hsn hfl hv hlen hSZ
        go_wp2_with fail
        refine HLE.out.mono ?_; rintro e w9 ⟨v9, rfl, hj9, hst9⟩
        obtain ⟨hb9, hf9⟩ := bl_stp (w0 := w) HB8.out HF8.out hst9
        have HJ9 := Lib.hid hj9
        have HB9 := Lib.hid hb9
        have HF9 := Lib.hid hf9
        clear hj9 hst9 hb9 hf9
        go_wp2
        go_roundw
        case rel => exact ⟨i + 1, rs, v9, C8, by omega, by go_num, HJ9, HZ8, HC8, HF9, Lib.hid (by have := HRL.out; omega), HB9⟩
        case measure => simp [intOf]; omega
      · rw [hrs] at HJ8
        rw [hrs] at hfl
        clear hrs
        rw [if_pos (show x.a.k ≠ 0 ∧ x.a.d.length ≤ 8192 from hv)] at hSZ
        have hz0 : ((SZ : Int) == 0) = false := by rw [beq_eq_false_iff_ne]; omega
        have hgt : ¬ ((SZ : Int) > (LF : Int)) := by omega
        have HLE := Lib.hid (Left_j HJ8.out)
        rw [show ((a * 256 - (recsB (fstC 0) (rs ++ [(x.a.k, x.a.d)])).length : Nat) : Int) = (LF : Int) - (SZ : Int) by omega] at HLE
        clear hLF hsn hfl hv hlen hSZ
        go_wp2_with fail
        refine HLE.out.mono ?_; rintro e w9 ⟨v9, rfl, hj9, hst9⟩
        obtain ⟨hb9, hf9⟩ := bl_stp (w0 := w) HB8.out HF8.out hst9
        have HJ9 := Lib.hid hj9
        have HB9 := Lib.hid hb9
        have HF9 := Lib.hid hf9
        clear hj9 hst9 hb9 hf9
        go_wp2
        go_roundw
        case rel => exact ⟨i + 1, rs ++ [(x.a.k, x.a.d)], v9, C8, by omega, by go_num, HJ9, HZ8, HC8, HF9, Lib.hid (by have := HRL.out; simp; omega), HB9⟩
        case measure => simp [intOf]; omega
    · obtain rfl : i = n := by omega
      have HRE := Lib.hid (Records_j HJ.out)
      clear HU1 HU HFW hlt
      go_wp2_with fail
      refine HRE.out.mono ?_; rintro e w5 ⟨A8, n8, c8, l8, rfl, hl8, hr8, hn8, hb5⟩
      have hn8l : n8 ≤ 40 := by
        have h := congrArg List.length hl8
        rw [List.length_map, hr8.1] at h
        have := HRL.out
        omega
      have hbw5 := hb5.size
      have HJ5 := Lib.hid (HJ.out.old hb5)
      have HB5 := Lib.hid (bl_call HB.out hb5)
      have HSP5 := Lib.hid (show ∀ k, jF J p s m L v k → k < wr.heap.size ∨ w5.heap.size ≤ k from fun k h => .inl (HJ.out.lt k h))
      have hvr := HJ.out.hv
      have hfr := HJ.out.hf
      clear hb5 HJ HB HRE
      go_wp2_with fail
      refine (HLA.out w5 A8 n8 c8 (by omega)).mono ?_; rintro e w' ⟨k, hk, rfl, hw⟩; subst w'
      have HKP := Lib.hid (hr8.drop_ hk)
      have HKN := Lib.hid (hn8.drop (c := c8) (k := k))
      have hlk : (l8.drop k).map Rv.r = rs.drop k := by rw [List.map_drop, hl8]
      have HVK := Lib.hid (show Vrs ((l8.drop k).map Rv.r) from by rw [hlk]; exact fun r hr => hvr r (List.mem_of_mem_drop hr))
      have HTK := Lib.hid (show (recsB (fstC 0) ((l8.drop k).map Rv.r)).length ≤ a * 256 from by
        rw [hlk]
        have h := congrArg List.length (recsB_take (fstC 0) rs k)
        rw [List.length_append, recsB_len_any (endR (fstC 0) (rs.take k)) (fstC 0)] at h
        omega)
      clear hr8 hn8 hlk hvr hfr hl8
      obtain ⟨nK, hnK⟩ : ∃ x, x = n8 - k := ⟨_, rfl⟩
      have hnK40 : nK ≤ 40 := by omega
      have hnKI : (nK : Int) ≤ 40 := by omega
      rw [← hnK] at HKP ⊢
      generalize rest2 A8 c8 k = AK at HKP HKN ⊢
      generalize c8 - k = cK at HKP ⊢
      generalize l8.drop k = lK at HKP HKN HVK HTK
      clear hnK hk hn8l
      have HTL := Lib.hid (fun i => recsB_take_le (fstC 0) (lK.map Rv.r) i)
      obtain ⟨TT, hTT⟩ : ∃ x, (recsB (fstC 0) (lK.map Rv.r)).length = x := ⟨_, rfl⟩
      rw [hTT] at HTK HTL
      have HTT := Lib.hid hTT
      clear hTT
      go_wp2
      go_loopw [18, 19] (fun v18 v19 wq => ∃ (i : Nat), i ≤ nK ∧ v19 = .int .i64 (i : Int) ∧ v18 = .int .i64 ((a : Int) * 256 - ((recsB (fstC 0) ((lK.map Rv.r).take i)).length : Int)) ∧ Hid (Below w5.heap.size w5 wq)) (fun _ v19 _ => nK - (intOf v19).toNat)
      case atStart => exact ⟨0, by omega, rfl, by simp [recsB], Lib.hid (bl0 w5)⟩
      case round =>
        obtain ⟨q, hq, rfl, rfl, HBQ⟩ := hrel
        by_cases hlq : q < nK
        · obtain ⟨ad, x, rfl, hx, hm, ho, c0, c1⟩ := (HKP.out.below HBQ.out).at_ hlq
          have hvx : Vr x.k x.d := HVK.out _ (List.mem_map_of_mem hm)
          have hrx : (lK.map Rv.r)[q]? = some (x.k, x.d) := by rw [List.getElem?_map, hx]; rfl
          have hT := recsB_len_take (fstC 0) (lK.map Rv.r) hrx
          have h1 := HTL.out (q + 1)
          have h2 := HTK.out
          have HSZ := Lib.hid (QSize_any (k := x.k) wr (ho.more HBQ.out.size))
          rw [if_pos (show x.k ≠ 0 ∧ x.d.length ≤ 8192 from hvx)] at HSZ
          simp only at hT
          rw [hT] at h1
          generalize (recsB (fstC 0) ((lK.map Rv.r).take q)).length = L0 at hT h1 ⊢
          generalize 1 + (numSize x.d.length + x.d.length) + 8 = SZ at hT h1 HSZ
          have hb1 : (L0 : Int) ≤ 3072 := by omega
          have hb2 : (SZ : Int) ≤ 3072 := by omega
          have HL1 := Lib.hid hT
          clear hvx hrx hT h1 h2 ho hm hx
          go_wp2_with fail
          refine HSZ.out.mono ?_; rintro e w6 ⟨rfl, hb6⟩
          have HB6 := Lib.hid (bl_call HBQ.out hb6)
          clear hb6 HBQ HSZ c0 c1
          go_wp2
          go_roundw
          case rel => exact ⟨q + 1, by omega, by go_num, by rw [HL1.out]; congr 1; omega, HB6⟩
          case measure => simp [intOf]; omega
        · obtain rfl : q = nK := by omega
          have hb0 := HBQ.out.size
          have htk : (lK.map Rv.r).take q = lK.map Rv.r := List.take_of_length_le (by rw [List.length_map]; exact Nat.le_of_eq HKP.out.1)
          rw [htk, HTT.out]
          have HOW := Lib.hid (OwnRecords_any wr ((HKP.out.below HBQ.out).more hb0) (by omega) (fun x hx => (HVK.out _ (List.mem_map_of_mem hx)).2))
          clear htk
          go_wp2_with fail
          refine HOW.out.mono ?_; rintro e w7 ⟨A9, n9, c9, l9, rfl, hl9, hr9, hn9, hb7⟩
          have hb57 := bl_call HBQ.out hb7
          have HJ7 := Lib.hid (HJ5.out.old hb57)
          have HB7 := Lib.hid (bl_call HB5.out hb57)
          have HKP7 := Lib.hid (HKP.out.below hb57)
          have hs7 := hb57.size
          have hn9l : n9 ≤ 1048576 := by
            have h := congrArg List.length hl9
            rw [List.length_map, hr9.1, List.length_map, HKP.out.1] at h
            omega
          have HSWJ := Lib.hid (Switch_j HJ7.out hr9 hn9l (by rw [hl9]; exact HVK.out) (by omega) (by rw [hl9, recsB_len_any _ (fstC 0), HTT.out]; exact HTK.out))
          rw [hl9] at HSWJ
          clear hl9 hr9 hn9 hb7 hb57 hn9l HJ5 HB5 HKP HBQ HOW
          go_wp2_with fail
          refine HSWJ.out.mono ?_; rintro e w8 ⟨L8, v8, rfl, hj8, hst8⟩
          obtain ⟨hb8, hf8⟩ := bl_stp (w0 := w) HB7.out HFF.out hst8
          have hsp8 := stp_sep hst8 HSP5.out hs7
          have HKP8 := Lib.hid (HKP7.out.kpN HKN.out hst8.1 hs7 HSP5.out)
          have hs8 := hst8.1.size
          have HZ8 := Lib.hid (HZ.out.begin_ HJ7.out.hd.hC HJ7.out.hd.hB HJ7.out.hs hj8.hf)
          have HLE8 := Lib.hid (Left_j hj8)
          have hTb := HTK.out
          rw [show ((a * 256 - (recsB (fstC (0 + 1)) (lK.map Rv.r)).length : Nat) : Int) = (a : Int) * 256 - (TT : Int) by rw [recsB_len_any _ (fstC 0), HTT.out]; omega] at HLE8
          have HB8 := Lib.hid hb8
          have HF8 := Lib.hid hf8
          have HSP8 := Lib.hid hsp8
          clear hj8 hst8 hb8 hf8 hsp8 HJ7 HB7 HKP7 HSWJ
          go_wp2_with fail
          refine HLE8.out.mono ?_; rintro e w9 ⟨v9, rfl, hj9, hst9⟩
          obtain ⟨hb9, hf9⟩ := bl_stp (w0 := w) HB8.out HF8.out hst9
          have hsp9 := stp_sep hst9 HSP8.out (by omega)
          have HKP9 := Lib.hid (HKP8.out.kpN HKN.out hst9.1 (by omega) HSP8.out)
          have hs9 := hst9.1.size
          have hjl := hj9.lt
          have HCR := Lib.hid (crash_any hj9.hd (k := []) (Bi.nil w9 w9.heap.size 0 none) (Nat.le_refl _) (by omega))
          rw [crash_none, settle_none, noC_len, HCL.out] at HCR
          have hA9 := hj9.hA
          have hv9 := hj9.hv
          have hs99 := hj9.hs
          rw [noC_len, HCL.out] at hs99
          rw [HCL.out] at hA9
          have HA9 := Lib.hid hA9
          have HV9 := Lib.hid hv9
          have HS9 := Lib.hid hs99
          have hsm : ∀ k, k = s ∨ k = m → w.heap.size ≤ k := HLO.out
          have HSM := Lib.hid (fun k (hk : k = s ∨ k = m) => HSP8.out k (.inl (by rcases hk with e | e; exact .inr (.inr (.inl e)); exact .inr (.inr (.inr e)))))
          have HB9 := Lib.hid hb9
          clear hj9 hst9 hb9 hf9 hsp9 hA9 hv9 hs99 HKP8 HLE8 HB8 HF8
          go_wp2_with fail
          refine HCR.out.mono ?_; rintro e w10 ⟨rfl, hd10, hk10⟩
          have HB10 := Lib.hid (bl_dk (p := p) (s := s) (m := m) HB9.out hk10 HLO.out)
          have HKP10 := Lib.hid (HKP9.out.kpN HKN.out hk10 (by omega) HSM.out)
          have hs10 := hk10.size
          have hz10 := HZ8.out
          rw [HCL.out] at hz10
          have HOP := Lib.hid (Open_same hd10 hz10 HA9.out HV9.out (by omega) ha1 (by omega) (by rw [noC_len]; exact HS9.out))
          clear hd10 hk10 hz10 HCR HB9 HKP9
          go_wp2_with fail
          refine HOP.out.mono ?_
          rintro e w11 ⟨J2, L2, v2, rfl, hj11, -, hJ11, hL11, hv11, hk11⟩
          have hB10s := HB10.out.size
          have HF11 := Lib.hid (show ∀ k, jF J2 p s m L2 v2 k → w.heap.size ≤ k from fun k hk => by
            rcases hk with (rfl | rfl | hk) | rfl | hk
            · omega
            · exact HLP.out
            · exact HLO.out k hk
            · omega
            · have := hv11 k hk; omega)
          have HB11 := Lib.hid (bl_dk (p := p) (s := s) (m := m) HB10.out hk11 HLO.out)
          have HKP11 := Lib.hid (HKP10.out.kpN HKN.out hk11 (by omega) HSM.out)
          have hs11 := hk11.size
          have HJ11 := Lib.hid hj11
          have HRE := Lib.hid (Records_j hj11)
          clear hj11 hk11 hv11 HOP HB10 HKP10
          go_wp2_with fail
          refine HRE.out.mono ?_
          rintro e w12 ⟨A12, n12, c12, l12, rfl, hl12, hr12, -, hb12⟩
          have hn12 : n12 ≤ 1073741824 := by
            have h := congrArg List.length hl12
            rw [List.length_map, hr12.1, List.length_map, HKP11.out.1] at h
            omega
          have HRR := Lib.hid (Records_any w12 hr12 ((HKP11.out.below (hb12.mono (by omega))).more (by have := hb12.size; omega)) hn12)
          rw [decide_eq_true hl12] at HRR
          have HB12 := Lib.hid (bl_call HB11.out hb12)
          have HJ12 := Lib.hid (HJ11.out.old hb12)
          clear hl12 hr12 hb12 hn12 HRE HB11 HJ11 HKP11
          go_wp2_with fail
          refine HRR.out.mono ?_; rintro e w13 ⟨rfl, hb13⟩
          have HB13 := Lib.hid (bl_call HB12.out hb13)
          have HLE := Lib.hid (Left_j (HJ12.out.old hb13))
          rw [show ((a * 256 - (recsB (fstC (0 + 1 + 1)) (lK.map Rv.r)).length : Nat) : Int) = (a : Int) * 256 - (TT : Int) by rw [recsB_len_any _ (fstC 0), HTT.out]; omega] at HLE
          clear hb13 HRR HB12 HJ12
          go_wp2_with fail
          refine HLE.out.mono ?_; rintro e w14 ⟨v14, rfl, hj14, hst14⟩
          obtain ⟨hb14, -⟩ := bl_stp (w0 := w) HB13.out HF11.out hst14
          have HEP := Lib.hid (Epoch_j hj14)
          rw [show ((0 + 1 + 1 : Nat) : Int) = 2 from rfl] at HEP
          have HB14 := Lib.hid hb14
          clear hj14 hst14 hb14 HLE HB13
          go_wp2_with fail
          refine HEP.out.mono ?_; rintro e w' ⟨rfl, hw⟩; subst w'
          go_wp2_with fail
          go_ret
          exact ⟨rfl, HB14.out⟩
end Go.Proofs.YtgpfognglpfmoaaGreatDoor
