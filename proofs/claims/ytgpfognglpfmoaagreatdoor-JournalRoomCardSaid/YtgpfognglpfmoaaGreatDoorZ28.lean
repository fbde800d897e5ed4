/- Texts of this claim, one behind the other: JAp, JHs. -/
import Derived.Test.YtgpfognglpfmoaaGreatDoorZ24
import Derived.Test.YtgpfognglpfmoaaGreatDoorZ27
set_option linter.unusedSimpArgs false
set_option linter.unusedVariables false
section
/- A journal: Append. -/
namespace Go.Proofs.YtgpfognglpfmoaaGreatDoor
set_option maxRecDepth 8192
set_option linter.unusedSimpArgs false
set_option linter.unusedVariables false
open Go.RowKit

theorem Ow.full {w : World} {base : Nat} {v : Value} {l : List UInt8} (h : Ow w base v l) (h1 : 1 ≤ l.length) : ∃ ad c, v = .slice (some ad) l.length c ∧ c ≤ 9223372036854775807 ∧ Rd w w.heap.size (some ad) l.length c l ∧ base ≤ ad.block := by
  obtain ⟨A, c, rfl, h2, h3, hr⟩ := h.form
  obtain ⟨ad, rfl, hb, hc⟩ := hr.2.2 (by omega)
  refine ⟨ad, c, rfl, by simpa [maxLen] using h3, hr, ?_⟩
  exact (World.ownsRow.lt h ad.block rfl).1
theorem append_nil (w : World) (x : Value) (hx : ∃ a b, x = .agg #[a, b]) : Calls Tryz.prog 10 #[.pointer none, x] w fun e w' => e = .returned (.int .i64 1) ∧ Below w.heap.size w w' := by
  obtain ⟨a, b, rfl⟩ := hx
  have HB := Lib.hid (bl_alloc (bl0 w) (.cells #[a, b] 33))
  go_enter Tryz.func10, Tryz.ntmps10
  go_wp2_with (go_at_call 45; refine (made_j_nil _).mono ?_; rintro e w' ⟨rfl, hw⟩; subst w')
  go_ret
  exact ⟨rfl, HB.out⟩

section
variable {w w' : World} {J p s m L area E syn : Nat} {v : Value} {rs : List (UInt8 × List UInt8)} {B : List UInt8} {C : Ca}
theorem Jd.lt (h : Jd w J p s m L v area E rs syn B C) : ∀ k, jF J p s m L v k → k < w.heap.size := by
  rintro k ((rfl | rfl | rfl | rfl) | rfl | e)
  · exact h.hj.lt
  · exact h.hd.plt
  · exact h.hd.slt
  · exact h.hd.mlt
  · exact h.hl.lt
  · exact h.hl.vlt k e
theorem Stp.not {F F' : Nat → Prop} (h : Stp F F' w w') {k : Nat} (hk : k < w.heap.size) (hn : ¬ F k) : ¬ F' k := fun e => by
  rcases h.2 k e with h1 | h1
  · exact hn h1
  · omega
/-- What is cached behind an Append. -/
def apC (C : Ca) (E area : Nat) (rs rs' : List (UInt8 × List UInt8)) : Ca :=
  wr C (2 + E % 2 * area + (recsB (fstC E) rs).length / 256) ((pad (area * 256) (recsB (fstC E) rs')).drop (256 * ((recsB (fstC E) rs).length / 256))) (((recsB (fstC E) rs').length + 255) / 256 - (recsB (fstC E) rs).length / 256)

set_option maxHeartbeats 800000 in
theorem Append_bad (h : Jd w J p s m L v area E rs syn B C) {A : Option Addr} {n c : Nat} (k : UInt8) (hv : ¬ (k ≠ 0 ∧ n ≤ 8192)) :
    Calls Tryz.prog 10 #[pt0 J, .agg #[.int .u8 (k.toNat : Int), .slice A n c]] w fun e w' => e = .returned (.int .i64 2) ∧ Below w.heap.size w w' := by
  have hb1 := bl_alloc (bl0 w) (.cells #[.int .u8 (k.toNat : Int), .slice A n c] 33)
  have HB := Lib.hid hb1
  have HM := Lib.hid (made_j (h.hj.keep hb1))
  have hX := Bk.new w [.int .u8 (k.toNat : Int), .slice A n c] 33
  have c0 := hX.cell (k := 0) rfl
  have c1 := hX.cell (k := 1) rfl
  have HC := Lib.hid (Check_bad (A := A) (n := n) (c := c) (k := k) (w.alloc (.cells #[.int .u8 (k.toNat : Int), .slice A n c] 33)) hv)
  clear h hb1 hX hv
  go_enter Tryz.func10, Tryz.ntmps10
  go_wp2_with (first | (go_at_call 45; refine HM.out.mono ?_; rintro e w' ⟨rfl, hw⟩; subst w') | (go_at_call 46; refine HC.out.mono ?_; rintro e w2 ⟨rfl, hb2⟩; refine Hid.out ?_))
  refine Lib.hid ?_
  have HB2 := Lib.hid (bl_call HB.out hb2)
  clear hb2
  go_wp2
  go_ret
  exact ⟨rfl, HB2.out⟩
set_option maxHeartbeats 3200000 in
theorem Append_j (h : Jd w J p s m L v area E rs syn B C) {A : Option Addr} {n c : Nat} (k : UInt8) (d : List UInt8) (hr : Rd w w.heap.size A n c d) (hv : Vr k d) (hA : ∀ ad, A = some ad → ¬ jF J p s m L v ad.block) :
    Calls Tryz.prog 10 #[pt0 J, .agg #[.int .u8 (k.toNat : Int), .slice A n c]] w fun e w' => ∃ v', Stp (jF J p s m L v) (jF J p s m L v') w w' ∧
      ((area * 256 < (recsB (fstC E) (rs ++ [(k, d)])).length ∧ e = .returned (.int .i64 7) ∧ Jd w' J p s m L v' area E rs syn B C) ∨
       ((recsB (fstC E) (rs ++ [(k, d)])).length ≤ area * 256 ∧ e = .returned (.int .i64 0) ∧ Jd w' J p s m L v' area E (rs ++ [(k, d)]) syn B (apC C E area rs (rs ++ [(k, d)])))) := by
  have hdn := hr.len
  have hn : n ≤ 8192 := by rw [← hdn]; exact hv.2
  have hb1 := bl_alloc (bl0 w) (.cells #[.int .u8 (k.toNat : Int), .slice A n c] 33)
  have HB1 := Lib.hid hb1
  have HJ1 := Lib.hid (h.old hb1)
  have HM := Lib.hid (made_j (h.hj.keep hb1))
  have hX := Bk.new w [.int .u8 (k.toNat : Int), .slice A n c] 33
  have HX1 := Lib.hid hX
  have c0 := hX.cell (k := 0) rfl
  have c1 := hX.cell (k := 1) rfl
  have HC := Lib.hid (Check_good (A := A) (n := n) (c := c) (k := k) (w.alloc (.cells #[.int .u8 (k.toNat : Int), .slice A n c] 33)) hv.1 hn)
  have HR1 := Lib.hid ((hr.below hb1).more hb1.size)
  have HF := Lib.hid (show ∀ x, (x = w.heap.size ∨ ∃ ad, A = some ad ∧ x = ad.block) → ¬ jF J p s m L v x from fun x hx e => by
    rcases hx with rfl | ⟨ad, e1, rfl⟩
    · have := h.lt _ e; omega
    · exact hA ad e1 e)
  have HV := Lib.hid hv
  have harea := h.a2
  have HH := Lib.hid h
  have hfit := h.hf
  have HLT := Lib.hid h.lt
  clear h hb1 hX hv hA hr
  go_enter Tryz.func10, Tryz.ntmps10
  go_wp2_with (first | (go_at_call 45; refine HM.out.mono ?_; rintro e w' ⟨rfl, hw⟩; subst w') | (go_at_call 46; refine HC.out.mono ?_; rintro e w2 ⟨rfl, hb2⟩; refine Hid.out ?_))
  refine Lib.hid ?_
  have HB2 := Lib.hid (bl_call HB1.out hb2)
  have HJ2 := Lib.hid (HJ1.out.old hb2)
  have HX2 := Lib.hid (HX1.out.keep hb2)
  have HR2 := Lib.hid ((HR1.out.below hb2).more hb2.size)
  clear hb2 HC HM HJ1 HX1 HR1 HB1 c0 c1
  go_wp2_with fail
  refine (look_jd HJ2.out).mono ?_
  rintro e w3 ⟨R, v1, rfl, hR3, hrow3, hne3, hjd3, hst3⟩
  have hs2 := HB2.out.size
  have HK3 := Lib.hid ((Stp.old HB2.out).trans hst3)
  have hx3 : ¬ jF J p s m L v w.heap.size := HF.out _ (.inl rfl)
  have HX3 := Lib.hid (HX2.out.kp hst3.1 hx3)
  have HR3 : Hid (Rd w3 w3.heap.size A n c d) := Lib.hid ((HR2.out.kpNe hst3.1 (Nat.le_refl _) (fun ad e => HF.out _ (.inr ⟨ad, e, rfl⟩))).more hst3.1.size)
  have HF3 : Hid (∀ x, (x = w.heap.size ∨ ∃ ad, A = some ad ∧ ad.block < w.heap.size ∧ x = ad.block) → ¬ jF J p s m L v1 x) := Lib.hid (fun x hx => hst3.not (by rcases hx with rfl | ⟨ad, _, hlt, rfl⟩; exact HX2.out.lt; omega) (HF.out x (by rcases hx with rfl | ⟨ad, e, _, rfl⟩; exact .inl rfl; exact .inr ⟨ad, e, rfl⟩)))
  have HJ3 := Lib.hid hjd3
  have HA3 := Lib.hid hrow3
  have HN3 := Lib.hid hne3
  have hRw : w.heap.size ≤ R := by omega
  have c0 : w3.cell? ⟨w.heap.size, 0, none⟩ = some (.int .u8 (k.toNat : Int)) := HX3.out.cell rfl
  have c1 : w3.cell? ⟨w.heap.size, 1, none⟩ = some (.slice A n c) := HX3.out.cell rfl
  have cJ : w3.cell? ⟨J, 2, none⟩ = some (pt0 L) := hjd3.hj.cell rfl
  have hrb : (recsB (fstC E) rs).length ≤ 1073741824 := by omega
  have HEN := Lib.hid (end_any hjd3.hl hrb)
  clear hst3 hjd3 hrow3 hne3 hR3 hx3 HX2 HR2 HJ2 HB2 HF
  have hN65 : area * 256 ≤ 65536 := by omega
  generalize hX : recsB (fstC E) rs = Y at *
  have HY := Lib.hid hX
  clear hX
  generalize hfr : Y.length = fr at *
  have HFR := Lib.hid hfr
  clear hfr
  generalize hN : area * 256 = N at *
  have HN := Lib.hid hN
  clear hN
  go_wp2_with fail
  refine HEN.out.mono ?_
  rintro e w4 ⟨rfl, kk, hkk⟩
  have hb4 : Below w3.heap.size w3 w4 := by rw [hkk]; exact bl_drewN _ _
  clear hkk
  have c0' : w4.cell? ⟨w.heap.size, 0, none⟩ = some (.int .u8 (k.toNat : Int)) := (HX3.out.keep hb4).cell rfl
  have c1' : w4.cell? ⟨w.heap.size, 1, none⟩ = some (.slice A n c) := (HX3.out.keep hb4).cell rfl
  have HSZ := Lib.hid (Size_good (A := A) (n := n) (c := c) (k := k) w4 HV.out.1 hn)
  have hsb := numSize_bd n
  generalize hsz : 1 + (numSize n + n) + 8 = sz at *
  have hsz2 : sz ≤ 8210 := by omega
  have hsz1 : 1 ≤ sz := by omega
  have HSE : Hid (recsB (fstC E) (rs ++ [(k, d)]) = Y ++ recB (endR (fstC E) rs) k d ∧ (recB (endR (fstC E) rs) k d).length = sz) := Lib.hid ⟨by rw [recsB_append, HY.out]; simp [recsB], by rw [recB_length, hdn, hsz]⟩
  have HXL : Hid ((recsB (fstC E) (rs ++ [(k, d)])).length = fr + sz) := Lib.hid (by rw [HSE.out.1, List.length_append, HSE.out.2, HFR.out])
  clear hsz hsb c0 c1 cJ HEN
  go_wp2_with fail
  refine HSZ.out.mono ?_
  rintro e w5 ⟨rfl, hb5⟩
  have hb6 := hb4.trans (hb5.mono hb4.size)
  have HJ5 := Lib.hid (HJ3.out.old hb6)
  have HX5 := Lib.hid (HX3.out.keep hb6)
  have HR5 := Lib.hid ((HR3.out.below hb6).more hb6.size)
  have HA5 : Hid (Row w5 R (pad N Y)) := Lib.hid (HA3.out.of (hb6.block _ HA3.out.lt))
  have HK5 := Lib.hid (HK3.out.trans (Stp.old hb6))
  have HS5 : Hid (w3.heap.size ≤ w5.heap.size) := Lib.hid hb6.size
  clear hb4 hb5 hb6 HJ3 HX3 HR3 HA3 HK3 HSZ c0' c1'
  by_cases hroom : fr + sz ≤ N
  · have hdL := HJ5.out.dL
    have nJ := Lib.hid (show ¬ may L v1 J from fun e => by rcases e with e | e; exact (hdL J (.inl rfl)).1 e; exact (hdL J (.inl rfl)).2 e)
    have nX := Lib.hid (show ¬ may L v1 w.heap.size from fun e => HF3.out _ (.inl rfl) (.inr e))
    have nR := Lib.hid (show ¬ may L v1 R from fun e => by rcases e with e | e; (have h1 := HLT.out L (.inr (.inl rfl)); omega); exact HN3.out e)
    have HADD := Lib.hid (fun W (hl : Lg W 0 L E rs v1) (hr : Rd W W.heap.size A n c d) => add_any hl k d hr HV.out (by rw [HY.out, HFR.out]; omega) (Nat.zero_le _))
    have HJD := Lib.hid HJ5.out
    clear hdL
    go_wp2
    refine region_meetQ (fun a0 a' w' => ∃ v2, a' = puts a0 [(31, pt0 J), (32, pt0 J), (33, .pointer (some ⟨J, 2, none⟩)), (34, pt0 L), (35, .agg #[.int .u8 (k.toNat : Int), .slice A n c]), (36, .tuple #[])] ∧ Hid (Lg w' 0 L E (rs ++ [(k, d)]) v2) ∧ Hid (v2.ownBlock = v1.ownBlock ∨ ∃ j, v2.ownBlock = some j ∧ w5.heap.size ≤ j) ∧ Hid (Kp (may L v1) w5 w')) ?_ ?_
    · have hR := Kp.stays (may L v1)
      refine reg_start (Kp (may L v1)) follows_mixed ?_
      have HJ := Lib.hid HJ5.out.hj.drew
      have HL : Hid (Lg w5.drew 0 L E rs v1) := Lib.hid (HJ5.out.hl.old (Below.refl w5.heap.size w5).drew)
      have HX := Lib.hid HX5.out.drew
      have HR := Lib.hid (HR5.out.below (Below.refl w5.heap.size w5).drew)
      have HB : Hid (Below w5.heap.size w5 w5.drew) := Lib.hid (Below.refl w5.heap.size w5).drew
      clear HJ5 HX5 HR5
      generalize w5.drew = u0 at HJ HL HX HR HB ⊢
      refine reg_take (v := pt0 J) hR 0 rfl (by kernel_rfl) (by kernel_rfl) (by kernel_rfl) (fun _ _ _ h => by cases h.1) (by rfl) ?_ ?_
      · intro W hW; go_simp; try with_reducible rfl
      try simp only [Act.put, List.getElem_toArray, List.getElem_cons_succ, List.getElem_cons_zero, List.setIfInBounds_toArray, List.set_cons_zero, List.set_cons_succ]
      refine reg_take (v := pt0 J) hR 1 rfl (by kernel_rfl) (by kernel_rfl) (by kernel_rfl) (fun _ _ _ h => by cases h.1) (by rfl) ?_ ?_
      · intro W hW; go_simp; try with_reducible rfl
      try simp only [Act.put, List.getElem_toArray, List.getElem_cons_succ, List.getElem_cons_zero, List.setIfInBounds_toArray, List.set_cons_zero, List.set_cons_succ]
      refine reg_take (v := .pointer (some ⟨J, 2, none⟩)) hR 2 rfl (by kernel_rfl) (by kernel_rfl) (by kernel_rfl) (fun _ _ _ h => by cases h.1) (by rfl) ?_ ?_
      · intro W hW; go_simp; try with_reducible rfl
      try simp only [Act.put, List.getElem_toArray, List.getElem_cons_succ, List.getElem_cons_zero, List.setIfInBounds_toArray, List.set_cons_zero, List.set_cons_succ]
      refine reg_take (v := pt0 L) hR 3 rfl (by kernel_rfl) (by kernel_rfl) (by kernel_rfl) (fun _ _ _ h => by cases h.1) (by rfl) ?_ ?_
      · intro W hW; exact exec_load_cell 81 _ rfl Tryz.isAgg81 rfl ((HJ.out.kp hW nJ.out).cell rfl)
      try simp only [Act.put, List.getElem_toArray, List.getElem_cons_succ, List.getElem_cons_zero, List.setIfInBounds_toArray, List.set_cons_zero, List.set_cons_succ]
      refine reg_take (v := .agg #[.int .u8 (k.toNat : Int), .slice A n c]) hR 4 rfl (by kernel_rfl) (by kernel_rfl) (by kernel_rfl) (fun _ _ _ h => by cases h.1) (by rfl) ?_ ?_
      · intro W hW; exact exec_load_at 33 _ rfl ⟨w.heap.size, 0, none⟩ rfl [.int .u8 (k.toNat : Int), .slice A n c] _ (HX.out.kp hW nX.out).at_ Tryz.underlying33 rfl info31
      try simp only [Act.put, List.getElem_toArray, List.getElem_cons_succ, List.getElem_cons_zero, List.setIfInBounds_toArray, List.set_cons_zero, List.set_cons_succ]
      refine reg_step hR 5 (by kernel_rfl) rfl fun K hK => ?_
      try simp only [Act.put, List.getElem_toArray, List.getElem_cons_succ, List.getElem_cons_zero, List.setIfInBounds_toArray, List.set_cons_zero, List.set_cons_succ]
      rw [if_pos (by rfl)]
      go_simp
      refine (HADD.out _ HL.out (HR.out.more HB.out.size)).mono ?_; rintro e u1 ⟨rfl, v2, hl2, hv2, hk2⟩
      refine hK.out _ _ hk2 ?_
      clear hK K
      try simp only [Act.put, List.getElem_toArray, List.getElem_cons_succ, List.getElem_cons_zero, List.setIfInBounds_toArray, List.set_cons_zero, List.set_cons_succ]
      refine reg_done (by kernel_rfl) ?_ _
      refine ⟨rfl, v2, ?_, Lib.hid hl2, Lib.hid (hv2.imp id fun ⟨j, e, h⟩ => ⟨j, e, by have := HB.out.size; omega⟩), Lib.hid ((Kp.of_old (may := may L v1) HB.out).via hk2 (fun _ _ e => e))⟩
      simp only [puts, List.foldl_cons, List.foldl_nil, Act.put, List.getElem_toArray, List.getElem_cons_succ, List.getElem_cons_zero, List.setIfInBounds_toArray, List.set_cons_zero, List.set_cons_succ]
    · rintro a' w6 ⟨v2, rfl, HL6, HV6, HK6⟩
      simp only [puts, List.foldl_cons, List.foldl_nil, Act.put, List.getElem_toArray, List.getElem_cons_succ, List.getElem_cons_zero, List.setIfInBounds_toArray, List.set_cons_zero, List.set_cons_succ]
      have hdL := HJD.out.dL
      have HJ6 := Lib.hid (HJD.out.hj.kp HK6.out nJ.out)
      have HD6 := Lib.hid (HJD.out.hd.kp HK6.out (fun e => by rcases e with e | e; exact (hdL p (by simp)).1 e; exact (hdL p (by simp)).2 e) (fun e => by rcases e with e | e; exact (hdL s (by simp)).1 e; exact (hdL s (by simp)).2 e) (fun e => by rcases e with e | e; exact (hdL m (by simp)).1 e; exact (hdL m (by simp)).2 e))
      have HA6 : Hid (Row w6 R (pad N Y)) := Lib.hid (HA5.out.of (HK6.out.block _ HA5.out.lt nR.out))
      have cJ6 : w6.cell? ⟨J, 2, none⟩ = some (pt0 L) := HJ6.out.cell rfl
      have HEN := Lib.hid (end_any HL6.out (by rw [HXL.out]; omega))
      rw [HXL.out] at HEN
      clear hdL HA5 HX5 HR5 HADD nX
      generalize htt : fr + sz = tt at *
      have HTT := Lib.hid htt
      have hft : fr < tt := by omega
      have htN : tt ≤ N := hroom
      clear htt
      go_wp2_with fail
      refine HEN.out.mono ?_
      rintro e w7 ⟨rfl, kk, hkk⟩
      have hb7 : Below w6.heap.size w6 w7 := by rw [hkk]; exact bl_drewN _ _
      clear hkk
      have HJ7 := Lib.hid (HJ6.out.keep hb7)
      have HD7 := Lib.hid (HD6.out.old hb7)
      have HA7 : Hid (Row w7 R (pad N Y)) := Lib.hid (HA6.out.of (hb7.block _ HA6.out.lt))
      have HL7 := Lib.hid (HL6.out.old hb7)
      have HK7 : Hid (Kp (may L v1) w5 w7) := Lib.hid (HK6.out.via (Kp.of_old (may := may L v1) hb7) (fun _ _ e => e))
      have hs7 := HK6.out.size
      have HS7 : Hid (w5.heap.size ≤ w7.heap.size) := Lib.hid HK7.out.size
      clear hb7 HJ6 HD6 HA6 HL6 cJ6 HEN hs7
      have HXL7 : Hid ((recsB (fstC E) (rs ++ [(k, d)])).length = tt) := HXL
      have HNA := HN.out
      have HSEC := Lib.hid (fun W => sector_any fr (by omega) W)
      have HSTA := Lib.hid (fun W => start_any fr (by omega) W)
      have HUP := Lib.hid (fun W => up_any tt (by omega) W)
      have HTL := Lib.hid (fun W (h : Lg W 0 L E (rs ++ [(k, d)]) v2) => tail_any h (fr / 256 * 256) (by rw [HXL7.out]; omega))
      have hsf : fr / 256 * 256 ≤ fr := by omega
      have htu : tt ≤ (tt + 255) / 256 * 256 := by omega
      have huN : (tt + 255) / 256 * 256 ≤ N := by omega
      have hij : fr / 256 + 1 ≤ (tt + 255) / 256 := by omega
      have hja : (tt + 255) / 256 ≤ area := by omega
      generalize hi0 : fr / 256 = i0 at *
      generalize hj0 : (tt + 255) / 256 = j0 at *
      have HI0 := Lib.hid hi0
      have HJ0 := Lib.hid hj0
      obtain ⟨q, hq⟩ : ∃ q, j0 = i0 + q := ⟨j0 - i0, by omega⟩
      have hq1 : 1 ≤ q := by omega
      have hqs : q * 256 = j0 * 256 - i0 * 256 := by omega
      have hfs : 2 + E % 2 * area + i0 + q ≤ C.length := by have := HJD.out.fs; omega
      generalize hs0 : i0 * 256 = s0 at *
      generalize hup : j0 * 256 = up at *
      have HS0 := Lib.hid hs0
      have HUU := Lib.hid hup
      have HQ := Lib.hid hq
      clear hi0 hj0 hs0 hup hq HNA
      generalize hXX : recsB (fstC E) (rs ++ [(k, d)]) = X at *
      have HXX := Lib.hid hXX
      clear hXX
      have hlt7 := HJD.out.lt
      have nJm := Lib.hid (show ¬ J = m from fun e => HJD.out.dJ.2.2 e)
      obtain ⟨bb, hbb⟩ : ∃ bb, bb = X.drop s0 ++ List.replicate (up - tt) 0 := ⟨_, rfl⟩
      obtain ⟨nt, hnt⟩ : ∃ nt, nt = tt - s0 := ⟨_, rfl⟩
      have HDL : Hid ((X.drop s0).length = nt) := Lib.hid (by rw [List.length_drop, HXL7.out, hnt])
      have HBL : Hid (bb.length = q * 256) := Lib.hid (by rw [hbb, List.length_append, HDL.out, List.length_replicate, hnt]; omega)
      have hq64 : q ≤ 256 := by omega
      have HQS := Lib.hid hqs
      have HFL : Hid ([X.drop s0, List.replicate (up - tt) 0].flatten = bb) := Lib.hid (by rw [hbb]; simp)
      have HBB := Lib.hid hbb
      have HNT := Lib.hid hnt
      have HMD : Hid (∀ W, Row W R (pad N Y) → Sl W W.heap.size (restAt (some ⟨R, 0, none⟩) N tt) (up - tt) (N - tt) (List.replicate (up - tt) 0)) := Lib.hid (fun W hrow => by
        have hrd := hrow.rd
        have hlt := hrow.lt
        have hpl : (pad N Y).length = N := pad_length (by rw [HFR.out]; omega)
        rw [hpl] at hrd
        have h2 := (hrd.drop_ htN).take_ (show up - tt ≤ N - tt by omega)
        have h3 : ((pad N Y).drop tt).take (up - tt) = List.replicate (up - tt) 0 := by
          rw [pad, HFR.out, List.drop_append, List.drop_eq_nil_of_le (by rw [HFR.out]; omega), List.nil_append, HFR.out, List.drop_replicate, List.take_replicate]
          congr 1
          omega
        rw [h3] at h2
        refine ⟨h2, fun a ha => ?_⟩
        unfold restAt at ha
        split at ha
        · injection ha with ha; subst ha; exact hlt
        · simp only [Option.map_some] at ha; injection ha with ha; subst ha; rw [add_block]; exact hlt)
      have HWR := Lib.hid (fun W (hj : Bk W J (jc p area L syn)) lr (n : Int) ch (hl : Bk W L (lg (E : Int) v2 lr n ch)) (hd : Dk W p s m B C) ad c (hr : Rd W W.heap.size (some ad) (q * 256) c bb) (hc : c ≤ 9223372036854775807) (hm : ad.block ≠ m ∧ J ≠ m) => write_j hj hl hd (by have := HJD.out.hE; omega) harea i0 q hq1 hfs hr hc hm)
      clear hbb hnt hqs
      generalize hff : 2 + E % 2 * area = f at *
      have HFF := Lib.hid hff
      clear hff
      clear hlt7
      go_wp2
      refine region_meetQ (fun a0 a' w' => ∃ A2 c2 g5 ad6 c6, a' = puts a0 [(42, pt0 J), (43, .int .i64 (fr : Int)), (44, .int .i64 (i0 : Int)), (45, pt0 J), (46, pt0 J), (47, .pointer (some ⟨J, 2, none⟩)), (48, pt0 L), (49, .int .i64 (fr : Int)), (50, .int .i64 (s0 : Int)), (51, .slice A2 nt c2), (52, .slice (some ⟨R, 0, none⟩) N N), (53, .int .i64 (tt : Int)), (54, .int .i64 (tt : Int)), (55, .int .i64 (up : Int)), (56, .slice (restAt (some ⟨R, 0, none⟩) N tt) (up - tt) (N - tt)), (57, .slice (some ⟨g5, 0, none⟩) 2 2), (58, .slice (some ad6) (q * 256) c6), (59, .int .i64 0), (4, .int .i64 0)] ∧ Hid (Dk w' p s m B (wr C (f + i0) bb q)) ∧ Hid (Kp (fun x => x = m) w7 w')) ?_ ?_
      · have hR := Kp.stays (fun x => x = m)
        refine reg_start (Kp (fun x => x = m)) follows_mixed ?_
        have HJ := Lib.hid HJ7.out.drew
        have HL : Hid (Lg w7.drew 0 L E (rs ++ [(k, d)]) v2) := Lib.hid (HL7.out.old (Below.refl w7.heap.size w7).drew)
        have HD := Lib.hid HD7.out.drew
        have HA : Hid (Row w7.drew R (pad N Y)) := HA7
        have HK : Hid (Kp (fun x => x = m) w7 w7.drew) := Lib.hid (Kp.of_old (Below.refl w7.heap.size w7).drew)
        have HMT : Hid (m < w7.drew.heap.size) := Lib.hid HD7.out.mlt
        clear HJ7 HL7 HD7 HA7
        generalize w7.drew = u0 at HJ HL HD HA HK HMT ⊢
        refine reg_take (v := pt0 J) hR 0 rfl (by kernel_rfl) (by kernel_rfl) (by kernel_rfl) (fun _ _ _ h => by cases h.1) (by rfl) ?_ ?_
        · intro W hW; go_simp; try with_reducible rfl
        try simp only [Act.put, List.getElem_toArray, List.getElem_cons_succ, List.getElem_cons_zero, List.setIfInBounds_toArray, List.set_cons_zero, List.set_cons_succ]
        refine reg_take (v := .int .i64 (fr : Int)) hR 1 rfl (by kernel_rfl) (by kernel_rfl) (by kernel_rfl) (fun _ _ _ h => by cases h.1) (by rfl) ?_ ?_
        · intro W hW; go_simp; try with_reducible rfl
        try simp only [Act.put, List.getElem_toArray, List.getElem_cons_succ, List.getElem_cons_zero, List.setIfInBounds_toArray, List.set_cons_zero, List.set_cons_succ]
        refine reg_take (v := pt0 J) hR 3 rfl (by kernel_rfl) (by kernel_rfl) (by kernel_rfl) (fun _ _ _ h => by cases h.1) (by rfl) ?_ ?_
        · intro W hW; go_simp; try with_reducible rfl
        try simp only [Act.put, List.getElem_toArray, List.getElem_cons_succ, List.getElem_cons_zero, List.setIfInBounds_toArray, List.set_cons_zero, List.set_cons_succ]
        refine reg_take (v := pt0 J) hR 4 rfl (by kernel_rfl) (by kernel_rfl) (by kernel_rfl) (fun _ _ _ h => by cases h.1) (by rfl) ?_ ?_
        · intro W hW; go_simp; try with_reducible rfl
        try simp only [Act.put, List.getElem_toArray, List.getElem_cons_succ, List.getElem_cons_zero, List.setIfInBounds_toArray, List.set_cons_zero, List.set_cons_succ]
        refine reg_take (v := .pointer (some ⟨J, 2, none⟩)) hR 5 rfl (by kernel_rfl) (by kernel_rfl) (by kernel_rfl) (fun _ _ _ h => by cases h.1) (by rfl) ?_ ?_
        · intro W hW; go_simp; try with_reducible rfl
        try simp only [Act.put, List.getElem_toArray, List.getElem_cons_succ, List.getElem_cons_zero, List.setIfInBounds_toArray, List.set_cons_zero, List.set_cons_succ]
        refine reg_take (v := pt0 L) hR 6 rfl (by kernel_rfl) (by kernel_rfl) (by kernel_rfl) (fun _ _ _ h => by cases h.1) (by rfl) ?_ ?_
        · intro W hW; exact exec_load_cell 81 _ rfl Tryz.isAgg81 rfl ((HJ.out.kp hW nJm.out).cell rfl)
        try simp only [Act.put, List.getElem_toArray, List.getElem_cons_succ, List.getElem_cons_zero, List.setIfInBounds_toArray, List.set_cons_zero, List.set_cons_succ]
        refine reg_take (v := .int .i64 (fr : Int)) hR 7 rfl (by kernel_rfl) (by kernel_rfl) (by kernel_rfl) (fun _ _ _ h => by cases h.1) (by rfl) ?_ ?_
        · intro W hW; go_simp; try with_reducible rfl
        try simp only [Act.put, List.getElem_toArray, List.getElem_cons_succ, List.getElem_cons_zero, List.setIfInBounds_toArray, List.set_cons_zero, List.set_cons_succ]
        refine reg_take (v := .slice (some ⟨R, 0, none⟩) N N) hR 10 rfl (by kernel_rfl) (by kernel_rfl) (by kernel_rfl) (fun _ _ _ h => by cases h.1) (by rfl) ?_ ?_
        · intro W hW; go_simp; try with_reducible rfl
        try simp only [Act.put, List.getElem_toArray, List.getElem_cons_succ, List.getElem_cons_zero, List.setIfInBounds_toArray, List.set_cons_zero, List.set_cons_succ]
        refine reg_take (v := .int .i64 (tt : Int)) hR 11 rfl (by kernel_rfl) (by kernel_rfl) (by kernel_rfl) (fun _ _ _ h => by cases h.1) (by rfl) ?_ ?_
        · intro W hW; go_simp; try with_reducible rfl
        try simp only [Act.put, List.getElem_toArray, List.getElem_cons_succ, List.getElem_cons_zero, List.setIfInBounds_toArray, List.set_cons_zero, List.set_cons_succ]
        refine reg_take (v := .int .i64 (tt : Int)) hR 12 rfl (by kernel_rfl) (by kernel_rfl) (by kernel_rfl) (fun _ _ _ h => by cases h.1) (by rfl) ?_ ?_
        · intro W hW; go_simp; try with_reducible rfl
        try simp only [Act.put, List.getElem_toArray, List.getElem_cons_succ, List.getElem_cons_zero, List.setIfInBounds_toArray, List.set_cons_zero, List.set_cons_succ]
        refine reg_step hR 2 (by kernel_rfl) rfl fun K hK => ?_
        try simp only [Act.put, List.getElem_toArray, List.getElem_cons_succ, List.getElem_cons_zero, List.setIfInBounds_toArray, List.set_cons_zero, List.set_cons_succ]
        rw [if_pos (by rfl)]
        go_simp
        refine (HSEC.out _).mono ?_; rintro e u9 ⟨rfl, hu⟩; subst u9
        refine hK.out _ _ (hR.refl _) ?_
        clear hK K
        try simp only [Act.put, List.getElem_toArray, List.getElem_cons_succ, List.getElem_cons_zero, List.setIfInBounds_toArray, List.set_cons_zero, List.set_cons_succ]
        refine reg_step hR 8 (by kernel_rfl) rfl fun K hK => ?_
        try simp only [Act.put, List.getElem_toArray, List.getElem_cons_succ, List.getElem_cons_zero, List.setIfInBounds_toArray, List.set_cons_zero, List.set_cons_succ]
        rw [if_pos (by rfl)]
        go_simp
        refine (HSTA.out _).mono ?_; rintro e u9 ⟨rfl, hu⟩; subst u9
        refine hK.out _ _ (hR.refl _) ?_
        clear hK K
        try simp only [Act.put, List.getElem_toArray, List.getElem_cons_succ, List.getElem_cons_zero, List.setIfInBounds_toArray, List.set_cons_zero, List.set_cons_succ]
        refine reg_step hR 9 (by kernel_rfl) rfl fun K hK => ?_
        try simp only [Act.put, List.getElem_toArray, List.getElem_cons_succ, List.getElem_cons_zero, List.setIfInBounds_toArray, List.set_cons_zero, List.set_cons_succ]
        rw [if_pos (by rfl)]
        go_simp
        refine (HTL.out _ HL.out).mono ?_; rintro e u1 ⟨A2, c2, rfl, hr2, ht2, kk, hkk⟩
        rw [HDL.out] at hr2 ⊢
        have hb : Below u0.heap.size u0 u1 := by rw [hkk]; exact bl_drewN _ _
        have hz : u1.heap.size = u0.heap.size := by rw [hkk]; rfl
        clear hkk
        refine hK.out _ _ (show Kp (fun x => x = m) _ _ from Kp.of_old hb) ?_
        clear hK K
        have HS2 : Hid (Sl u1 u1.heap.size A2 nt c2 (X.drop s0)) := Lib.hid ⟨hr2, fun a h => by rw [hz]; exact HL.out.vlt _ (ht2 a h)⟩
        replace HL := Lib.hid (HL.out.old hb)
        replace HJ := Lib.hid (HJ.out.keep hb)
        replace HD := Lib.hid (HD.out.old hb)
        replace HA : Hid (Row u1 R (pad N Y)) := Lib.hid (HA.out.of (hb.block _ HA.out.lt))
        replace HK := Lib.hid (hR.trans HK.out (Kp.of_old hb))
        replace HMT := Lib.hid (Nat.le_trans HMT.out hb.size)
        clear hb hz hr2 ht2
        try simp only [Act.put, List.getElem_toArray, List.getElem_cons_succ, List.getElem_cons_zero, List.setIfInBounds_toArray, List.set_cons_zero, List.set_cons_succ]
        refine reg_step hR 13 (by kernel_rfl) rfl fun K hK => ?_
        try simp only [Act.put, List.getElem_toArray, List.getElem_cons_succ, List.getElem_cons_zero, List.setIfInBounds_toArray, List.set_cons_zero, List.set_cons_succ]
        rw [if_pos (by rfl)]
        go_simp
        refine (HUP.out _).mono ?_; rintro e u9 ⟨rfl, hu⟩; subst u9
        refine hK.out _ _ (hR.refl _) ?_
        clear hK K
        try simp only [Act.put, List.getElem_toArray, List.getElem_cons_succ, List.getElem_cons_zero, List.setIfInBounds_toArray, List.set_cons_zero, List.set_cons_succ]
        refine reg_take (v := .slice (restAt (some ⟨R, 0, none⟩) N tt) (up - tt) (N - tt)) hR 14 rfl (by kernel_rfl) (by kernel_rfl) (by kernel_rfl) (fun _ _ _ h => by cases h.1) (by rfl) ?_ ?_
        · intro W hW; exact exec_slice31_mid _ _ _ rfl rfl rfl rfl htu huN rfl rfl
        try simp only [Act.put, List.getElem_toArray, List.getElem_cons_succ, List.getElem_cons_zero, List.setIfInBounds_toArray, List.set_cons_zero, List.set_cons_succ]
        refine reg_step hR 15 (by kernel_rfl) rfl fun K hK => ?_
        try simp only [Act.put, List.getElem_toArray, List.getElem_cons_succ, List.getElem_cons_zero, List.setIfInBounds_toArray, List.set_cons_zero, List.set_cons_succ]
        rw [if_pos (by rfl)]
        go_simp
        have hb := bl_alloc (bl0 u1) (.cells #[.slice A2 nt c2, .slice (restAt (some ⟨R, 0, none⟩) N tt) (up - tt) (N - tt)] 31)
        refine hK.out _ _ (show Kp (fun x => x = m) _ _ from Kp.of_old hb) ?_
        clear hK K
        have HRL := Lib.hid (Rl.of [X.drop s0, List.replicate (up - tt) 0] [.slice A2 nt c2, .slice (restAt (some ⟨R, 0, none⟩) N tt) (up - tt) (N - tt)] rfl (fun j x hx => by rcases j with _ | _ | j; (simp only [List.getElem?_cons_zero, Option.some.injEq] at hx; subst hx; exact ⟨_, _, _, rfl, HS2.out⟩); (simp only [List.getElem?_cons_succ, List.getElem?_cons_zero, Option.some.injEq] at hx; subst hx; exact ⟨_, _, _, rfl, HMD.out _ HA.out⟩); (simp at hx)) 31)
        replace HL := Lib.hid (HL.out.old hb)
        replace HJ := Lib.hid (HJ.out.keep hb)
        replace HD := Lib.hid (HD.out.old hb)
        replace HK := Lib.hid (hR.trans HK.out (Kp.of_old hb))
        replace HMT := Lib.hid (Nat.le_trans HMT.out hb.size)
        clear hb HS2 HA
        generalize hgw : u1.alloc (.cells #[.slice A2 nt c2, .slice (restAt (some ⟨R, 0, none⟩) N tt) (up - tt) (N - tt)] 31) = u2 at HRL HL HJ HD HK HMT ⊢
        clear hgw
        generalize hg5 : u1.heap.size = g5 at HRL ⊢
        clear hg5
        try simp only [Act.put, List.getElem_toArray, List.getElem_cons_succ, List.getElem_cons_zero, List.setIfInBounds_toArray, List.set_cons_zero, List.set_cons_succ]
        refine reg_step hR 16 (by kernel_rfl) rfl fun K hK => ?_
        try simp only [Act.put, List.getElem_toArray, List.getElem_cons_succ, List.getElem_cons_zero, List.setIfInBounds_toArray, List.set_cons_zero, List.set_cons_succ]
        rw [if_pos (by rfl)]
        go_simp
        refine (Concat_any u2 HRL.out (by simp) (by rw [HFL.out, HBL.out]; omega) (by rw [HFL.out, HBL.out]; omega)).mono ?_; rintro e u3 ⟨v6, rfl, ho, hb⟩
        rw [HFL.out] at ho
        obtain ⟨ad6, c6, rfl, hc6, hr6, had6⟩ := ho.full (by rw [HBL.out]; omega)
        rw [HBL.out] at hr6 ⊢
        refine hK.out _ _ (show Kp (fun x => x = m) _ _ from Kp.of_old hb) ?_
        clear hK K
        have HR6 := Lib.hid hr6
        have HC6 := Lib.hid hc6
        have HAD : Hid (ad6.block ≠ m) := Lib.hid (by have := HMT.out; omega)
        replace HL := Lib.hid (HL.out.old hb)
        replace HJ := Lib.hid (HJ.out.keep hb)
        replace HD := Lib.hid (HD.out.old hb)
        replace HK := Lib.hid (hR.trans HK.out (Kp.of_old hb))
        clear hb ho hr6 hc6 had6 HRL HMT
        try simp only [Act.put, List.getElem_toArray, List.getElem_cons_succ, List.getElem_cons_zero, List.setIfInBounds_toArray, List.set_cons_zero, List.set_cons_succ]
        refine reg_step hR 17 (by kernel_rfl) rfl fun K hK => ?_
        try simp only [Act.put, List.getElem_toArray, List.getElem_cons_succ, List.getElem_cons_zero, List.setIfInBounds_toArray, List.set_cons_zero, List.set_cons_succ]
        rw [if_pos (by rfl)]
        go_simp
        obtain ⟨lr, hbk⟩ := HL.out.bk
        refine (HWR.out _ HJ.out _ _ _ hbk HD.out _ _ HR6.out HC6.out ⟨HAD.out, nJm.out⟩).mono ?_; rintro e u4 ⟨rfl, hd4, hk4⟩
        refine hK.out _ _ hk4 ?_
        clear hK K
        try simp only [Act.put, List.getElem_toArray, List.getElem_cons_succ, List.getElem_cons_zero, List.setIfInBounds_toArray, List.set_cons_zero, List.set_cons_succ]
        refine reg_take (v := .int .i64 0) hR 18 rfl (by kernel_rfl) (by kernel_rfl) (by kernel_rfl) (fun _ _ _ h => by cases h.1) (by rfl) ?_ ?_
        · intro W hW; go_simp; try with_reducible rfl
        try simp only [Act.put, List.getElem_toArray, List.getElem_cons_succ, List.getElem_cons_zero, List.setIfInBounds_toArray, List.set_cons_zero, List.set_cons_succ]
        refine reg_done (by kernel_rfl) ?_ _
        refine ⟨rfl, A2, c2, g5, ad6, c6, ?_, Lib.hid hd4, Lib.hid (hR.trans HK.out hk4)⟩
        simp only [puts, List.foldl_cons, List.foldl_nil, Act.put, List.getElem_toArray, List.getElem_cons_succ, List.getElem_cons_zero, List.setIfInBounds_toArray, List.set_cons_zero, List.set_cons_succ]
      · rintro a' w8 ⟨A2, c2, g5, ad6, c6, rfl, HD8, HK8⟩
        simp only [puts, List.foldl_cons, List.foldl_nil, Act.put, List.getElem_toArray, List.getElem_cons_succ, List.getElem_cons_zero, List.setIfInBounds_toArray, List.set_cons_zero, List.set_cons_succ]
        go_wp2
        go_ret
        have hdL := HJD.out.dL
        have hm5 := HJD.out.lt
        have hv2 : ∀ j, j < w5.heap.size → v1.ownBlock ≠ some j → v2.ownBlock ≠ some j := fun j hj hn e => by
          rcases HV6.out with h | ⟨x, h, hx⟩
          · exact hn (h ▸ e)
          · rw [h] at e; injection e with e; omega
        have hmm := hdL m (by simp)
        have hapc : wr C (f + i0) bb q = apC C E area rs (rs ++ [(k, d)]) := by
          unfold apC
          rw [HY.out, HFR.out, HI0.out, HXX.out, HXL7.out, HJ0.out, HN.out, HFF.out, show j0 - i0 = q by rw [HQ.out]; omega]
          refine wr_congr q fun x hx => ?_
          have h1 := tail_pad (X := X) (N := N) (s := s0) (u := up) (by rw [HXL7.out]; omega) (by rw [HXL7.out]; omega) huN
          rw [HXL7.out, ← HBB.out, ← HQS.out, ← HS0.out, Nat.mul_comm i0 256] at h1
          rw [h1, sect_part _ hx, sect_drop]
        have hD9 := HD8.out
        rw [hapc] at hD9
        have hst : Stp (jF J p s m L v1) (jF J p s m L v2) w5 w8 := ⟨(HK7.out.mono (fun x e => .inr e)).via HK8.out (fun x _ e => .inl (.inr (.inr (.inr e)))), fun x e => by
          rcases e with e | e | e
          · exact .inl (.inl e)
          · exact .inl (.inr (.inl e))
          · rcases HV6.out with h | ⟨y, h, hy⟩
            · rw [h] at e; exact .inl (.inr (.inr e))
            · rw [h] at e; injection e with e; exact .inr (by omega)⟩
        refine ⟨v2, HK5.out.trans hst, .inr ⟨by rw [HN.out, HXX.out, HXL7.out]; exact htN, rfl, ?_⟩⟩
        exact { HJD.out with
          hj := HJ7.out.kp HK8.out nJm.out
          hl := HL7.out.kp HK8.out (fun e => hmm.1 e.symm) (fun j hj e => hv2 m (hm5 m (.inl (by simp))) hmm.2 (e ▸ hj))
          hd := hD9
          hs := by rw [apC, wr_length]; exact HJD.out.hs
          hA := by
            refine rdS_append HJD.out.hd.hC HJD.out.hd.hB HJD.out.fs HJD.out.hA (recB (endR (fstC E) rs) k d) (by rw [HY.out, HXX.out]; exact HSE.out.1) (by rw [HN.out, HXX.out, HXL7.out]; exact htN) rfl ?_
            rw [HY.out, HFR.out, HI0.out, HXX.out, HXL7.out, HJ0.out]
            omega
          hf := by rw [HN.out, HXX.out, HXL7.out]; exact htN
          hv := fun x hx => by
            rcases List.mem_append.1 hx with h | h
            · exact HJD.out.hv x h
            · rw [List.mem_singleton.1 h]; exact HV.out
          dL := fun x hx => ⟨(hdL x hx).1, hv2 x (hm5 x (.inl hx)) (hdL x hx).2⟩ }
  · go_wp2
    go_ret
    refine ⟨v1, HK5.out, .inl ⟨by rw [HN.out, HXL.out]; omega, rfl, HJ5.out⟩⟩
end
end Go.Proofs.YtgpfognglpfmoaaGreatDoor
end
section
/- The heads on a disk: they stay what they are, whatever is done to the areas; a beginning puts the next one. -/
namespace Go.Proofs.YtgpfognglpfmoaaGreatDoor
set_option maxRecDepth 8192
set_option linter.unusedSimpArgs false
set_option linter.unusedVariables false
open Go.RowKit

/-- The heads are on the disk itself, and are those of a journal in epoch E. -/
structure Hz (B : List UInt8) (C : Ca) (area E : Nat) : Prop where
  free : ∀ i, i < 2 → C.getD i none = none
  now : sect B (E % 2) = headB E area
  first : E = 0 → rdHead (sect B 1) = (0, 0)
  last : 1 ≤ E → sect B ((E - 1) % 2) = headB (E - 1) area

section
variable {B : List UInt8} {C : Ca} {area E : Nat} {rs rs' : List (UInt8 × List UInt8)}
theorem Hz.look (h : Hz B C area E) {i : Nat} (hi : i < 2) : look B C i = sect B i := by unfold Proofs.YtgpfognglpfmoaaGreatDoor.look; rw [h.free i hi]; rfl
theorem Hz.hds (h : Hz B C area E) : Hds B C area E :=
  ⟨by rw [h.look (by omega)]; exact h.now, fun e => by rw [h.look (by omega)]; exact h.first e, fun e => by rw [h.look (by omega)]; exact h.last e⟩
theorem free_noC (n : Nat) : ∀ i, i < 2 → (noC n).getD i none = none := fun i _ => noC_getD n i
theorem rdHead_zero : rdHead (List.replicate 256 0) = (0, 0) := by decide +kernel

theorem Hz.same {B' : List UInt8} {C' : Ca} (h : Hz B C area E) (hf : ∀ i, i < 2 → C'.getD i none = none) (hs : ∀ i, i < 2 → sect B' i = sect B i) : Hz B' C' area E :=
  ⟨hf, by rw [hs _ (by omega)]; exact h.now, fun e => by rw [hs _ (by omega)]; exact h.first e, fun e => by rw [hs _ (by omega)]; exact h.last e⟩
theorem Hz.crash (h : Hz B C area E) (hC : ∀ x, some x ∈ C → x.length = 256) (hB : B.length = 256 * C.length) (h2 : 2 ≤ C.length) (k : List Bool) : Hz (settle C (chosen (idx 0 C) k) B) (noC C.length) area E :=
  h.same (free_noC _) fun i hi => by
    have hk := look_crash hC hB k (j := i) (by omega)
    rw [look_noC] at hk
    rw [hk, if_neg fun hm => ?_]
    have hm := (idx_mem C 0 i).1 (by rw [Nat.zero_add]; exact chosen_sub _ _ i hm)
    obtain ⟨x, e⟩ := hm
    rw [h.free i hi] at e
    cases e
theorem Hz.flush (h : Hz B C area E) (hC : ∀ x, some x ∈ C → x.length = 256) (hB : B.length = 256 * C.length) (h2 : 2 ≤ C.length) : Hz (settle C (idx 0 C) B) (noC C.length) area E :=
  h.same (free_noC _) fun i hi => by
    have hk := look_flush hC hB (j := i) (by omega)
    rw [look_noC] at hk
    rw [hk, h.look hi]
theorem wr_getD {C : Ca} {a : Nat} {b : List UInt8} {i : Nat} (hi : i < a) : ∀ k, (wr C a b k).getD i none = C.getD i none
  | 0 => rfl
  | k + 1 => by
    rw [wr, List.getD_eq_getElem?_getD, List.getElem?_set_ne (by omega), ← List.getD_eq_getElem?_getD, wr_getD hi k]
theorem Hz.append (h : Hz B C area E) : Hz B (apC C E area rs rs') area E :=
  h.same (fun i hi => by rw [apC, wr_getD (by omega)]; exact h.free i hi) fun i _ => rfl
theorem sect_beg (hC : ∀ x, some x ∈ C → x.length = 256) (hB : B.length = 256 * C.length) (hs : 2 + 2 * area ≤ C.length) (hf : (recsB (fstC E) rs).length ≤ area * 256) {i : Nat} (hi : i < 2) :
    sect (begB B C E area rs) i = if i = E % 2 then headB E area else Proofs.YtgpfognglpfmoaaGreatDoor.look B C i := by
  have h := look_beg hC hB hs hf (i := i) (by omega)
  rw [look_noC] at h
  rw [h]
  split
  · rfl
  · rw [if_neg (by omega)]
theorem Hz.begin_ (h : Hz B C area E) (hC : ∀ x, some x ∈ C → x.length = 256) (hB : B.length = 256 * C.length) (hs : 2 + 2 * area ≤ C.length) (hf : (recsB (fstC (E + 1)) rs).length ≤ area * 256) : Hz (begB B C (E + 1) area rs) (noC C.length) area (E + 1) :=
  ⟨free_noC _, by rw [sect_beg hC hB hs hf (by omega), if_pos rfl], fun e => by omega, fun _ => by
    rw [sect_beg hC hB hs hf (by omega), if_neg (by omega), h.look (by omega)]
    exact h.now⟩
theorem Hz.format (hC : ∀ x, some x ∈ C → x.length = 256) (hB : B.length = 256 * C.length) (hs : 2 + 2 * area ≤ C.length) : Hz (begB B (C.set 1 (some (List.replicate 256 0))) 0 area []) (noC C.length) area 0 := by
  have hl : (C.set 1 (some (List.replicate 256 (0 : UInt8)))).length = C.length := List.length_set
  have hC' := set_ok hC (x := List.replicate 256 0) (by simp) 1
  have hsb := fun i (hi : i < 2) => sect_beg (rs := []) (E := 0) (area := area) (B := B) hC' (by rw [hl]; exact hB) (by rw [hl]; exact hs) (by simp [recsB]) hi
  refine ⟨free_noC _, by rw [hsb _ (by omega), if_pos rfl], fun _ => ?_, fun e => by omega⟩
  rw [hsb 1 (by omega), if_neg (by omega), look_set (by omega), if_pos rfl]
  exact rdHead_zero
theorem apC_length : (apC C E area rs rs').length = C.length := wr_length _ _ _ _
theorem crash_none (k : List Nat) : chosen k [] = [] := by cases k <;> rfl
theorem settle_none : settle C [] B = B := rfl
/-- Nothing that a crash keeps: the area is what it was on the disk itself. -/
theorem rdS_noC (f n a : Nat) (C' : Ca) (h : ∀ k, k < a → C'.getD (f + k) none = none) : rdS B C' f a = rdS B (noC n) f a :=
  rdS_ext a fun k hk => by unfold Proofs.YtgpfognglpfmoaaGreatDoor.look; rw [h k hk, noC_getD]
end
end Go.Proofs.YtgpfognglpfmoaaGreatDoor
end
