/- A number's bytes by words: times. -/
import Derived.Test.YtdfaliadkpdfpaaIt
namespace Go.Proofs.Ytdfaliadkpdfpaa
set_option linter.unusedSimpArgs false
set_option linter.unusedVariables false
open Go.RowKit Go.Shelf

attribute [local go_sem] Oper.semAt_some

/-- What the bits of a byte make of a number, the highest i of them. -/
def qb (P u i : Nat) : Nat := 2 ^ i * P + u / 2 ^ (8 - i)
theorem qb_0 (P u : Nat) (hu : u < 256) : qb P u 0 = P := by
  unfold qb
  simp
  omega
theorem qb_8 (P u : Nat) : qb P u 8 = u + 256 * P := by
  unfold qb
  simp
  omega
theorem qb_step (P u i : Nat) (hi : i < 8) : qb P u (i + 1) = 2 * qb P u i + u / 2 ^ (7 - i) % 2 := by
  unfold qb
  have : i = 0 ∨ i = 1 ∨ i = 2 ∨ i = 3 ∨ i = 4 ∨ i = 5 ∨ i = 6 ∨ i = 7 := by omega
  rcases this with rfl | rfl | rfl | rfl | rfl | rfl | rfl | rfl <;> simp <;> omega
theorem bit_top : ∀ (i : Fin 8) (u : Fin 256), decide (128 ≤ (u.val : Int) * 2 ^ i.val % 256) = decide (u.val / 2 ^ (7 - i.val) % 2 = 1) := by decide +kernel

theorem OwnFrom.kp {β : Type} (B o : Nat) (w1 : World) (f : β → List Value) (hB : w1.heap.size ≤ B) (ho : o < w1.heap.size) : OwnFrom B (fun (s : β) W => Bk W o (f s) ∧ Kp (· = o) w1 W) :=
  fun s W W' row hs hg hr => by
    have hne : ∀ k, k < w1.heap.size → some k ≠ row := fun k hk e => by have := (hr k e.symm).1; omega
    refine ⟨?_, ?_⟩
    · obtain ⟨t, h⟩ := hs.1
      exact ⟨t, (hg.block o (by have := hs.2.size; omega) (hne o ho)).trans h⟩
    · exact ⟨hg.os.trans hs.2.os, hg.tape.trans hs.2.tape, hg.output.trans hs.2.output, Nat.le_trans hs.2.size hg.size, fun k hk hm => (hg.block k (by have := hs.2.size; omega) (hne k hk)).trans (hs.2.block k hk hm)⟩
theorem KeepsOthers.of_kp {o : Nat} {W W' : World} {cs : List Value} (h : Kp (· = o) W W') (hb : Bk W o cs) : KeepsOthers W W' :=
  ⟨h.size, fun k ob hk ho => by
    obtain ⟨t, hb⟩ := hb
    have hlt := (Array.getElem?_eq_some_iff.1 hk).1
    refine (h.block k hlt (fun e => ?_)).trans hk
    subst e
    rw [hb] at hk
    injection hk with hk
    subst hk
    cases ho⟩

set_option maxRecDepth 100000 in
set_option maxHeartbeats 2000000 in
theorem times_any (A : Option Addr) (m c : Nat) (bs : List UInt8) (hm : m ≤ 1000000) (n g : Nat) (hn : n < LL) (w : World) (hr : Rd w w.heap.size A m c bs) (hg : Bk w g (cs64 (wd n))) :
    Calls Try.prog 17 #[.slice A m c, .pointer (some ⟨g, 0, none⟩)] w fun e w' => e = .returned (.agg (cs64 (wd (val bs * n % LL))).toArray) ∧ Below w.heap.size w w' := by
  have HM := Lib.hid hm
  have HR := Lib.hid hr
  have HG := Lib.hid hg
  have HN := Lib.hid hn
  have hgl := hg.lt
  clear hm hr hg hn
  refine (callsIn_wide (n := 5)).1 ?_
  refine callsIn_of_wp_marks Try.func17 rfl trivial ?_ rfl
  simp only [Try.ntmps17, List.size_toArray, List.length_cons, List.length_nil, Nat.reduceAdd, Nat.reduceSub, Array.replicate_succ, Array.replicate_zero, List.push_toArray, List.append_toArray, List.nil_append, List.cons_append]
  refine wpIn_wide.2 ?_
  go_wp2_with (first | (refine wpList_alloc_z rfl 40 rfl z40 zero40 ?_) | fail)
  refine (callsIn_wide.1 (bwd_in Fence.wide 5 trivial rfl A m c _)).mono ?_; rintro e w' ⟨rfl, rfl⟩
  go_wp2_with fail
  refine (wpIn_wide (n := 5)).1 ?_
  have HZ : cs64 (wd (val (([] : List (Int × UInt8)).map (·.2)).reverse * n % LL)) = z40 := by
    rw [show val (([] : List (Int × UInt8)).map (·.2)).reverse * n % LL = 0 by simp [val]]
    rfl
  have hB1 := bl_alloc (bl_alloc (bl_alloc (bl0 w) (.cells #[.pointer (some ⟨g, 0, none⟩)] 44)) (.cells z40.toArray 40)) (.cells #[.slice A m c] 22)
  have hs1 : (((w.alloc (.cells #[.pointer (some ⟨g, 0, none⟩)] 44)).alloc (.cells z40.toArray 40)).alloc (.cells #[.slice A m c] 22)).heap.size = w.heap.size + 3 := by simp
  have hO1 : Bk (((w.alloc (.cells #[.pointer (some ⟨g, 0, none⟩)] 44)).alloc (.cells z40.toArray 40)).alloc (.cells #[.slice A m c] 22)) (w.heap.size + 1) z40 := by
    have := (Bk.new (w.alloc (.cells #[.pointer (some ⟨g, 0, none⟩)] 44)) z40 40).old (.cells #[.slice A m c] 22)
    simpa using this
  have hX1 : Bk (((w.alloc (.cells #[.pointer (some ⟨g, 0, none⟩)] 44)).alloc (.cells z40.toArray 40)).alloc (.cells #[.slice A m c] 22)) w.heap.size [.pointer (some ⟨g, 0, none⟩)] := ((Bk.new w [.pointer (some ⟨g, 0, none⟩)] 44).old _).old _
  have hS1 : Bk (((w.alloc (.cells #[.pointer (some ⟨g, 0, none⟩)] 44)).alloc (.cells z40.toArray 40)).alloc (.cells #[.slice A m c] 22)) (w.heap.size + 1 + 1) [.slice A m c] := by
    have := Bk.new ((w.alloc (.cells #[.pointer (some ⟨g, 0, none⟩)] 44)).alloc (.cells z40.toArray 40)) [.slice A m c] 22
    simpa using this
  have hG1 := HG.out.keep hB1
  generalize (((w.alloc (.cells #[.pointer (some ⟨g, 0, none⟩)] 44)).alloc (.cells z40.toArray 40)).alloc (.cells #[.slice A m c] 22)) = w1 at hB1 hs1 hO1 hX1 hS1 hG1 ⊢
  refine wpIn_rangeFunc_ownG (F := Fence.wide) (n := 5) rfl (by omega) (gf := 25) (lb := #[.pointer (some ⟨w.heap.size + 1 + 1, 0, none⟩)]) rfl trivial (enters_of Try.func25 (by kernel_rfl) rfl)
    (bwd_stops Fence.wide 4 trivial rfl (by omega) (w.heap.size + 1 + 1) w.heap.size A m c bs HM.out w1 (by omega) (by omega) (hS1.cell rfl) (HR.out.below hB1)) Kb.trans
    (fun W l o o' h1 h2 h3 h4 => ⟨belowK_b (w := w1) (by omega) W l o o' h1 h2 h3 h4, World.putObj_heap_other (by omega)⟩) (Below.refl _ _) (fun _ => rfl)
    (fun pre W => Bk W (w.heap.size + 1) (cs64 (wd (val (pre.map (·.2)).reverse * n % LL))) ∧ Kp (· = w.heap.size + 1) w1 W)
    (fun _ _ _ => False)
    (OwnFrom.kp _ _ w1 _ (Nat.le_refl _) (by omega))
    (fun _ _ _ _ _ hs _ _ => hs)
    ⟨by rw [HZ]; exact hO1, (Kp.stays _).refl _⟩
    (fun x => { tmps := #[.slice A m c, .pointer (some ⟨g, 0, none⟩), undef, .pointer (some ⟨w.heap.size, 0, none⟩), .pointer (some ⟨w.heap.size + 1, 0, none⟩), undef, .int .u8 (x.2.toNat : Int), undef, .slice A m c, .func (.func 25) #[] #[.pointer (some ⟨w.heap.size + 1 + 1, 0, none⟩)], .int .i64 x.1, .int .u8 (x.2.toNat : Int), undef, undef, undef, undef, undef, undef, undef, undef, undef, undef, undef, undef], defers := [] }) ?assign ?body ?done ?stop
  case assign =>
    intro l x W K hK
    gi_wp2
    exact hK
  case body =>
    rintro l pre ⟨ix, u⟩ W ⟨hb, hk⟩ _
    have hu := u.toNat_lt
    have HP := Lib.hid (show val ((pre ++ [(ix, u)]).map (·.2)).reverse * n % LL = qb (val (pre.map (·.2)).reverse) u.toNat 8 * n % LL by
      rw [qb_8, List.map_append, List.reverse_append]; rfl)
    have HB := Lib.hid (show Bk W (w.heap.size + 1) (cs64 (wd (qb (val (pre.map (·.2)).reverse) u.toNat 0 * n % LL))) by rw [qb_0 _ _ hu]; exact hb)
    have HK := Lib.hid hk
    have hcx := (hk.cell (p := ⟨w.heap.size, 0, none⟩) (by show w.heap.size < w1.heap.size; omega) (by simp)).trans (hX1.cell (k := 0) rfl)
    have HGW := Lib.hid (hG1.kp hk (by omega))
    generalize val (pre.map (·.2)).reverse = P at HP HB
    have HLT := Lib.hid (fun i => Nat.mod_lt (qb P u.toNat i * n) LL_pos)
    have HB0 := HB
    clear hb hk hX1 hS1 hO1 hB1 hG1
    gi_wp2
    gi_loopw [12] (fun v wr => ∃ i : Nat, i ≤ 8 ∧ v = .int .i64 (i : Int) ∧ Hid (Bk wr (w.heap.size + 1) (cs64 (wd (qb P u.toNat i * n % LL)))) ∧ Hid (Kp (· = w.heap.size + 1) W wr)) (fun v _ => 8 - (intOf v).toNat)
    case atStart => exact ⟨0, by omega, rfl, HB, Lib.hid ((Kp.stays _).refl _)⟩
    case round =>
      clear HB
      obtain ⟨i, hi, rfl, HB, HW⟩ := hrel
      by_cases hlt : i < 8
      · have HX := Lib.hid (HLT.out i)
        have HY := Lib.hid (show (qb P u.toNat i * n % LL + qb P u.toNat i * n % LL) % LL = 2 * qb P u.toNat i * n % LL by rw [← Nat.add_mod]; congr 1; rw [Nat.mul_assoc]; omega)
        have HYL := Lib.hid (Nat.mod_lt (2 * qb P u.toNat i * n) LL_pos)
        have HQ := Lib.hid (qb_step P u.toNat i hlt)
        have HT := Lib.hid (bit_top ⟨i, hlt⟩ ⟨u.toNat, hu⟩)
        by_cases hbit : u.toNat / 2 ^ (7 - i) % 2 = 1
        · have HQ2 := Lib.hid (show (2 * qb P u.toNat i * n % LL + n) % LL = qb P u.toNat (i + 1) * n % LL by
            rw [HQ.out, hbit, Nat.mod_add_mod, Nat.add_mul, Nat.one_mul])
          have hd : (128 : Int) ≤ (u.toNat : Int) * 2 ^ i % 256 := by
            have := HT.out
            rw [decide_eq_true (show (⟨u.toNat, hu⟩ : Fin 256).val / 2 ^ (7 - (⟨i, hlt⟩ : Fin 8).val) % 2 = 1 from hbit), decide_eq_true_iff] at this
            exact this
          clear hbit
          gi_wp2_with fail
          refine ⟨trivial, ?_⟩
          refine (CallsIn.inRound l (callsIn_wide.2 (add_any (qb P u.toNat i * n % LL) (qb P u.toNat i * n % LL) (w.heap.size + 1) (w.heap.size + 1) wr (by have := HX.out; omega) HB.out HB.out))).mono ?_; rintro e w2 ⟨⟨v, rfl⟩, hb2, hk2⟩
          rw [HY.out] at hb2
          have HB2 := Lib.hid hb2
          have HK2 := Lib.hid ((Kp.stays _).trans HW.out hk2)
          have hsz := HK.out.size
          have hcx2 := (HK2.out.cell (p := ⟨w.heap.size, 0, none⟩) (by show w.heap.size < W.heap.size; omega) (by simp)).trans hcx
          have HG2 := Lib.hid (HGW.out.kp HK2.out (by omega))
          clear hb2 hk2
          gi_wp2_with fail
          refine ⟨trivial, ?_⟩
          refine (CallsIn.inRound l (callsIn_wide.2 (add_any (2 * qb P u.toNat i * n % LL) n (w.heap.size + 1) g w2 (by have := HYL.out; have := HN.out; omega) HB2.out HG2.out))).mono ?_; rintro e w3 ⟨⟨v3, rfl⟩, hb3, hk3⟩
          rw [HQ2.out] at hb3
          have HB3 := Lib.hid hb3
          have HK3 := Lib.hid ((Kp.stays _).trans HK2.out hk3)
          clear hb3 hk3
          gi_wp2
          go_roundw
          case rel => exact ⟨i + 1, by omega, by go_num, HB3, HK3⟩
          case measure => simp [intOf]; omega
        · have hb0 : u.toNat / 2 ^ (7 - i) % 2 = 0 := by omega
          have HQ2 := Lib.hid (show 2 * qb P u.toNat i * n % LL = qb P u.toNat (i + 1) * n % LL by rw [HQ.out, hb0, Nat.add_zero])
          have hd : ¬ (128 : Int) ≤ (u.toNat : Int) * 2 ^ i % 256 := by
            have := HT.out
            rw [decide_eq_false (show ¬ (⟨u.toNat, hu⟩ : Fin 256).val / 2 ^ (7 - (⟨i, hlt⟩ : Fin 8).val) % 2 = 1 from hbit), decide_eq_false_iff_not] at this
            exact this
          clear hbit hb0
          gi_wp2_with fail
          refine ⟨trivial, ?_⟩
          refine (CallsIn.inRound l (callsIn_wide.2 (add_any (qb P u.toNat i * n % LL) (qb P u.toNat i * n % LL) (w.heap.size + 1) (w.heap.size + 1) wr (by have := HX.out; omega) HB.out HB.out))).mono ?_; rintro e w2 ⟨⟨v, rfl⟩, hb2, hk2⟩
          rw [HY.out, HQ2.out] at hb2
          have HB2 := Lib.hid hb2
          have HK2 := Lib.hid ((Kp.stays _).trans HW.out hk2)
          clear hb2 hk2
          gi_wp2
          go_roundw
          case rel => exact ⟨i + 1, by omega, by go_num, HB2, HK2⟩
          case measure => simp [intOf]; omega
      · obtain rfl : i = 8 := by omega
        have hsz := HK.out.size
        gi_wp2
        refine ⟨(KeepsOthers.of_kp HW.out HB0.out).from _, ⟨⟨HW.out.os, HW.out.tape, HW.out.output, HW.out.size, fun k hk => HW.out.block k (by omega) (by omega)⟩, HW.out.block _ (by omega) (by omega)⟩, ?_, (Kp.stays _).trans HK.out HW.out⟩
        rw [HP.out]
        exact HB.out
  case done =>
    rintro D ys W hD hys ⟨hb, hk⟩ hK
    rw [hys, List.reverse_reverse] at hb
    have HI := Lib.hid (show (Try.prog.info? 40).map (·.size) = some (cs64 (wd (val bs * n % LL))).length by rw [cs64_length, wd_length]; exact info40)
    have HB := Lib.hid hb
    have HW := Lib.hid hk
    have HD := Lib.hid hD
    have HKD := Lib.hid hK
    clear hb hk hK hys
    go_wp2_with (first | (refine wpList_load_at rfl 40 _ rfl _ rfl (cs64 (wd (val bs * n % LL))) _ (HB.out.at_) Try.underlying40 rfl HI.out ?_) | (refine wpList_store_bk rfl 40 _ _ rfl (w.heap.size + 1) rfl (cs64 (wd (val bs * n % LL))) (cs64 (wd (val bs * n % LL))) rfl HB.out HI.out rfl (cs64_one _) ?_))
    have hK2 : (W.setRow (w.heap.size + 1) (cs64 (wd (val bs * n % LL))).toArray).heap[D]? = some (.deferred (some [])) := (setRow_other _ _ _ _ (by have := HD.out; omega)).trans HKD.out
    obtain ⟨t, ht⟩ := HB.out.setRow (cs64 (wd (val bs * n % LL)))
    refine ⟨by simp, .inl ⟨_, _, rfl, run_takeDeferred hK2, ?_⟩⟩
    have ht2 := (World.putObj_heap_other (o := .deferred none) (show w.heap.size + 1 ≠ D by have := HD.out; omega)).trans ht
    refine ⟨_, results_cell_row (ty := 40) rfl _ _ (w.heap.size + 1) t (cs64 (wd (val bs * n % LL))).toArray (0, 0) _ rfl ht2 Try.underlying40 rfl (by simpa using HI.out), rfl, ?_⟩
    have hbw := bl_setRow (bl_kp hB1 HW.out (by intro k hk; omega)) (show w.heap.size ≤ w.heap.size + 1 by omega) (cs64 (wd (val bs * n % LL))).toArray
    exact hbw.trans (belowK_b (w := w) (Nat.le_refl _) _ D _ _ (by have := HD.out; omega) hK2 rfl rfl)
  case stop =>
    rintro D c pre W _ _ h _
    exact h.elim
end Go.Proofs.Ytdfaliadkpdfpaa
