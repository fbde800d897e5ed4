/- A call that is gone through: what becomes of the disk. -/
import Derived.Test.YtphifbhgocjhcaaFl
import Derived.Test.YtphifbhgocjhcaaFm
namespace Go.Proofs.Ytphifbhgocjhcaa
set_option linter.unusedSimpArgs false
set_option linter.unusedVariables false
open Go.RowKit Go.Maps

theorem undrewN {w W : World} (h : Below w.drew.heap.size w.drew W) : Below w.heap.size w W := ⟨h.os, h.tape, h.output, h.size, h.block⟩
theorem redrewN {w W : World} (h : Below w.heap.size w W) : Below w.drew.heap.size w.drew W := ⟨h.os, h.tape, h.output, h.size, h.block⟩
/-- What becomes of a disk by a Write. -/
def wrS (at_ : Int) (b : UInt8) (long : Bool) (S : List UInt8 × Ca) : List UInt8 × Ca := if 0 ≤ at_ ∧ at_ < S.2.length ∧ long = false then (S.1, S.2.set at_.toNat (some (wrote b))) else S
/-- What Write answers. -/
def wrE (at_ : Int) (long : Bool) (S : List UInt8 × Ca) : Int := if 0 ≤ at_ ∧ at_ < S.2.length ∧ long = false then 0 else 2
/-- What becomes of a disk by a call. -/
def doA (a : Act_) (S : List UInt8 × Ca) : List UInt8 × Ca :=
  if pickN a.kind 5 = 0 then S
  else if pickN a.kind 5 = 3 then (settle S.2 (idx 0 S.2) S.1, noC S.2.length)
  else if pickN a.kind 5 = 4 then (settle S.2 (chosen (idx 0 S.2) a.keep) S.1, noC S.2.length)
  else wrS a.at_ a.b a.long S
theorem doA_len (a : Act_) (S : List UInt8 × Ca) : (doA a S).2.length = S.2.length := by
  unfold doA noC wrS
  split
  · rfl
  · split
    · simp
    · split
      · simp
      · split <;> simp

theorem info_bool : (Try.prog.info? 4).map (fun i => (i.zero, i.size, i.bytes)) = some (some (.bool false), 1, 1) := by kernel_rfl
theorem bi_of_row {w : World} {base : Nat} {v : Value} {l : List Bool} (h : w.ownsRow base 4 1 v l.length (l.map Value.bool)) : ∃ A c, v = .slice A l.length c ∧ Bi w w.heap.size A l.length c l := by
  rcases h.2 with ⟨rfl, hn⟩ | ⟨g, cap, cur, rfl, hb, hg, hc, _, _, _⟩
  · rw [hn]
    refine ⟨none, 0, rfl, ?_⟩
    rw [List.eq_nil_of_length_eq_zero hn]
    exact Bi.nil _ _ _ _
  · refine ⟨some ⟨g, 0, none⟩, cap, rfl, rfl, hc, fun hn => ⟨_, rfl, (Array.getElem?_eq_some_iff.1 hg).1, fun j u hu => ?_⟩⟩
    exact World.ownsRow.cells h (g := g) rfl j (.bool u) (by simp [hu])
/-- append([]bool{}, keep...). -/
theorem run_appb {w : World} {top n c : Nat} {A : Option Addr} {l : List Bool} (hr : Bi w top A n c l) (ht : top ≤ w.heap.size) (hn : n ≤ 4294967296) (ty : TypeId) :
    ∃ A' c' w', (Builtin.append_ #[44, 44] ty #[.slice (some ⟨w.heap.size, 0, none⟩) 0 0, .slice A n c]).run Try.prog (w.alloc (.cells #[] 4)) = .ok (.slice A' n c') w' ∧ Bi w' w'.heap.size A' n c' l ∧ Below w.heap.size w w' ∧ w.heap.size < w'.heap.size := by
  obtain ⟨i, hi, hz0, hz1, hz2⟩ := info_parts info_bool
  have hown : (w.alloc (.cells #[] 4)).ownsRow w.heap.size 4 1 (.slice (some ⟨w.heap.size, 0, none⟩) 0 0) 0 [] := World.ownsRow_lit (base := w.heap.size) (e := 4) (size := 1) w #[] 0 (Nat.le_refl _) (by simp only [maxLen]; omega) rfl
  have hr' := hr.below ((Below.refl _ _).alloc ht (.cells #[] 4))
  have hlen := hr.1
  rcases Nat.eq_zero_or_pos n with h0 | h0
  · subst h0
    have hl : l = [] := List.eq_nil_of_length_eq_zero hlen
    subst hl
    refine ⟨some ⟨w.heap.size, 0, none⟩, 0, w.alloc (.cells #[] 4), ?_, Bi.nil _ _ _ _, bl_alloc (bl0 w) _, by simp⟩
    cases A with
    | none => simp [Builtin.append_, run_underlying Try.underlying44, sizeOf, typeInfo, hi, Builtin.lenOf, Builtin.firstCells, storeCells, go_sem]
    | some ad => simp [Builtin.append_, run_underlying Try.underlying44, sizeOf, typeInfo, hi, Builtin.lenOf, Builtin.firstCells, storeCells, loadCells, go_sem]
  · obtain ⟨ad, rfl, _, hc⟩ := hr'.2.2 h0
    obtain ⟨v', w', hrun, h2, h3, _, h5⟩ := run_append_own_at (P := Try.prog) (w.alloc (.cells #[] 4)) w.heap.size 44 ty 4 i (.bool false) 1 1 Try.underlying44 hi hz0 hz1 hz2 rfl (by decide) _ 0 [] hown ad n c (l.map Value.bool)
      (by simp [hlen]) (fun j u hu => by
        simp only [List.getElem?_map, Option.map_eq_some_iff] at hu
        obtain ⟨b, hb, rfl⟩ := hu
        exact hc j b hb) (fun u hu => by obtain ⟨b, _, rfl⟩ := List.mem_map.1 hu; rfl) (by simp only [maxLen]; omega) (by omega) (by simp)
    rw [Nat.zero_add, List.nil_append, ← hlen] at h2
    obtain ⟨A', c', rfl, hb⟩ := bi_of_row h2
    rw [hlen] at hrun hb
    refine ⟨A', c', w', hrun, hb, (bl_alloc (bl0 w) _).grown h3 (by simp) (fun r hr => by simp [Value.ownBlock] at hr; omega), by have := h3.size; rw [size_alloc_one] at this; omega⟩
theorem wpList_appb {w : World} {ops : Array Oper} {rest : List Oper} {o : Oper} {a : Act} {Q : Exit → Act → World → Prop} (hgd : o.guard = none) (s x : Operand)
    (ho : o.op = .call { callee := .builtin .append, args := #[s, x], argTypes := #[44, 44] }) (hs : a.eval s = .slice (some ⟨w.heap.size, 0, none⟩) 0 0) {top n c : Nat} {A : Option Addr} {l : List Bool} (hx : a.eval x = .slice A n c)
    (hr : Bi w top A n c l) (ht : top ≤ w.heap.size) (hn : n ≤ 4294967296)
    (h : ∀ A' c' w', Bi w' w'.heap.size A' n c' l → Below w.heap.size w w' → wpList Try.prog ops Q rest (a.put o.dst (.slice A' n c')) w') : wpList Try.prog ops Q (o :: rest) a (w.alloc (.cells #[] 4)) := by
  refine wpList_plain hgd fun K hK => ?_
  obtain ⟨A', c', w', hrun, h1, h2, _⟩ := run_appb hr ht hn o.type
  unfold Oper.wp execOp
  simp only [ho, resolve, invoke, builtin, Sem.run_bind, Sem.run_pure, Result.andThen_ok, List.map_toArray, List.map_cons, List.map_nil, hs, hx, hrun]
  exact hK _ _ (h A' c' w' h1 h2)

theorem len_false (b : UInt8) (k at_ : Int) (keep : List Bool) : (bytesOf ⟨k, at_, b, false, keep⟩).length = 256 := by
  show (wrote b ++ []).length = 256
  rw [List.append_nil, set_len256]
theorem len_true (b : UInt8) (k at_ : Int) (keep : List Bool) : (bytesOf ⟨k, at_, b, true, keep⟩).length = 257 := by
  show (wrote b ++ [1]).length = 257
  rw [List.length_append, set_len256]
  rfl
theorem by_false (b : UInt8) (k at_ : Int) (keep : List Bool) : bytesOf ⟨k, at_, b, false, keep⟩ = wrote b := List.append_nil _

/-- Write, be it what it may. -/
theorem write_any {w : World} {p s m : Nat} {S : List UInt8 × Ca} (h : Dk w p s m S.1 S.2) (k at_ : Int) (b : UInt8) (long : Bool) (keep : List Bool) {top c : Nat} {A : Option Addr} (hr : Rd w top A (bytesOf ⟨k, at_, b, long, keep⟩).length c (bytesOf ⟨k, at_, b, long, keep⟩)) :
    Calls Try.prog 12 #[ptr p, .int .i64 at_, .slice A (bytesOf ⟨k, at_, b, long, keep⟩).length c] w fun e w' => e = .returned (.int .i64 (wrE at_ long S)) ∧ Dk w' p s m (wrS at_ b long S).1 (wrS at_ b long S).2 ∧ Kp (fun k => k = s ∨ k = m) w w' := by
  unfold wrE wrS
  by_cases hc : 0 ≤ at_ ∧ at_ < S.2.length ∧ long = false
  · simp only [if_pos hc]
    obtain ⟨h0, h1, rfl⟩ := hc
    rw [len_false, by_false] at hr
    rw [len_false]
    have := write_ok h at_.toNat (by omega) hr
    rw [Int.toNat_of_nonneg h0] at this
    exact this.mono fun e w' ⟨a, b, c⟩ => ⟨a, b, c.mono fun k hk => .inr hk⟩
  · simp only [if_neg hc]
    refine (write_bad h at_ (fun hq => hc ⟨hq.1, hq.2.1, ?_⟩)).mono fun e w' ⟨a, b⟩ => ⟨a, by rw [b]; exact h, by rw [b]; exact Kp.refl _ _⟩
    cases long
    · rfl
    · rw [len_true] at hq
      omega
theorem Kp.old_of {may : Nat → Prop} {w w' : World} (h : Kp may w w') : Kp may w w' := h

theorem Old2.stays (may : Nat → Prop) : Stays (Kp may) := Kp.stays may
set_option maxRecDepth 100000 in
theorem do_any {w : World} {p s m : Nat} {S : List UInt8 × Ca} (h : Dk w p s m S.1 S.2) (k at_ : Int) (b : UInt8) (long : Bool) (K : Option Addr) (kc : Nat) (keep : List Bool) {top : Nat} (hk : Bi w top K keep.length kc keep) (ht : top ≤ w.heap.size) (hf : keep.length ≤ 80) :
    Calls Try.prog 30 #[ptr p, .agg #[.int .i64 k, .int .i64 at_, .int .u8 (b.toNat : Int), .bool long, .slice K keep.length kc]] w fun e w' => e = .returned (.tuple #[]) ∧ Dk w' p s m (doA ⟨k, at_, b, long, keep⟩ S).1 (doA ⟨k, at_, b, long, keep⟩ S).2 ∧ Kp (fun k => k = s ∨ k = m) w w' := by
  have HX : ∀ j v, ([.int .i64 k, .int .i64 at_, .int .u8 (b.toNat : Int), .bool long, .slice K keep.length kc] : List Value)[j]? = some v → (w.alloc (.cells #[.int .i64 k, .int .i64 at_, .int .u8 (b.toNat : Int), .bool long, .slice K keep.length kc] 46)).cell? ⟨w.heap.size, j, none⟩ = some v := by
    intro j v hv
    rw [cell_of_row _ w.heap.size j _ 46 (0, 0) (heap_alloc_new w _)]
    simpa using hv
  have HBy : Hid (∀ W : World, Calls Try.prog 25 #[.agg #[.int .i64 k, .int .i64 at_, .int .u8 (b.toNat : Int), .bool long, .slice K keep.length kc]] W fun e w' => ∃ A' c', e = .returned (.slice A' (bytesOf ⟨k, at_, b, long, keep⟩).length c') ∧ Rd w' w'.heap.size A' (bytesOf ⟨k, at_, b, long, keep⟩).length c' (bytesOf ⟨k, at_, b, long, keep⟩) ∧ Below W.heap.size W w') := Lib.hid (fun W => bytes_any W ⟨k, at_, b, long, keep⟩ K kc)
  obtain ⟨w0, hw0⟩ : ∃ w0, w0 = w.alloc (.cells #[.int .i64 k, .int .i64 at_, .int .u8 (b.toNat : Int), .bool long, .slice K keep.length kc] 46) := ⟨_, rfl⟩
  have hb0 : Below w.heap.size w w0 := by rw [hw0]; exact bl_alloc (bl0 w) _
  have HD := Lib.hid (h.old hb0)
  have HB0 := Lib.hid hb0
  have HK := Lib.hid (hk.below (hb0.mono ht))
  have HT := Lib.hid (Nat.le_trans ht hb0.size)
  have HF := Lib.hid hf
  rw [← hw0] at HX
  have hnm : ¬ (w.heap.size = s ∨ w.heap.size = m) := by
    have h1 := h.slt
    have h2 := h.mlt
    omega
  have HQ0 := Lib.hid (fun W (hW : Kp (fun k => k = s ∨ k = m) w0 W) => (hW.cell (p := ⟨w.heap.size, 0, none⟩) (by rw [hw0]; simp) hnm).trans (HX 0 _ rfl))
  have HQ1 := Lib.hid (fun W (hW : Kp (fun k => k = s ∨ k = m) w0 W) => (hW.cell (p := ⟨w.heap.size, 1, none⟩) (by rw [hw0]; simp) hnm).trans (HX 1 _ rfl))
  have HQ2 := Lib.hid (fun W (hW : Kp (fun k => k = s ∨ k = m) w0 W) => (hW.cell (p := ⟨w.heap.size, 2, none⟩) (by rw [hw0]; simp) hnm).trans (HX 2 _ rfl))
  have HQ3 := Lib.hid (fun W (hW : Kp (fun k => k = s ∨ k = m) w0 W) => (hW.cell (p := ⟨w.heap.size, 3, none⟩) (by rw [hw0]; simp) hnm).trans (HX 3 _ rfl))
  have HQ4 := Lib.hid (fun W (hW : Kp (fun k => k = s ∨ k = m) w0 W) => (hW.cell (p := ⟨w.heap.size, 4, none⟩) (by rw [hw0]; simp) hnm).trans (HX 4 _ rfl))
  have hs0 : w.heap.size < w0.heap.size := by rw [hw0]; simp
  have q0 := HX 0 _ rfl
  have q1 := HX 1 _ rfl
  have q4 := HX 4 _ rfl
  have HP := pick_any w0 k 5 (by omega) (by omega)
  have hlt := pickN_lt k 5 (by omega)
  obtain ⟨n, hn⟩ : ∃ n, n = pickN k 5 := ⟨_, rfl⟩
  rw [← hn] at HP hlt
  have HP := Lib.hid HP
  have HN := Lib.hid hn
  have HE : Hid (doA ⟨k, at_, b, long, keep⟩ S = if n = 0 then S else if n = 3 then (settle S.2 (idx 0 S.2) S.1, noC S.2.length) else if n = 4 then (settle S.2 (chosen (idx 0 S.2) keep) S.1, noC S.2.length)
    else wrS at_ b long S) := Lib.hid (by rw [hn]; rfl)
  have HK0 : Hid (∀ W, Kp (fun k => k = s ∨ k = m) w0 W → Kp (fun k => k = s ∨ k = m) w W) := Lib.hid (fun W hW => (Kp.old hb0).trans hW)
  clear hk ht hf hb0 HX h hn
  rw [HE.out]
  rcases (show n = 0 ∨ n = 3 ∨ n = 4 ∨ (n = 1 ∨ n = 2) by omega) with rfl | rfl | rfl | h12
  · go_enter Try.func30, Try.ntmps30
    go_wp2_with fail
    rw [← hw0]
    refine HP.out.mono ?_
    rintro e w1 ⟨rfl, hw1⟩
    rw [hw1]
    have HB0 := HB0
    clear hw1 hw0 q0 HP HN HE
    by_cases hi : 0 ≤ at_ ∧ at_ < S.2.length
    · have HRd := Lib.hid (read_ok HD.out at_.toNat (by omega))
      rw [Int.toNat_of_nonneg hi.1] at HRd
      clear hi
      go_wp2_with fail
      refine HRd.out.mono ?_
      rintro e w2 ⟨rfl, _, hb⟩
      have HB := Lib.hid hb
      clear hb
      go_wp2
      go_end0
      exact ⟨rfl, HD.out.old HB.out, HK0.out _ (Kp.old HB.out)⟩
    · have HRd := Lib.hid (read_bad HD.out at_ hi)
      clear hi
      go_wp2_with fail
      refine HRd.out.mono ?_
      rintro e w2 ⟨rfl, rfl⟩
      go_wp2
      go_end0
      exact ⟨rfl, HD.out, HK0.out _ (Kp.refl _ _)⟩
  · go_enter Try.func30, Try.ntmps30
    go_wp2_with fail
    rw [← hw0]
    refine HP.out.mono ?_
    rintro e w1 ⟨rfl, hw1⟩
    rw [hw1]
    have HB0 := HB0
    clear hw1 hw0 q0 HP HN HE
    go_wp2_with fail
    refine (flush_any HD.out).mono ?_
    rintro e w2 ⟨rfl, hd, hk⟩
    have HD2 := Lib.hid hd
    have HK2 := Lib.hid hk
    clear hd hk
    go_wp2
    go_end0
    exact ⟨rfl, HD2.out, HK0.out _ HK2.out⟩
  · go_enter Try.func30, Try.ntmps30
    go_wp2_with fail
    rw [← hw0]
    refine HP.out.mono ?_
    rintro e w1 ⟨rfl, hw1⟩
    rw [hw1]
    have HB0 := HB0
    clear hw1 hw0 q0 HP HN HE
    go_wp2_with (first | (at_builtin; (refine wpList_appb rfl _ _ rfl rfl rfl HK.out HT.out (by have := HF.out; omega) ?_; intro A' c' w2 hk2 hb2; have HK2 := Lib.hid hk2; have HB2 := Lib.hid hb2; clear hk2 hb2)) | fail)
    refine (crash_any (HD.out.old HB2.out) HK2.out (Nat.le_refl _) (by have := HF.out; omega)).mono ?_
    rintro e w3 ⟨rfl, hd, hk⟩
    have HD2 := Lib.hid hd
    have HK3 := Lib.hid hk
    clear hd hk
    go_wp2
    go_end0
    exact ⟨rfl, HD2.out, HK0.out _ ((Kp.old HB2.out).trans HK3.out)⟩
  · have e0 : ¬ ((n : Int) = 0) := by omega
    have e3 : ¬ ((n : Int) = 3) := by omega
    have e4 : ¬ ((n : Int) = 4) := by omega
    rw [if_neg (show ¬ n = 0 by omega), if_neg (show ¬ n = 3 by omega), if_neg (show ¬ n = 4 by omega)]
    clear h12 hlt
    go_enter Try.func30, Try.ntmps30
    go_wp2_with fail
    rw [← hw0]
    refine HP.out.mono ?_
    rintro e w1 ⟨rfl, hw1⟩
    rw [hw1]
    have HB0 := HB0
    clear hw1 hw0 q0 HP HN HE
    go_wp2_with fail
    have hR := Old2.stays (fun k => k = s ∨ k = m)
    refine reg_start (Kp (fun k => k = s ∨ k = m)) follows_mixed ?_
-- region 2 of f30: 6 operations, draws: true
    refine reg_take (v := ?_) hR 0 rfl (by kernel_rfl) (by kernel_rfl) (by kernel_rfl) (fun _ _ _ h => h) (by rfl) ?_ ?_
    rotate_left
    · intro W hW; go_simp; try with_reducible rfl
    try simp only [Act.put, List.getElem_toArray, List.getElem_cons_succ, List.getElem_cons_zero, List.setIfInBounds_toArray, List.set_cons_zero, List.set_cons_succ]
    refine reg_take (v := ?_) hR 1 rfl (by kernel_rfl) (by kernel_rfl) (by kernel_rfl) (fun _ _ _ h => h) (by rfl) ?_ ?_
    rotate_left
    · intro W hW; go_simp; try with_reducible rfl
    try simp only [Act.put, List.getElem_toArray, List.getElem_cons_succ, List.getElem_cons_zero, List.setIfInBounds_toArray, List.set_cons_zero, List.set_cons_succ]
    refine reg_take (v := .int .i64 at_) hR 2 rfl (by kernel_rfl) (by kernel_rfl) (by kernel_rfl) (fun _ _ _ h => h) (by rfl) ?_ ?_
    · intro W hW; have q1 := HQ1.out W hW.undrew; go_simp
    try simp only [Act.put, List.getElem_toArray, List.getElem_cons_succ, List.getElem_cons_zero, List.setIfInBounds_toArray, List.set_cons_zero, List.set_cons_succ]
    refine reg_take (v := .agg #[.int .i64 k, .int .i64 at_, .int .u8 (b.toNat : Int), .bool long, .slice K keep.length kc]) hR 3 rfl (by kernel_rfl) (by kernel_rfl) (by kernel_rfl) (fun _ _ _ h => h) (by rfl) ?_ ?_
    · intro W hW; have q0 := HQ0.out W hW.undrew; have q1 := HQ1.out W hW.undrew; have q2 := HQ2.out W hW.undrew; have q3 := HQ3.out W hW.undrew; have q4 := HQ4.out W hW.undrew; go_simp
    try simp only [Act.put, List.getElem_toArray, List.getElem_cons_succ, List.getElem_cons_zero, List.setIfInBounds_toArray, List.set_cons_zero, List.set_cons_succ]
    -- STEP 4: Op.call { callee := Callee.value (Operand.func 25), args := #[t10], argTypes := #[46] }
    refine reg_step hR 4 (by kernel_rfl) rfl fun K hK => ?_
    try simp only [Act.put, List.getElem_toArray, List.getElem_cons_succ, List.getElem_cons_zero, List.setIfInBounds_toArray, List.set_cons_zero, List.set_cons_succ]
    go_simp
    refine (HBy.out _).mono ?_; rintro x w3 ⟨A', c', rfl, hr3, hb3⟩
    have HB3 := Lib.hid (undrewN hb3); have HR3 := Lib.hid hr3; clear hr3 hb3
    refine hK.out _ _ ?_ ?_
    · exact Kp.old (redrewN HB3.out)
    clear hK K
    try simp only [Act.put, List.getElem_toArray, List.getElem_cons_succ, List.getElem_cons_zero, List.setIfInBounds_toArray, List.set_cons_zero, List.set_cons_succ]
    -- STEP 5: Op.call { callee := Callee.value (Operand.func 12), args := #[t7, t9, t11], argTypes := #[22, 3, 27] }
    refine reg_step hR 5 (by kernel_rfl) rfl fun K hK => ?_
    try simp only [Act.put, List.getElem_toArray, List.getElem_cons_succ, List.getElem_cons_zero, List.setIfInBounds_toArray, List.set_cons_zero, List.set_cons_succ]
    go_simp
    refine (write_any (S := S) (HD.out.old HB3.out) k at_ b long keep HR3.out).mono ?_; rintro x w4 ⟨rfl, hd4, hk4⟩
    have HD4 := Lib.hid hd4; have HK4 := Lib.hid hk4; clear hd4 hk4
    refine hK.out _ _ ?_ ?_
    · exact HK4.out
    clear hK K
    try simp only [Act.put, List.getElem_toArray, List.getElem_cons_succ, List.getElem_cons_zero, List.setIfInBounds_toArray, List.set_cons_zero, List.set_cons_succ]
    refine reg_done (by kernel_rfl) ?_ _

    go_wp2
    go_end0
    exact ⟨rfl, HD4.out, HK0.out _ ((Kp.old HB3.out).trans HK4.out)⟩
end Go.Proofs.Ytphifbhgocjhcaa
