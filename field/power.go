package field

import "headwater/api"

// exponent is what a number is raised to: four words, the low one first.
type exponent [4]uint64

// The words that the exponents made from p end with, and the one of all ones between.
const (
	ones      = 1<<64 - 1
	wholeEnd  = 1<<63 - 1
	eighthEnd = 1<<60 - 1
)

func exponentOf(e *api.Num) exponent {
	return exponent{word(e[0:]), word(e[8:]), word(e[16:]), word(e[24:])}
}

// lessTwo is p - 2, 2^255 - 21.
func lessTwo() exponent { return exponent{ones - 20, ones, ones, wholeEnd} }

// eighth is (p + 3) / 8, 2^252 - 2.
func eighth() exponent { return exponent{ones - 1, ones, ones, eighthEnd} }

// rootOfMinusOne is 2 to the power of (p - 1) / 4.
func rootOfMinusOne() five {
	return five{0x61b274a0ea0b0, 0xd5a5fc8f189d, 0x7ef5e9cbd0c60, 0x78595a6804c9e, 0x2b8324804fc1d}
}

func (a *five) power(e exponent) five {
	left := e
	out := five{1}
	for range 64 * len(left) {
		out.mul(&out)
		if left.shift() {
			out.mul(a)
		}
	}
	return out
}

// shift moves all bits one place up, and tells whether the highest was 1.
func (e *exponent) shift() bool {
	carry := uint64(0)
	for i, n := range e {
		e[i], carry = n<<1|carry, n>>63
	}
	return carry == 1
}

// root answers a number whose square is a, and whether there is one.
func (a *five) root() (five, bool) {
	// If a has a root, the square of the first try is a or - a.
	try := a.power(eighth())
	if try.squareIs(a) {
		return try, true
	}
	other := rootOfMinusOne()
	try.mul(&other)
	return try, try.squareIs(a)
}

func (a *five) squareIs(b *five) bool {
	square, want := *a, *b
	square.mul(a)
	square.lower()
	want.lower()
	return square == want
}
