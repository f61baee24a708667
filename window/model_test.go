package window_test

import (
	"fmt"
	"math/big"
	"math/rand"
	"slices"
)

// The model keeps all that was ever put in and taken out, one number a call, and
// adds them up anew each time, in numbers that have no end and can't wrap.

const (
	top      = 2147483647
	least    = -1 << 63
	greatest = 1<<63 - 1
)

type model struct {
	first int64
	moves []int64
}

func newModel(n int64) *model {
	switch {
	case n < 0:
		n = 0
	case n > top:
		n = top
	}
	return &model{first: n}
}

func (m *model) sum() *big.Int {
	sum := big.NewInt(m.first)
	for _, n := range m.moves {
		sum.Add(sum, big.NewInt(n))
	}
	return sum
}

// with is what would be left if n more came in.
func (m *model) with(n int64) *big.Int { return new(big.Int).Add(m.sum(), big.NewInt(n)) }

func (m *model) take(n int64) bool {
	if n < 0 {
		return false
	}
	if n == 0 {
		return true
	}
	if big.NewInt(n).Cmp(m.sum()) > 0 {
		return false
	}
	m.moves = append(m.moves, -n)
	return true
}

func (m *model) give(n int64) int64 {
	if n < 1 {
		return 1
	}
	if m.with(n).Cmp(big.NewInt(top)) > 0 {
		return 3
	}
	m.moves = append(m.moves, n)
	return 0
}

func (m *model) shift(by int64) int64 {
	if m.with(by).Cmp(big.NewInt(top)) > 0 || m.with(by).Cmp(big.NewInt(-top)) < 0 {
		return 3
	}
	m.moves = append(m.moves, by)
	return 0
}

// modelRoom has the four in order.
func modelRoom(conn, stream int64, want, frame int) int {
	l := []int64{conn, stream, int64(want), int64(frame)}
	slices.Sort(l)
	if l[0] < 0 {
		return 0
	}
	return int(l[0])
}

const kinds = 3

// call is one of the three that change a window.
type call struct {
	kind int
	n    int64
}

func (c call) String() string {
	return fmt.Sprintf("%s(%d)", [kinds]string{"Take", "Give", "Shift"}[c.kind], c.n)
}

// edges are numbers beside which an answer changes, and those beside them.
func edges() []int64 {
	list := []int64{least, least + 1, greatest - 1, greatest}
	for _, n := range []int64{0, 3, 65535, top, 2 * top, 1 << 31, 1 << 32, greatest - top, greatest - 2*top} {
		for by := int64(-1); by <= 1; by++ {
			list = append(list, n+by, -(n + by))
		}
	}
	slices.Sort(list)
	return slices.Compact(list)
}

// randomCall is mostly one that is just taken or just refused.
func randomCall(r *rand.Rand, left int64, all []int64) call {
	c := call{kind: r.Intn(kinds)}
	near := int64(r.Intn(5) - 2)
	switch r.Intn(6) {
	case 0:
		c.n = all[r.Intn(len(all))]
	case 1:
		c.n = left + near
	case 2:
		c.n = top - left + near
	case 3:
		c.n = -top - left + near
	case 4:
		c.n = near
	default:
		c.n = r.Int63n(100000) - 50000
	}
	return c
}
