package share_test

import (
	"fmt"
	"math"
	"math/big"
	"slices"
	"strings"

	"herald/api"
	"herald/share"
)

// The document's own numbers.
const (
	argError   = 1
	noneError  = 5
	fullError  = 6
	stateError = 8

	lastID   = 2147483647
	least    = math.MinInt64
	greatest = math.MaxInt64
)

// act is one thing that was done with a stream.
type act struct {
	id      int64
	dropped bool
	put     string
	end     bool // was put
	taken   int
	endGone bool
}

// model is a share that forgets nothing: all it knows it works out anew from all
// that was ever done.
type model struct{ acts []act }

// since is what was done with a stream, behind its last Drop.
func (m *model) since(id int64) []act {
	var l []act
	for _, a := range m.acts {
		if a.id != id {
			continue
		}
		l = append(l, a)
		if a.dropped {
			l = nil
		}
	}
	return l
}

func (m *model) isOver(id int64) bool {
	return slices.ContainsFunc(m.since(id), func(a act) bool { return a.end })
}

// bytes are what waits of a stream: all that was put without what was taken.
func (m *model) bytes(id int64) string {
	var put strings.Builder
	taken := 0
	for _, a := range m.since(id) {
		put.WriteString(a.put)
		taken += a.taken
	}
	return put.String()[taken:]
}

func (m *model) endWaits(id int64) bool {
	gone := slices.ContainsFunc(m.since(id), func(a act) bool { return a.endGone })
	return m.isOver(id) && !gone
}

func (m *model) somethingWaits(id int64) bool { return m.bytes(id) != "" || m.endWaits(id) }

func (m *model) put(id int64, text string, end bool) api.Errno {
	switch {
	case id < 1, id > lastID:
		return argError
	case m.isOver(id):
		return stateError
	}
	m.acts = append(m.acts, act{id: id, put: text, end: end})
	return 0
}

func (m *model) drop(id int64) bool {
	waited := m.somethingWaits(id)
	m.acts = append(m.acts, act{id: id, dropped: true})
	return waited
}

// ids are all streams that were ever named, rising.
func (m *model) ids() []int64 {
	var l []int64
	for _, a := range m.acts {
		l = append(l, a.id)
	}
	slices.Sort(l)
	return slices.Compact(l)
}

func modelLeft(id int64, l []share.Left) int64 {
	for _, x := range l {
		if x.ID == id {
			return x.Left
		}
	}
	return 0
}

func (m *model) ready(conn int64, l []share.Left) []int64 {
	var ready []int64
	for _, id := range m.ids() {
		switch {
		case m.bytes(id) != "" && conn > 0 && modelLeft(id, l) > 0:
			ready = append(ready, id)
		case m.bytes(id) == "" && m.endWaits(id):
			ready = append(ready, id)
		}
	}
	return ready
}

func (m *model) next(id, conn, stream int64, frame int) (string, bool, api.Errno) {
	bytes, end := m.bytes(id), m.endWaits(id)
	switch {
	case frame < 1:
		return "", false, argError
	case bytes == "" && !end:
		return "", false, noneError
	case bytes != "" && (conn <= 0 || stream <= 0):
		return "", false, fullError
	}
	n := 0
	for n < len(bytes) && int64(n) < conn && int64(n) < stream && n < frame {
		n++
	}
	last := end && n == len(bytes)
	m.acts = append(m.acts, act{id: id, taken: n, endGone: last})
	return bytes[:n], last, 0
}

// modelPick goes by numbers without end, and the rest that is never below 0.
func modelPick(ids []int64, n int) (int64, bool) {
	if len(ids) == 0 {
		return 0, false
	}
	at := new(big.Int).Mod(big.NewInt(int64(n)), big.NewInt(int64(len(ids))))
	return ids[at.Int64()], true
}

// left is a list out of streams, each with what it has left behind it.
func left(numbers ...int64) []share.Left {
	var l []share.Left
	for i := 0; i+1 < len(numbers); i += 2 {
		l = append(l, share.Left{ID: numbers[i], Left: numbers[i+1]})
	}
	return l
}

// all are the lists of up to n places out of some things.
func all[T any](n int, some ...T) [][]T {
	lists := [][]T{nil}
	for from := 0; n > 0; n-- {
		to := len(lists)
		for _, l := range lists[from:to] {
			for _, x := range some {
				lists = append(lists, append(slices.Clone(l), x))
			}
		}
		from = to
	}
	return lists
}

func shown(l []share.Left) string {
	if len(l) > 8 {
		return fmt.Sprintf("%v .. %d in all", l[:8], len(l))
	}
	return fmt.Sprint(l)
}
