package streams_test

import (
	"fmt"
	"math/rand"
	"slices"

	"herald/state"
)

// The model keeps every event that was Fine, in its order, and finds all answers by
// going through the whole list anew, in the chapter's words.

const (
	top      = 2147483647
	least    = -1 << 63
	greatest = 1<<63 - 1
	kinds    = 8
)

var (
	fine          = state.Verdict{}
	ignored       = state.Verdict{Kind: 1}
	barred        = state.Verdict{Kind: 4}
	protocolError = state.Verdict{Kind: 3, Code: 1}
	streamClosed  = state.Verdict{Kind: 3, Code: 5}
)

// act is an event on a stream.
type act struct {
	id int64
	e  state.Event
}

type model struct {
	client bool
	done   []act
}

func sent(id int64, kind int) act { return act{id, state.Event{Kind: kind}} }

func got(id int64, kind int) act { return act{id, state.Event{Got: true, Kind: kind}} }

func (a act) String() string {
	names := []string{"Headers", "HeadersEnd", "Data", "DataEnd", "Promise", "Reset", "Window", "Priority"}
	name := fmt.Sprint("kind ", a.e.Kind)
	if a.e.Kind >= 1 && a.e.Kind <= kinds {
		name = names[a.e.Kind-1]
	}
	if a.e.Got {
		return fmt.Sprint(a.id, " g ", name)
	}
	return fmt.Sprint(a.id, " s ", name)
}

func isStream(id int64) bool { return id >= 1 && id <= top }

func isHeaders(kind int) bool { return kind == state.Headers || kind == state.HeadersEnd }

// alike: both odd, or both even.
func alike(a, b int64) bool { return (a-b)%2 == 0 }

// first is the least stream of ours, or of theirs.
func (m *model) first(local bool) int64 {
	if local == m.client {
		return 1
	}
	return 2
}

// births are the streams that were born, in that order.
func (m *model) births() []int64 {
	var born []int64
	for _, a := range m.done {
		if (isHeaders(a.e.Kind) || a.e.Kind == state.Promise) && !slices.Contains(born, a.id) {
			born = append(born, a.id)
		}
	}
	return born
}

func (m *model) state(id int64) int {
	if !isStream(id) {
		return state.Closed
	}
	born := m.births()
	if slices.Contains(born, id) {
		s := state.Idle
		for _, a := range m.done {
			if a.id == id {
				s, _ = state.Next(s, a.e)
			}
		}
		return s
	}
	if slices.ContainsFunc(born, func(b int64) bool { return b > id && alike(b, id) }) {
		return state.Closed
	}
	return state.Idle
}

func (m *model) cut(id int64) bool { return slices.Contains(m.done, sent(id, state.Reset)) }

// mayBear is the chapter's list of who may give birth.
func (m *model) mayBear(a act) bool {
	odd := alike(a.id, 1)
	switch {
	case m.client && !a.e.Got && isHeaders(a.e.Kind):
		return odd
	case m.client && a.e.Got && a.e.Kind == state.Promise:
		return !odd
	case !m.client && a.e.Got && isHeaders(a.e.Kind):
		return odd
	case !m.client && !a.e.Got && a.e.Kind == state.Promise:
		return !odd
	}
	return false
}

func (m *model) do(a act) state.Verdict {
	wrong := barred
	if a.e.Got {
		wrong = protocolError
	}
	if a.e.Kind < 1 || a.e.Kind > kinds {
		return barred
	}
	if !isStream(a.id) {
		return wrong
	}
	s := m.state(a.id)
	if s == state.Idle && (isHeaders(a.e.Kind) || a.e.Kind == state.Promise) && !m.mayBear(a) {
		return wrong
	}
	if m.cut(a.id) && a.e.Got && a.e.Kind != state.Promise {
		return ignored
	}
	_, v := state.Next(s, a.e)
	if v == fine {
		m.done = append(m.done, a)
	}
	return v
}

func (m *model) count(local bool) int {
	n := 0
	for _, id := range m.births() {
		if alike(id, m.first(local)) && state.Counts(m.state(id)) {
			n++
		}
	}
	return n
}

func (m *model) last(local bool) int64 {
	last := int64(0)
	for _, id := range m.births() {
		if alike(id, m.first(local)) && id > last {
			last = id
		}
	}
	return last
}

func (m *model) next() (int64, bool) {
	next := m.first(true)
	if last := m.last(true); last > 0 {
		next = last + 2
	}
	if next > top {
		return 0, false
	}
	return next, true
}

func (m *model) live() []int64 {
	var live []int64
	for _, id := range m.births() {
		if m.state(id) != state.Closed {
			live = append(live, id)
		}
	}
	slices.Sort(live)
	return live
}

// events are all events of all kinds, sent and got.
func events() []state.Event {
	var all []state.Event
	for kind := 1; kind <= kinds; kind++ {
		all = append(all, state.Event{Kind: kind}, state.Event{Got: true, Kind: kind})
	}
	return all
}

// edges are the numbers at the edges of what is a stream, of what an int32 or an
// int64 holds, and those that would be streams if their upper bits were lost.
func edges() []int64 {
	return []int64{least, least + 1, -top - 2, -top - 1, -top, -2, -1, 0, 1, 2, top - 2, top - 1, top, top + 1, top + 2,
		1 << 32, 1<<32 + 1, 1<<32 + 2, 1<<62 + 1, greatest - 1, greatest}
}

// randomAct is mostly one that leads somewhere: on a stream that lives, or at a
// number near the greatest born.
func randomAct(r *rand.Rand, m *model) act {
	all, ends := events(), edges()
	a := act{id: 1 + r.Int63n(12), e: all[r.Intn(len(all))]}
	live := m.live()
	switch n := r.Intn(20); {
	case n < 8 && len(live) > 0:
		a.id = live[r.Intn(len(live))]
	case n < 13:
		a.id = m.last(r.Intn(2) == 0) + r.Int63n(6)
	case n == 13:
		a.id = ends[r.Intn(len(ends))]
	case n == 14:
		a.e.Kind = []int{least, -1, 0, 9, 10, 1<<32 + 1, greatest}[r.Intn(7)]
	}
	return a
}
