package trace_test

import (
	"fmt"
	"math/rand"
	"slices"
	"testing"

	"herald/api"
	"herald/trace"
)

func oneOf[T any](r *rand.Rand, l ...T) T { return l[r.Intn(len(l))] }

// maker makes logs whose entries are mostly right.
type maker struct {
	past
	r     *rand.Rand
	wild  int            // how many entries that are refused are made of each kind, at least
	tried map[string]int // how many were, by their end, their way and why
	heavy bool           // its bodies are long
}

func newMaker(client bool, r *rand.Rand, wild int, tried map[string]int) *maker {
	return &maker{past{client: client}, r, wild, tried, r.Intn(4) == 0}
}

// live is a stream that lives, if there is one, or a near one.
func (m *maker) live() int64 {
	var ids []int64
	for _, id := range m.born() {
		if m.stateOf(id) != closed || m.r.Intn(6) == 0 {
			ids = append(ids, id)
		}
	}
	if len(ids) == 0 || m.r.Intn(12) == 0 {
		return int64(m.r.Intn(9))
	}
	return oneOf(m.r, ids...)
}

// next is a stream of a kind that is not born.
func (m *maker) next(odd bool) int64 {
	id := int64(2)
	if odd {
		id = 1
	}
	for _, b := range m.born() {
		if b%2 == id%2 {
			id = max(id, b+2)
		}
	}
	return min(id+oneOf(m.r, int64(0), 0, 0, 0, 2, -2), top)
}

// begins is a frame that gives birth to a stream, or more of one.
func (m *maker) begins(sent bool) api.Frame {
	byClient := m.client == sent
	flags := oneOf(m.r, 0, whole, whole, whole, whole)
	if byClient && m.r.Intn(3) > 0 {
		return head(m.next(true), flags|oneOf(m.r, 0, 0, ends))
	}
	if !byClient && m.r.Intn(2) == 0 {
		f := promises(m.live(), m.next(false))
		f.Flags = flags
		return f
	}
	return head(m.live(), flags|oneOf(m.r, 0, 0, ends))
}

// params is a list of a few, one of which may be wrong.
func (m *maker) params() []api.Param {
	var l []api.Param
	for range m.r.Intn(3) {
		l = append(l, oneOf(m.r, param(1, 7), param(2, oneOf(m.r, int64(0), 0, 1, 2)), param(3, oneOf(m.r, int64(0), 1, 2, 4, 100)), param(4, oneOf(m.r, int64(0), 1, 9, 40000, 200000, 200000, top-3, top, top+1)),
			param(5, oneOf(m.r, int64(16384), 16385, 20000, 16777215, 16777216, 9)), param(6, 1), param(70, 1)))
	}
	return l
}

// body is DATA, of nothing, of little or of much.
func (m *maker) body(sent bool) api.Frame {
	id := m.live()
	n := int64(oneOf(m.r, 0, 1, 5, 300, 16384))
	if m.heavy {
		n = 16384
	}
	if left := oneOf(m.r, m.room(sent, 0), m.room(sent, id)); left < 16384 && m.r.Intn(2) == 0 { // to the last byte, or one more
		n = max(0, left) + oneOf(m.r, int64(0), 0, 1, -1)
	}
	f := bytes(id, oneOf(m.r, 0, 0, 0, 0, 0, ends), int(max(0, n)))
	if m.r.Intn(4) == 0 {
		f.Flags |= padded
		f.Pad = oneOf(m.r, 0, 1, 9, 255)
	}
	return f
}

// gift is an update, of little or of all that may be given.
func (m *maker) gift(sent bool) api.Frame {
	id := oneOf(m.r, 0, m.live())
	n := oneOf(m.r, int64(1), 2, 300, 20000, 0)
	if m.r.Intn(4) == 0 {
		n = min(top, max(0, top-m.room(!sent, id)+oneOf(m.r, int64(0), 0, 1, -1)))
	}
	return gives(id, n)
}

// frame is the next one of a way, mostly right.
func (m *maker) frame(sent bool) api.Frame {
	if block, n := m.block(sent); block > 0 && m.r.Intn(10) > 0 {
		f := of(more(block, oneOf(m.r, 0, whole)), m.r.Intn(4))
		if m.r.Intn(20) == 0 {
			f = of(f, min(16384, max(0, 131072-n+m.r.Intn(2))))
		}
		if m.r.Intn(8) == 0 {
			f.Stream = m.live()
		}
		return f
	}
	if m.heavy && m.r.Intn(2) == 0 {
		return m.body(sent)
	}
	switch m.r.Intn(24) {
	case 0, 1, 2, 3, 4, 5:
		return m.begins(sent)
	case 6, 7, 8, 9, 10:
		return m.body(sent)
	case 11, 12, 13:
		return m.gift(sent)
	case 14:
		return resets(m.live())
	case 15, 16:
		return list(m.params()...)
	case 17, 18:
		return acks()
	case 19:
		return pings(oneOf(m.r, "11111111", "22222222"))
	case 20:
		return pongs(oneOf(m.r, append(m.pings(!sent), "11111111", "22222222")...))
	case 21:
		return oneOf(m.r, orders(m.live()), api.Frame{Type: 10 + m.r.Intn(246), Stream: m.live(), Flags: m.r.Intn(256)})
	case 22:
		return oneOf(m.r, leaves(), more(m.live(), m.r.Intn(2)*whole), pings("11111111"), pings("22222222"), list(m.params()...), acks())
	}
	return oneOf(m.r, bytes(1, 64, 1), bytes(0, 0, 1), pings("1"), api.Frame{Type: -1}, of(api.Frame{Type: 10}, oneOf(m.r, 16384, 16385, 20000, 20001, 65536, 65537)))
}

// entry is one that may not stand there only if few of its kind were tried.
func (m *maker) entry() (api.Entry, judged) {
	for {
		sent := m.r.Intn(2) == 0
		e := went(sent, m.frame(sent))
		j := m.judge(e)
		if j == taken && e.F.Type == goAway && m.r.Intn(4) > 0 {
			continue
		}
		what := fmt.Sprint(end(m.client), " ", sent, " ", j.why)
		if j == taken || m.tried[what] < m.wild || m.r.Intn(120) == 0 {
			m.tried[what]++
			return e, j
		}
	}
}

// begin makes the first SETTINGS of both ways, mostly.
func (m *maker) begin() {
	if m.r.Intn(20) == 0 {
		return
	}
	for _, sent := range []bool{m.client, !m.client} {
		l := m.params()
		for len(l) > 0 && m.judge(went(sent, list(l...))) != taken {
			l = l[1:]
		}
		m.l = append(m.l, went(sent, list(l...)))
	}
	if m.r.Intn(3) > 0 {
		m.l = append(m.l, s(acks()), g(acks()))
	}
}

// log is one of so many entries at most, and of two more behind one that is refused.
func (m *maker) log(most int) []api.Entry {
	m.l = nil
	m.begin()
	for len(m.l) < most {
		e, j := m.entry()
		if j != taken {
			behind := []api.Entry{e}
			for range m.r.Intn(3) {
				sent := m.r.Intn(2) == 0
				behind = append(behind, went(sent, m.frame(sent)))
			}
			return append(m.l, behind...)
		}
		m.l = append(m.l, e)
	}
	return m.l
}

// refusals has why an entry may be refused where it is sent, and where it is got, of
// a client's log and of a server's; left out are those that cannot be.
func refusals() []string {
	var l []string
	both := []string{
		"behind a GOAWAY that was sent", "ErrLong", "ErrFrame", "above the size", "first", "inside a block", "another's block", "no block", "behind its reset", "nothing to acknowledge", "a wrong param",
		"no such PING", "an update of nothing", "above the greatest window", "above the connection's window", "above the stream's window", "settings above the greatest window", "pushing is off", "a promise on an even one",
		"a promise on a wrong one", "too many streams",
	}
	for _, why := range both {
		for _, client := range []bool{true, false} {
			for _, sent := range []bool{true, false} {
				if isPromise := why == "pushing is off" || why == "a promise on an even one" || why == "a promise on a wrong one"; !isPromise || client != sent {
					l = append(l, fmt.Sprint(end(client), " ", sent, " ", why))
				}
			}
		}
	}
	for _, client := range []bool{true, false} {
		for _, why := range []string{"verdict B", "reset of an idle one", "an update of an idle one"} {
			l = append(l, fmt.Sprint(end(client), " true ", why))
		}
		for _, why := range []string{"verdict P", "verdict C", "verdict S"} {
			l = append(l, fmt.Sprint(end(client), " false ", why))
		}
	}
	return append(l, "a client's true a new stream behind a GOAWAY", "a server's true a promise behind a GOAWAY")
}

// TestRandomLogs: against the model, cut at every place, with other entries behind,
// turned about.
func TestRandomLogs(t *testing.T) {
	r := rand.New(rand.NewSource(241))
	tried := map[string]int{}
	turns, kinds := 0, map[string]int{}
	for i := range 3000 {
		m := newMaker(i%2 == 0, r, 12, tried)
		l := m.log(oneOf(r, 12, 40, 70))
		at, _ := hold(t, m.client, l)
		if at < 0 && mayTurn(l) {
			turns++
			for _, e := range l {
				kinds[fmt.Sprint(m.client, e.Sent, e.F.Type)]++
			}
		}
	}
	for _, why := range refusals() {
		if tried[why] < 6 {
			t.Errorf("%s %d times: too few to tell", why, tried[why])
		}
	}
	if turns < 300 {
		t.Errorf("P24.3: %d logs turned about: too few to tell", turns)
	}
	for _, client := range []bool{true, false} {
		for _, sent := range []bool{true, false} {
			for kind := range 10 {
				possible := kind != goAway && (kind != promise || client != sent)
				if n := kinds[fmt.Sprint(client, sent, kind)]; possible && n < 50 {
					t.Errorf("P24.3: %s, sent %v: %d %s turned about: too few to tell", end(client), sent, n, typeNames[kind])
				}
			}
		}
	}
}

// TestTurnedPlaces: a log that is refused, turned about, is refused at the same place
// or behind it, where it is of those of which P24.3 speaks up to there.
func TestTurnedPlaces(t *testing.T) {
	r := rand.New(rand.NewSource(242))
	n, tried := 0, map[string]int{}
	for i := range 800 {
		m := newMaker(i%2 == 0, r, 12, tried)
		l := m.log(30)
		at, _ := modelCheck(l, m.client)
		if at < 0 || !mayTurn(l[:at]) {
			continue
		}
		if back, _ := trace.Check(turned(l), !m.client); back >= 0 && back < at {
			t.Fatalf("P24.3: turned about it is refused at %d, not at %d: %s", back, at, shown(l, m.client))
		}
		n++
	}
	if n < 200 {
		t.Errorf("%d: too few to tell", n)
	}
}

// TestWrongEntries: one entry of a log that is taken is another, is left out, comes
// twice, or changes places with the next.
func TestWrongEntries(t *testing.T) {
	r := rand.New(rand.NewSource(243))
	refusedOnes := 0
	for i := range 150 {
		m := newMaker(i%2 == 0, r, 0, map[string]int{})
		l := m.log(40)
		at, _ := modelCheck(l, m.client)
		if at >= 0 {
			l = l[:at]
		}
		for range 10 {
			if len(l) < 3 {
				break
			}
			k := r.Intn(len(l) - 1)
			var other []api.Entry
			switch r.Intn(5) {
			case 0:
				other = slices.Concat(l[:k], l[k+1:])
			case 1:
				other = slices.Concat(l[:k+1], l[k:])
			case 2:
				other = slices.Concat(l[:k], []api.Entry{l[k+1], l[k]}, l[k+2:])
			case 3:
				e := l[k]
				e.Sent = !e.Sent
				other = slices.Concat(l[:k], []api.Entry{e}, l[k+1:])
			default:
				other = slices.Clone(l)
				meddle(r, &other[k].F)
			}
			if at, _ := hold(t, m.client, other); at >= 0 {
				refusedOnes++
			}
		}
	}
	if refusedOnes < 500 {
		t.Errorf("%d were refused: too few to tell", refusedOnes)
	}
}

// meddle changes one field of a frame.
func meddle(r *rand.Rand, f *api.Frame) {
	switch r.Intn(9) {
	case 0:
		f.Type = oneOf(r, r.Intn(12), -1, 256)
	case 1:
		f.Flags ^= oneOf(r, 1, 4, 8, 32, 64)
	case 2:
		f.Stream = oneOf(r, 0, 1, 2, 3, f.Stream+2, f.Stream-1, -1, top, top+1)
	case 3:
		f.Data += "x"
	case 4:
		f.Pad = oneOf(r, 0, 1, 256)
	case 5:
		f.Last = oneOf(r, 0, 1, 2, f.Last+2, f.Last-1, top, top+1)
	case 6:
		f.Params = append(slices.Clone(f.Params), param(oneOf(r, 2, 3, 4, 5), oneOf(r, int64(0), 1, 16384, top, top+1)))
	case 7:
		f.Code++
	default:
		f.Weight = 1 - f.Weight
	}
}

// TestAnyEntries: frames out of any numbers, most of them wrong.
func TestAnyEntries(t *testing.T) {
	r := rand.New(rand.NewSource(244))
	any := func() int64 {
		return oneOf(r, 0, 0, 0, 1, 2, 3, 4, 5, 8, 9, 255, 256, -1, 16384, top, top+1, 1<<32, -1<<63, 1<<63-1, r.Int63())
	}
	for i := range 3000 {
		var l []api.Entry
		if i%3 > 0 {
			l = met(s(head(1, whole)), g(head(1, whole)))
			if i%2 == 1 {
				l = turned(l)
			}
		}
		for range 6 {
			f := api.Frame{Type: int(oneOf(r, any(), int64(r.Intn(11)))), Flags: int(oneOf(r, any(), 0, 4, 5, 1)), Stream: oneOf(r, any(), 1, 0)}
			if r.Intn(3) == 0 {
				f.Pad, f.Dep, f.Excl, f.Weight, f.Code, f.Last = int(any()), any(), r.Intn(2) == 0, int(any()), any(), any()
			}
			if r.Intn(3) == 0 {
				f.Data = oneOf(r, "12345678", "x", "")
			}
			if r.Intn(4) == 0 {
				f.Params = []api.Param{{ID: int(any()), Value: any()}}
			}
			l = append(l, went(r.Intn(2) == 0, f))
		}
		hold(t, i%2 == 0, l)
	}
}

// entriesOf reads entries out of bytes, a few for each.
func entriesOf(b []byte) []api.Entry {
	l := []api.Entry{}
	for len(b) >= 4 && len(l) < 60 {
		kind, flags, id, x := b[0], int(b[1]), int64(b[2]%12), int64(b[3])
		b = b[4:]
		f := api.Frame{Type: int(kind % 11), Flags: flags & 13, Stream: id}
		switch f.Type {
		case data, headers, continuation:
			f = of(f, int(x)*int(x))
			if f.Type == continuation {
				f.Flags &= whole
			} else if f.Flags&padded > 0 {
				f.Pad = int(x)
			}
			if f.Type == data {
				f.Flags &= ends | padded
			}
		case priority:
			f.Flags, f.Weight = 0, 1
		case reset:
			f.Flags, f.Code = 0, x
		case settings:
			f.Flags, f.Stream = flags&ack, 0
			if f.Flags == 0 && x > 40 {
				values := []int64{0, 1, 2, 5, 100, 16384, 16385, 20000, top - 1, top, top + 1}
				f.Params = []api.Param{param(int(x)%7, values[int(id)%len(values)])}
			}
		case promise:
			f.Flags, f.Last = flags&whole, x%16
		case ping:
			f.Flags, f.Stream, f.Data = flags&ack, 0, oneOf(rand.New(rand.NewSource(x%2)), "11111111", "22222222")
		case goAway:
			f.Flags, f.Stream = 0, 0
		case update:
			f.Flags, f.Last = 0, x*x*x
			if x == 255 {
				f.Last = top - 65535
			}
		}
		l = append(l, went(kind >= 128, f))
	}
	return l
}

// bytesOfEntries is how a log can be read out of bytes, nearly.
func bytesOfEntries(l []api.Entry) []byte {
	var b []byte
	for _, e := range l {
		kind := e.F.Type % 11
		if e.Sent {
			kind += 132 // a multiple of eleven
		}
		x := max(e.F.Last, int64(len(e.F.Data)))
		for _, p := range e.F.Params {
			x = int64(42 + p.ID)
		}
		b = append(b, byte(kind), byte(e.F.Flags), byte(e.F.Stream), byte(x))
	}
	return b
}

// FuzzEntries: logs out of any bytes, against the model.
func FuzzEntries(f *testing.F) {
	f.Add(bytesOfEntries(firstExample()), true)
	f.Add(bytesOfEntries(turned(firstExample())), false)
	for _, x := range situations() {
		f.Add(bytesOfEntries(met(x.log...)), true)
		f.Add(bytesOfEntries(turned(met(x.log...))), false)
	}
	f.Fuzz(func(t *testing.T, b []byte, client bool) { hold(t, client, entriesOf(b)) })
}

// FuzzMakers: logs that are mostly right, by any seed.
func FuzzMakers(f *testing.F) {
	f.Add(int64(1), true)
	f.Add(int64(2), false)
	f.Fuzz(func(t *testing.T, seed int64, client bool) {
		m := newMaker(client, rand.New(rand.NewSource(seed)), 0, map[string]int{})
		hold(t, client, m.log(60))
	})
}
