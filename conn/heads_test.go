package conn_test

import (
	"strings"
	"testing"

	"herald/api"
	"herald/lists"
	"herald/pack"
)

// Blocks that add an entry, and that name it.
const (
	adds  = "\x40\x01a\x01b"
	names = "\xbe"
)

func added() []api.Field { return lists.Of("a", "b") }

// wantTable: the entry that a block added is in the table, whatever became of its
// stream.
func wantTable(b *both) {
	b.t.Helper()
	if b.m.client {
		id := b.mustOpen(false)
		b.wantRecv(bytes(headersFrame(id, names, false)), headEvent(id, added(), false))
		return
	}
	id := b.m.last(true) + 2
	if int64(b.m.opened(false)) >= b.m.acked.Streams {
		b.recv(bytes(resetFrame(1, 0))) // makes room
	}
	b.wantRecv(bytes(headersFrame(id, names, false)), headEvent(id, added(), false))
}

// sized is a block whose list is the entry and a field that fills it up to a size.
func sized(size int) (string, []api.Field) {
	l := append(added(), api.Field{Name: "filler", Value: strings.Repeat("~", size-34-32-6)})
	b, _ := pack.NewEncoder().Encode(l)
	return b, l
}

// withList is an end whose ours List is acknowledged as so much.
func withList(t *testing.T, client bool, list int64) *both {
	t.Helper()
	set := standard()
	set.List, set.Frame = list, 65536
	return standingWith(t, client, set)
}

// TestListAboveOurs: a list at ours List comes, one above it resets its stream, and
// the table goes on.
func TestListAboveOurs(t *testing.T) {
	for _, client := range []bool{true, false} {
		for _, list := range []int{1024, 1025, 5000} {
			for by := -1; by <= 1; by++ {
				for _, end := range []bool{false, true} {
					b := withList(t, client, int64(list))
					if client {
						b.mustOpen(false)
					}
					block, fields := sized(list + by)
					if by <= 0 {
						b.wantRecv(bytes(headersFrame(1, block, end)), headEvent(1, fields, end))
						b.wantControl()
						continue
					}
					b.wantRecv(bytes(headersFrame(1, block, end)), resetEvent(1, calm))
					b.wantControl(resetFrame(1, calm))
					b.wantState(1, closed)
					wantAfterFiller(b, fields)
				}
			}
		}
	}
}

// wantAfterFiller: the entries of a sized block are in the table; one that is
// greater than it hasn't got there.
func wantAfterFiller(b *both, fields []api.Field) {
	b.t.Helper()
	block := "\xbf"
	if pack.Size(fields[1:]) > 4096 {
		block = names
	}
	id := int64(3)
	if b.m.client {
		id = b.mustOpen(false)
	}
	b.wantRecv(bytes(headersFrame(id, block, false)), headEvent(id, added(), false))
}

// TestListThatClosesAndFails: where HEADERS end the stream there is nothing to reset.
func TestListThatClosesAndFails(t *testing.T) {
	block, _ := sized(1025)
	c := withList(t, true, 1024)
	c.mustOpen(true)
	c.wantRecv(bytes(headersFrame(1, block, true)), resetEvent(1, calm))
	c.wantControl()
	c.wantState(1, closed)
	c.wantRecv(bytes(promiseFrame(1, 2, "\xbf")), deadEvent(protocol)) // it isn't one that we reset
	s := withList(t, false, 1024)
	s.recv(bytes(headersFrame(1, requestBlock, false)))
	s.mustHead(1, true)
	s.wantRecv(bytes(headersFrame(1, block, true)), resetEvent(1, calm))
	s.wantControl()
	c = withList(t, true, 1024)
	c.mustOpen(true)
	c.recv(bytes(promiseFrame(1, 2, requestBlock)))
	c.wantRecv(bytes(headersFrame(2, block, true)), resetEvent(2, calm))
	c.wantControl()
}

// TestBrokenBlock: it is the connection's fault, wherever its stream stands, and
// ahead of every other.
func TestBrokenBlock(t *testing.T) {
	for _, p := range places() {
		for _, block := range []string{"\x80", "\xbe", "\x82\x20", "\x40\x01", "\x3f\xe2\x1f", "\x00\x81\xff\x00"} {
			for _, end := range []bool{false, true} {
				b := at(t, p)
				last := b.m.last(!p.client)
				b.wantRecv(bytes(headersFrame(p.id, block, end)), deadEvent(compression))
				b.wantControl(goAwayFrame(last, compression))
				b.wantState(p.id, p.state)
			}
			for _, promised := range []int64{0, 1, 2, 10, 11} {
				b := at(t, p)
				b.wantRecv(bytes(promiseFrame(p.id, promised, block)), deadEvent(compression))
				b.wantState(p.id, p.state)
			}
		}
	}
}

// TestTableGoesOn: behind HEADERS of streams at every place that they don't kill the
// connection at.
func TestTableGoesOn(t *testing.T) {
	for _, p := range places() {
		for _, end := range []bool{false, true} {
			b := at(t, p)
			b.recv(bytes(headersFrame(p.id, adds, end)))
			if _, dead := b.c.Dead(); !dead {
				wantTable(b)
			}
			b = at(t, p)
			b.recv(bytes(promiseFrame(p.id, another, adds)))
			if _, dead := b.c.Dead(); !dead {
				wantTable(b)
			}
		}
	}
}

// TestOursStreams: a client's stream above them is refused, its block is unpacked,
// and what else it sends is ignored.
func TestOursStreams(t *testing.T) {
	for most := range int64(4) {
		set := standard()
		set.Streams = most
		s := standingWith(t, false, set)
		for i := range most {
			id := 2*i + 1
			s.wantRecv(bytes(headersFrame(id, requestBlock, i%2 == 0)), headEvent(id, request(), i%2 == 0))
		}
		for i, end := range []bool{false, true} {
			id := 2*most + 1 + 2*int64(i)
			s.wantRecv(bytes(headersFrame(id, adds, end)), resetEvent(id, refused))
			s.wantControl(resetFrame(id, refused))
			s.wantState(id, closed)
			s.wantRecv(bytes(dataFrame(id, "ab", true)))
			s.wantControl(windowFrame(0, 2))
			if n := s.c.Opened(false); int64(n) != most {
				t.Errorf("P21.1: %s: %d are open, want %d", s.history(), n, most)
			}
		}
		if most > 0 {
			wantTable(s)
		}
	}
}

// TestOursStreamsCountHalfClosed: those that are open and half closed count, on either
// side; closed ones and ours don't; one that is there already isn't refused.
func TestOursStreamsCountHalfClosed(t *testing.T) {
	set := standard()
	set.Streams = 2
	s := standingWith(t, false, set)
	s.recv(bytes(headersFrame(1, requestBlock, true), headersFrame(3, requestBlock, false)))
	s.mustPromise(1)
	s.mustHead(2, false)
	s.mustHead(3, true)
	s.wantState(3, halfLocal)
	s.wantRecv(bytes(headersFrame(5, requestBlock, true)), resetEvent(5, refused))
	s.wantRecv(bytes(headersFrame(3, answerBlock, false)), headEvent(3, answer(), false))
	s.wantRecv(bytes(headersFrame(3, answerBlock, true)), headEvent(3, answer(), true))
	s.wantState(3, closed)
	s.wantRecv(bytes(headersFrame(7, requestBlock, true)), headEvent(7, request(), true))
	s.wantRecv(bytes(headersFrame(9, requestBlock, true)), resetEvent(9, refused))
	s.must(s.reset(1, 0))
	s.wantRecv(bytes(headersFrame(11, requestBlock, true)), headEvent(11, request(), true))
	s.wantRecv(bytes(resetFrame(7, 0), headersFrame(13, requestBlock, true)), resetEvent(7, 0), headEvent(13, request(), true))
}

// TestRefusedAheadOfTooLong: where both hold.
func TestRefusedAheadOfTooLong(t *testing.T) {
	set := standard()
	set.Streams, set.List = 0, 1024
	s := standingWith(t, false, set)
	block, _ := sized(1025)
	s.wantRecv(bytes(headersFrame(1, block, true)), resetEvent(1, refused))
	s.wantControl(resetFrame(1, refused))
}

// TestOursHoldFromTheirAck: Streams, List and Push, not ahead of it.
func TestOursHoldFromTheirAck(t *testing.T) {
	small := standard()
	small.Streams, small.List, small.Push = 1, 1024, 0
	block, fields := sized(1025)
	s := newBoth(t, false, small)
	s.control()
	s.recv(api.Preface + bytes(settingsFrame()))
	s.wantRecv(bytes(headersFrame(1, block, true), headersFrame(3, requestBlock, true)), headEvent(1, fields, true), headEvent(3, request(), true))
	s.wantRecv(bytes(ackFrame(), headersFrame(5, requestBlock, true)), api.Event{Kind: api.EventAck}, resetEvent(5, refused))
	s.mustHead(1, true)
	s.wantRecv(bytes(headersFrame(7, requestBlock, true)), resetEvent(7, refused))
	s.mustHead(3, true)
	s.wantRecv(bytes(headersFrame(9, "\xbe\xbf", true)), resetEvent(9, calm))
	c := newBoth(t, true, small)
	c.control()
	c.recv(bytes(settingsFrame()))
	c.mustOpen(false)
	c.wantRecv(bytes(promiseFrame(1, 2, block)), promiseEvent(1, 2, fields))
	c.wantRecv(bytes(ackFrame(), promiseFrame(1, 4, requestBlock)), api.Event{Kind: api.EventAck}, deadEvent(protocol))
}

// TestPromisedNumbers: even ones that rise.
func TestPromisedNumbers(t *testing.T) {
	for _, x := range []struct {
		promised int64
		right    bool
	}{{0, false}, {1, false}, {2, false}, {3, false}, {4, false}, {5, false}, {6, false}, {7, false}, {8, true}, {9, false}, {10, true}, {top - 1, true}, {top, false}} {
		c := standing(t, true)
		c.mustOpen(false)
		c.wantRecv(bytes(promiseFrame(1, 4, requestBlock), promiseFrame(1, 6, requestBlock)), promiseEvent(1, 4, request()), promiseEvent(1, 6, request()))
		if x.right {
			c.wantRecv(bytes(promiseFrame(1, x.promised, requestBlock)), promiseEvent(1, x.promised, request()))
			c.wantState(x.promised, reservedRemote)
			continue
		}
		c.wantRecv(bytes(promiseFrame(1, x.promised, requestBlock)), deadEvent(protocol))
		c.wantControl(goAwayFrame(6, protocol))
	}
}

// TestPromisedBehindReset: a number that was promised and reset isn't promised again.
func TestPromisedBehindReset(t *testing.T) {
	for _, ours := range []bool{true, false} {
		c := standing(t, true)
		c.mustOpen(false)
		c.recv(bytes(promiseFrame(1, 2, requestBlock)))
		if ours {
			c.must(c.reset(2, 7))
		} else {
			c.recv(bytes(resetFrame(2, 7)))
		}
		c.wantRecv(bytes(promiseFrame(1, 2, requestBlock)), deadEvent(protocol))
	}
}

// TestPromiseAboveOurs: of a list above ours List the promised stream is reset, and
// the other goes on.
func TestPromiseAboveOurs(t *testing.T) {
	for _, end := range []bool{false, true} {
		for by := -1; by <= 1; by++ {
			c := withList(t, true, 1024)
			c.mustOpen(end)
			block, fields := sized(1024 + by)
			if by <= 0 {
				c.wantRecv(bytes(promiseFrame(1, 2, block)), promiseEvent(1, 2, fields))
				continue
			}
			c.wantRecv(bytes(promiseFrame(1, 2, block)), resetEvent(2, calm))
			c.wantControl(resetFrame(2, calm))
			c.wantState(2, closed)
			c.wantRecv(bytes(headersFrame(2, adds, false), dataFrame(2, "ab", true))) // was under way
			c.wantControl(windowFrame(0, 2))
			wantTable(c)
			c.wantRecv(bytes(promiseFrame(1, 4, names)), promiseEvent(1, 4, added()))
		}
	}
}

// TestPromiseOnResetStream: it is cancelled, also where its list is too long.
func TestPromiseOnResetStream(t *testing.T) {
	for _, size := range []int{1024, 1025} {
		c := withList(t, true, 1024)
		c.mustOpen(true)
		c.must(c.reset(1, 8))
		block, _ := sized(size)
		c.wantRecv(bytes(promiseFrame(1, 2, block)), resetEvent(2, cancelled))
		c.wantControl(resetFrame(1, 8), resetFrame(2, cancelled))
		c.wantState(2, closed)
		c.wantRecv(bytes(headersFrame(2, "\xbf", true)))
		c.wantRecv(bytes(promiseFrame(1, 4, "\xbf")), resetEvent(4, cancelled))
		c.wantRecv(bytes(promiseFrame(1, 4, "\xbf")), deadEvent(protocol))
		c.wantControl(resetFrame(4, cancelled), goAwayFrame(4, protocol))
	}
}

// TestPromiseBehindAFault: a stream that a fault of its own has reset is one that we
// reset.
func TestPromiseBehindAFault(t *testing.T) {
	c := standing(t, true)
	c.mustOpen(true)
	c.wantRecv(bytes(windowFrame(1, 0)), resetEvent(1, protocol))
	c.wantRecv(bytes(promiseFrame(1, 2, adds)), resetEvent(2, cancelled))
	wantTable(c)
}

// TestPushIsOff: an end that takes no pushes, and one that takes them again.
func TestPushIsOff(t *testing.T) {
	off := standard()
	off.Push = 0
	c := standingWith(t, true, off)
	c.mustOpen(true)
	c.must(c.settings(standard()))
	c.control()
	c.wantRecv(bytes(ackFrame()), api.Event{Kind: api.EventAck})
	c.wantRecv(bytes(promiseFrame(1, 2, requestBlock)), promiseEvent(1, 2, request()))
	c.must(c.settings(off))
	c.control()
	c.wantRecv(bytes(promiseFrame(1, 4, requestBlock)), promiseEvent(1, 4, request()))
	c.wantRecv(bytes(ackFrame()), api.Event{Kind: api.EventAck})
	c.wantRecv(bytes(promiseFrame(1, 6, requestBlock)), deadEvent(protocol))
	c.wantControl(goAwayFrame(4, protocol))
}

// TestBlockTooLong: a block of more than 131072 bytes is the connection's fault.
func TestBlockTooLong(t *testing.T) {
	piece := strings.Repeat("\x82", 16384)
	for _, more := range []int{0, 1} {
		s := standing(t, false)
		s.recv(raw(1, 0, 1, piece))
		for range 7 {
			s.wantRecv(raw(9, 0, 1, piece))
		}
		if more == 1 {
			s.wantRecv(raw(9, 4, 1, "\x82"), deadEvent(calm))
			s.wantState(1, idle)
			continue
		}
		events := s.recv(raw(9, 4, 1, ""))
		if len(events) != 1 || len(events[0].Fields) != 131072 {
			t.Errorf("P21.1: a block of 131072 bytes: %d events", len(events))
		}
	}
}

// TestHeadersWithAllElse: padding and a priority are nothing to an event.
func TestHeadersWithAllElse(t *testing.T) {
	s := standing(t, false)
	f := api.Frame{Type: 1, Flags: 1 | 4 | 8 | 32, Stream: 1, Dep: 1, Excl: true, Weight: 256, Pad: 200, Data: requestBlock}
	s.wantRecv(bytes(f), headEvent(1, request(), true))
	s.wantControl()
	c := standing(t, true)
	c.mustOpen(true)
	f = api.Frame{Type: 5, Flags: 4 | 8, Stream: 1, Last: 2, Pad: 7, Data: requestBlock}
	c.wantRecv(bytes(f), promiseEvent(1, 2, request()))
	s.wantRecv(bytes(headersFrame(3, "\x10\x01a\x01b", false)), headEvent(3, []api.Field{{Name: "a", Value: "b", Never: true}}, false))
	s.wantRecv(bytes(headersFrame(5, "", true)), headEvent(5, nil, true))
}

// TestOursTable: from the acknowledgement on it is the unpacking's limit.
func TestOursTable(t *testing.T) {
	const to4097, to0 = "\x3f\xe2\x1f", "\x20"
	set := standard()
	set.Table = 4097
	s := newBoth(t, false, set)
	s.control()
	s.recv(api.Preface + bytes(settingsFrame(), ackFrame()))
	s.wantRecv(bytes(headersFrame(1, to4097+adds, true)), headEvent(1, added(), true))
	set.Table = 0
	s.must(s.settings(set))
	s.control()
	s.wantRecv(bytes(headersFrame(3, names, true)), headEvent(3, added(), true))
	s.wantRecv(bytes(ackFrame(), headersFrame(5, to0+"\x82", true)), api.Event{Kind: api.EventAck}, headEvent(5, lists.Of(":method", "GET"), true))
	s.wantRecv(bytes(headersFrame(7, names, true)), deadEvent(compression))
	s = newBoth(t, false, set)
	s.control()
	s.recv(api.Preface + bytes(settingsFrame(), ackFrame()))
	s.wantRecv(bytes(headersFrame(1, "\x82", true)), deadEvent(compression)) // it must begin with a change
}
