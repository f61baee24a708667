package trace_test

import (
	"testing"

	"herald/api"
)

// firstExample is the log of the chapter's first example.
func firstExample() []api.Entry {
	return []api.Entry{
		s(list()), g(list()), s(acks()), g(acks()), s(head(1, ends|whole)), g(promises(1, 2)), g(head(1, whole)), g(bytes(1, 0, 2)),
		s(gives(0, 2)), s(gives(1, 2)), g(bytes(1, ends, 0)), g(head(2, ends|whole)),
	}
}

// TestExamples: the chapter's six.
func TestExamples(t *testing.T) {
	l := firstExample()
	wantTaken(t, true, l...)
	wantAt(t, true, 1, 1, l[1:]...)
	wantAt(t, true, 1, 1, append([]api.Entry{l[0]}, l[2:]...)...)

	h1 := s(head(1, ends|whole))
	wantAt(t, true, 3, 1, s(list()), g(list()), g(acks()), g(acks()))
	off := s(list(param(2, 0)))
	wantAt(t, true, 4, 1, off, g(list()), g(acks()), h1, g(promises(1, 2)))
	wantTaken(t, true, off, g(list()), h1, g(promises(1, 2)), g(acks()))

	eight := "12345678"
	wantTaken(t, true, s(list()), g(list()), s(head(1, 0)), g(pings(eight)), s(more(1, whole)))
	wantAt(t, true, 3, 1, s(list()), g(list()), s(head(1, 0)), s(pings(eight)), s(more(1, whole)))

	full := g(bytes(1, 0, 16384))
	wantAt(t, true, 7, 3, s(list()), g(list()), h1, g(head(1, whole)), full, full, full, full)
	over := []api.Entry{s(list()), g(list()), h1, g(head(1, whole)), g(bytes(1, ends, 0)), s(resets(1)), s(resets(1))}
	wantTaken(t, true, over[:6]...)
	wantAt(t, true, 6, 5, over...)

	asked := g(head(1, ends|whole))
	wantAt(t, false, 3, 1, g(list()), s(list()), asked, s(head(2, whole)))
	wantAt(t, false, 3, 1, g(list()), s(list()), asked, s(promises(1, 3)))
	none := g(list(param(3, 0)))
	wantTaken(t, false, none, s(list()), asked, s(promises(1, 2)), s(head(2, whole)))
	wantAt(t, false, 5, 7, none, s(list()), asked, s(promises(1, 2)), s(acks()), s(head(2, whole)))

	wantTaken(t, true)
	wantTaken(t, false)
	wantCheck(t, "P24.1", true, -1, 0, []api.Entry{})
}

// check is an entry that one of the six checks refuses, behind what of a log it needs.
type check struct {
	name   string
	client bool        // who sends it
	ahead  []api.Entry // of that end's log
	f      api.Frame
	code   int64
}

func checks() []check {
	return []check{
		{"form", true, nil, api.Frame{Type: ping, Data: "short"}, protocol},
		{"length", false, nil, of(api.Frame{Type: 10}, 65537), sizing},
		{"size", true, nil, of(api.Frame{Type: 10}, 16385), sizing},
		{"block", true, []api.Entry{s(head(1, 0))}, head(3, whole), protocol},
		{"no block", false, nil, more(1, whole), protocol},
		{"reset", true, []api.Entry{s(head(1, whole)), s(resets(1))}, bytes(1, 0, 1), closing},
		{"type", true, nil, bytes(1, 0, 1), protocol},
		{"type", true, nil, gives(0, 0), protocol},
		{"type", false, nil, pongs("12345678"), protocol},
		{"type", true, []api.Entry{s(head(1, whole))}, gives(0, top), flow},
		{"type", false, []api.Entry{g(head(1, ends|whole)), s(head(1, ends|whole))}, head(1, whole), protocol},
	}
}

// TestEachCheck: by itself, sent and got, at a client and at a server.
func TestEachCheck(t *testing.T) {
	for _, c := range checks() {
		l := append(met(c.ahead...), s(c.f))
		wantLast(t, c.client, c.code, l...)
		code := c.code
		if c.name == "type" && c.f.Type == headers {
			code = closing // where it is got the stream's state says so
		}
		wantLast(t, !c.client, code, turned(l)...)
	}
	for _, client := range []bool{true, false} {
		wantLast(t, client, protocol, append(met(s(leaves())), s(pings("12345678")))...)
		wantLast(t, client, protocol, append(met(s(leaves())), g(pings("12345678")))...)
		wantLast(t, client, 0, append(met(g(leaves())), g(pings("12345678")))...)
		wantBoth(t, client, protocol, s(pings("12345678")))
	}
}

// TestOrderOfChecks: of two that hold at one entry the first gives its code.
func TestOrderOfChecks(t *testing.T) {
	// A GOAWAY that was sent is ahead of all.
	for _, c := range checks() {
		if c.name != "block" { // in which no GOAWAY may stand
			wantLast(t, c.client, protocol, append(met(append(c.ahead, s(leaves()))...), s(c.f))...)
		}
		wantLast(t, !c.client, protocol, append(met(append(turned(c.ahead), s(leaves()))...), g(c.f))...)
	}
	wrong, long, big := api.Frame{Type: data, Flags: 64, Stream: 1}, bytes(1, 0, 65537), bytes(1, 0, 16385)
	for _, client := range []bool{true, false} {
		// The form, and the first of its way.
		wantBoth(t, client, sizing, s(long))
		wantBoth(t, client, sizing, s(big))
		wantBoth(t, client, protocol, s(of(api.Frame{Type: ping}, 65537)))
	}
	// The form, and a block; and a reset ahead of it.
	inside := met(s(head(1, 0)))
	wantBoth(t, true, sizing, append(inside, s(long))...)
	wantBoth(t, true, sizing, append(inside, s(of(more(3, 0), 16385)))...)
	behind := met(s(head(1, whole)), s(resets(1)))
	wantBoth(t, true, protocol, append(behind, s(wrong))...)
	wantBoth(t, true, sizing, append(behind, s(long))...)
	wantBoth(t, true, sizing, append(behind, s(big))...)
	// The first of its way, and no block.
	wantBoth(t, true, protocol, s(more(1, whole)))
	// A block, and a reset.
	crossed := met(s(head(1, ends|whole)), s(head(3, whole)), s(resets(3)), s(head(5, 0)))
	wantLast(t, true, protocol, append(crossed, s(gives(3, 1)))...)
	wantLast(t, true, protocol, append(crossed, s(more(3, whole)))...)
	// A reset, and what its type says: of an update of nothing, of DATA above the window.
	wantBoth(t, true, closing, append(behind, s(gives(1, 0)))...)
	wantBoth(t, true, closing, append(behind, s(resets(1)))...)
	wantBoth(t, true, closing, append(behind, s(head(1, whole)))...)
	low := []api.Entry{g(list(param(4, 0))), s(list()), s(acks()), g(acks()), s(head(1, whole)), s(resets(1))}
	wantBoth(t, true, closing, append(low, s(bytes(1, 0, 1)))...)
	pushed := []api.Entry{g(list(param(2, 0))), s(list()), s(acks()), g(head(1, ends|whole)), s(resets(1))}
	wantLast(t, false, closing, append(pushed, s(promises(1, 2)))...)
}

// TestOrderWithinTypes: of two that a type names the first gives its code.
func TestOrderWithinTypes(t *testing.T) {
	// HEADERS: the verdict, a GOAWAY, the number of streams.
	few := []api.Entry{s(list(param(3, 0))), g(list(param(3, 0))), s(acks()), g(acks())}
	wantLast(t, true, refused, append(few, s(head(1, whole)))...)
	wantLast(t, true, protocol, append(few, s(head(2, whole)))...)
	wantLast(t, true, protocol, append(few, g(leaves()), s(head(1, whole)))...)
	wantLast(t, false, refused, append(few, g(head(1, whole)))...)
	wantLast(t, false, protocol, append(few, g(head(2, whole)))...)
	// DATA that is sent: the verdict ahead of the windows; got: the connection's window
	// ahead of the verdict, the stream's behind it.
	full := met(s(head(1, whole)), s(bytes(1, 0, 16384)), s(bytes(1, 0, 16384)), s(bytes(1, 0, 16384)), s(bytes(1, 0, 16383)))
	wantBoth(t, true, flow, append(full, s(bytes(1, 0, 1)))...)
	wantLast(t, true, protocol, append(full, s(bytes(3, 0, 1)))...)
	wantLast(t, false, flow, append(turned(full), g(bytes(3, 0, 1)))...)
	wantLast(t, false, protocol, append(turned(full), g(bytes(3, 0, 0)))...)
	over := append(full, s(bytes(1, ends, 0)))
	wantLast(t, true, protocol, append(over, s(bytes(1, 0, 1)))...)
	wantLast(t, false, flow, append(turned(over), g(bytes(1, 0, 1)))...)
	wantLast(t, false, closing, append(turned(over), g(bytes(1, 0, 0)))...)
	wantLast(t, false, closing, append(turned(over), s(gives(0, 1)), g(bytes(1, 0, 1)))...)
	// SETTINGS: the first wrong param, ahead of 64 lists.
	many := met()
	for range 64 {
		many = append(many, s(list()))
	}
	wantBoth(t, true, calm, append(many, s(list()))...)
	wantBoth(t, true, flow, append(many, s(list(param(4, 1<<31))))...)
	wantBoth(t, true, flow, append(met(), s(list(param(4, 1<<31), param(5, 0))))...)
	wantBoth(t, true, protocol, append(met(), s(list(param(4, 5), param(5, 0), param(4, 1<<31))))...)
	// WINDOW_UPDATE: nothing, ahead of the stream's state.
	wantBoth(t, true, protocol, append(met(s(head(1, ends|whole)), g(head(1, ends|whole))), s(gives(1, 0)))...)
}
