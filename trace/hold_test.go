package trace_test

import (
	"fmt"
	"slices"
	"strings"
	"testing"

	"herald/api"
	"herald/lists"
	"herald/trace"
)

func s(f api.Frame) api.Entry { return api.Entry{Sent: true, F: f} }
func g(f api.Frame) api.Entry { return api.Entry{F: f} }

// went is an entry of one of the two ways.
func went(sent bool, f api.Frame) api.Entry { return api.Entry{Sent: sent, F: f} }

func list(l ...api.Param) api.Frame { return api.Frame{Type: settings, Params: l} }

func param(id int, value int64) api.Param { return api.Param{ID: id, Value: value} }

func acks() api.Frame { return api.Frame{Type: settings, Flags: ack} }

func head(id int64, flags int) api.Frame {
	return api.Frame{Type: headers, Flags: flags, Stream: id}
}

func more(id int64, flags int) api.Frame {
	return api.Frame{Type: continuation, Flags: flags, Stream: id}
}

func of(f api.Frame, n int) api.Frame {
	f.Data = strings.Repeat("x", n)
	return f
}

func bytes(id int64, flags, n int) api.Frame {
	return of(api.Frame{Type: data, Flags: flags, Stream: id}, n)
}

func promises(on, id int64) api.Frame {
	return api.Frame{Type: promise, Flags: whole, Stream: on, Last: id}
}

func gives(id, n int64) api.Frame { return api.Frame{Type: update, Stream: id, Last: n} }

func resets(id int64) api.Frame { return api.Frame{Type: reset, Stream: id, Code: 8} }

func pings(text string) api.Frame { return api.Frame{Type: ping, Data: text} }

func pongs(text string) api.Frame { return api.Frame{Type: ping, Flags: ack, Data: text} }

func leaves() api.Frame { return api.Frame{Type: goAway} }

func orders(id int64) api.Frame { return api.Frame{Type: priority, Stream: id, Weight: 1} }

// met is how a log begins in which both ends have acknowledged what the other one
// said, and these entries behind that.
func met(l ...api.Entry) []api.Entry {
	return slices.Concat([]api.Entry{s(list()), g(list()), s(acks()), g(acks())}, l)
}

// turned is the same log as the other end has it.
func turned(l []api.Entry) []api.Entry {
	var back []api.Entry
	for _, e := range l {
		back = append(back, api.Entry{Sent: !e.Sent, F: e.F})
	}
	return back
}

// end is the name of one.
func end(client bool) string {
	if client {
		return "a client's"
	}
	return "a server's"
}

var typeNames = []string{"DATA", "HEADERS", "PRIORITY", "RST_STREAM", "SETTINGS", "PUSH_PROMISE", "PING", "GOAWAY", "WINDOW_UPDATE", "CONTINUATION"}

func shownEntry(e api.Entry) string {
	f := e.F
	name := fmt.Sprint("type ", f.Type)
	if f.Type >= 0 && f.Type < len(typeNames) {
		name = typeNames[f.Type]
	}
	text := "g "
	if e.Sent {
		text = "s "
	}
	text += fmt.Sprintf("%s+%d of %d", name, f.Flags, f.Stream)
	if f.Type == promise || f.Type == update {
		text += fmt.Sprint(": ", f.Last)
	}
	if len(f.Params) > 0 {
		text += fmt.Sprint(" ", f.Params[:min(len(f.Params), 4)])
	}
	if f.Data != "" {
		text += " " + lists.ShownText(f.Data)
	}
	if f.Pad > 0 {
		text += fmt.Sprint(" pad ", f.Pad)
	}
	return text
}

// shown is a log's end, as an error tells it.
func shown(l []api.Entry, client bool) string {
	const most = 60
	var lines []string
	from := max(0, len(l)-most)
	for i, e := range l[from:] {
		lines = append(lines, fmt.Sprint(from+i, ": ", shownEntry(e)))
	}
	return end(client) + " log\n\t" + strings.Join(lines, "\n\t") + "\n"
}

// wantCheck holds Check's answer.
func wantCheck(t *testing.T, promise string, client bool, at int, code int64, l []api.Entry) {
	t.Helper()
	if i, c := trace.Check(l, client); i != at || c != code {
		t.Fatalf("%s: Check = %d, %d, want %d, %d: %s", promise, i, c, at, code, shown(l, client))
	}
}

// hold holds Check against the model, at the log, at all that it begins with, and with
// other entries where it was refused; and all that is promised of what is taken.
func hold(t *testing.T, client bool, l []api.Entry) (int, judged) {
	t.Helper()
	at, j := modelCheck(l, client)
	wantCheck(t, "P24.1", client, at, j.code, l)
	holdFront(t, client, l, at, j.code)
	if at < 0 {
		holdTaken(t, client, l)
	}
	return at, j
}

// holdFront is P24.2: only what stands up to the place counts.
func holdFront(t *testing.T, client bool, l []api.Entry, at int, code int64) {
	t.Helper()
	n := len(l)
	if at >= 0 {
		n = at
	}
	for i := range n + 1 {
		wantCheck(t, "P24.2", client, -1, 0, l[:i])
	}
	if at < 0 {
		return
	}
	for i := at + 1; i <= len(l); i++ {
		wantCheck(t, "P24.2", client, at, code, l[:i])
	}
	for _, behind := range []api.Entry{s(leaves()), g(leaves()), s(api.Frame{Type: -1}), g(list()), s(acks())} {
		wantCheck(t, "P24.2", client, at, code, slices.Concat(l[:at+1], []api.Entry{behind}))
		wantCheck(t, "P24.2", client, at, code, slices.Concat(l[:at+1], []api.Entry{behind}, l[at+1:]))
		instead := slices.Concat(l[:at], []api.Entry{behind})
		i, other := modelCheck(instead, client)
		wantCheck(t, "P24.2", client, i, other.code, instead)
	}
}

// holdTaken is P24.3 and P24.4 of a log that is taken.
func holdTaken(t *testing.T, client bool, l []api.Entry) {
	t.Helper()
	if mayTurn(l) {
		wantCheck(t, "P24.3", !client, -1, 0, turned(l))
	}
	if wrong := wrongWith(l, client); wrong != "" {
		t.Fatalf("P24.4: %s: %s", wrong, shown(l, client))
	}
}

// mayTurn tells whether a log is one of which P24.3 speaks.
func mayTurn(l []api.Entry) bool {
	shut := map[int64]bool{}
	for _, e := range l {
		f := e.F
		if f.Type == goAway || !e.Sent && (shut[f.Stream] || f.Type == promise && shut[f.Last]) {
			return false
		}
		if e.Sent && f.Type == reset {
			shut[f.Stream] = true
		}
	}
	return true
}

// wrongWith is what of P24.4 a log breaks.
func wrongWith(l []api.Entry, client bool) string {
	var greatest int64
	room := map[bool]int64{true: 65535, false: 65535}
	over := map[bool]map[int64]bool{true: {}, false: {}}
	for i, e := range l {
		f := e.F
		if f.Type == promise {
			if f.Last%2 != 0 || f.Last <= greatest {
				return fmt.Sprint("a promise of ", f.Last, " behind ", greatest)
			}
			greatest = f.Last
			if e.Sent == client {
				return "a client's promise"
			}
			if isOff(l[:i], e.Sent) {
				return "a promise where pushing is off"
			}
		}
		if f.Type == update && f.Stream == 0 {
			room[!e.Sent] += f.Last
		}
		if f.Type == data {
			if room[e.Sent] -= bytesOf(f); room[e.Sent] < 0 {
				return "more DATA than the windows gave"
			}
		}
		if slices.Contains([]int{headers, promise, data, reset, update}, f.Type) && over[e.Sent][f.Stream] {
			return fmt.Sprint("a frame behind the reset of ", f.Stream)
		}
		if f.Type == reset {
			over[e.Sent][f.Stream] = true
		}
	}
	return ""
}

// isOff tells whether the end to which a promise goes has said that it takes none,
// and that was acknowledged.
func isOff(l []api.Entry, sent bool) bool {
	var said []bool
	off, acked := false, 0
	for _, e := range l {
		if e.Sent != sent && isList(e.F) {
			for _, q := range e.F.Params {
				if q.ID == 2 {
					off = q.Value == 0
				}
			}
			said = append(said, off)
		}
		if e.Sent == sent && isAck(e.F) {
			acked++
		}
	}
	return acked > 0 && said[acked-1]
}

// wantAt is the place and the code of a log, at this end; all that is promised of it
// is held too.
func wantAt(t *testing.T, client bool, at int, code int64, l ...api.Entry) {
	t.Helper()
	wantCheck(t, "P24.1", client, at, code, l)
	hold(t, client, l)
}

func wantTaken(t *testing.T, client bool, l ...api.Entry) {
	t.Helper()
	wantAt(t, client, -1, 0, l...)
}

// wantLast is the code of a log's last entry; those ahead of it are taken.
func wantLast(t *testing.T, client bool, code int64, l ...api.Entry) {
	t.Helper()
	if code == 0 {
		wantTaken(t, client, l...)
		return
	}
	wantAt(t, client, len(l)-1, code, l...)
}

// wantBoth is the code of a log's last entry, at this end, and, turned about, at the
// other.
func wantBoth(t *testing.T, client bool, code int64, l ...api.Entry) {
	t.Helper()
	wantLast(t, client, code, l...)
	wantLast(t, !client, code, turned(l)...)
}
