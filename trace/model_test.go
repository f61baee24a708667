package trace_test

import (
	"slices"

	"herald/api"
	"herald/frame"
)

// The document's numbers.
const (
	protocol = 1
	flow     = 3
	closing  = 5
	sizing   = 6
	refused  = 7
	calm     = 11

	data         = 0
	headers      = 1
	priority     = 2
	reset        = 3
	settings     = 4
	promise      = 5
	ping         = 6
	goAway       = 7
	update       = 8
	continuation = 9

	ends   = 1
	ack    = 1
	whole  = 4
	padded = 8

	top = 1<<31 - 1
)

const (
	idle = iota
	reservedLocal
	reservedRemote
	open
	halfLocal
	halfRemote
	closed
)

// The columns of chapter 10's tables.
const (
	onHeaders = iota
	onHeadersEnd
	onData
	onDataEnd
	onPromise
	onReset
	onWindow
	onPriority
)

// sentCells and gotCells are chapter 10's verdicts by states. F: Fine, I: Ignored, B:
// Barred, P and C: ConnError, S: StreamError.
var (
	sentCells = []string{"FFBBFBBF", "FFBBBFBF", "BBBBBFFF", "FFFFBFFF", "BBBBBFFF", "FFFFBFFF", "BBBBBBBF"}
	gotCells  = []string{"FFPPFPPF", "PPPPPFFF", "FFPPPFPF", "FFFFPFFF", "FFFFPFFF", "SSSSPFFF", "CCCCPIII"}
)

// past is the entries ahead of one, all of which were taken. The model keeps nothing
// of them but themselves: what it asks it counts anew each time.
type past struct {
	l      []api.Entry
	client bool
}

// judged is a code, and the rule that gives it.
type judged struct {
	code int64
	why  string
}

var taken = judged{}

func modelCheck(l []api.Entry, client bool) (int, judged) {
	for i, e := range l {
		if j := (past{l[:i], client}).judge(e); j != taken {
			return i, j
		}
	}
	return -1, taken
}

func (p past) with(e api.Entry) past { return past{slices.Concat(p.l, []api.Entry{e}), p.client} }

// count is how many entries went one way and are so.
func (p past) count(sent bool, is func(api.Frame) bool) int {
	n := 0
	for _, x := range p.l {
		if x.Sent == sent && is(x.F) {
			n++
		}
	}
	return n
}

func isAny(api.Frame) bool      { return true }
func isGoAway(f api.Frame) bool { return f.Type == goAway }
func isList(f api.Frame) bool   { return f.Type == settings && f.Flags == 0 }
func isAck(f api.Frame) bool    { return f.Type == settings && f.Flags == ack }
func isPing(f api.Frame) bool   { return f.Type == ping && f.Flags == 0 }
func isPong(f api.Frame) bool   { return f.Type == ping && f.Flags == ack }

func isResetOf(id int64) func(api.Frame) bool {
	return func(f api.Frame) bool { return f.Type == reset && f.Stream == id }
}

// set is what of a side's settings a trace is judged by.
type set struct{ push, streams, window, frame int64 }

// inForce is what holds for what goes one way: as many lists that went the other way
// as were acknowledged.
func (p past) inForce(sent bool) set {
	s := set{1, top, 65535, 16384}
	acks := p.count(sent, isAck)
	for _, x := range p.l {
		if x.Sent == sent || !isList(x.F) || acks == 0 {
			continue
		}
		acks--
		for _, q := range x.F.Params {
			switch q.ID {
			case 2:
				s.push = q.Value
			case 3:
				s.streams = min(q.Value, top)
			case 4:
				s.window = q.Value
			case 5:
				s.frame = min(q.Value, 65536)
			}
		}
	}
	return s
}

// waiting is how many lists that went one way are not acknowledged.
func (p past) waiting(sent bool) int { return p.count(sent, isList) - p.count(!sent, isAck) }

// block is the stream and the bytes of the block in whose middle a way is; 0: of none.
func (p past) block(sent bool) (int64, int) {
	stream, n := int64(0), 0
	for _, x := range p.l {
		f := x.F
		if x.Sent != sent || f.Type != headers && f.Type != promise && f.Type != continuation {
			continue
		}
		if f.Type != continuation {
			n = 0
		}
		stream, n = f.Stream, n+len(f.Data)
		if f.Flags&whole > 0 {
			stream = 0
		}
	}
	return stream, n
}

// state is a stream's, by who may still send on it, and whether this end cut it off.
func (p past) state(id int64) (int, bool) {
	var born, headed, we, they, cut bool
	greatest := int64(0)
	for _, x := range p.l {
		f := x.F
		if f.Type == promise && f.Last%2 == id%2 {
			greatest = max(greatest, f.Last)
		}
		if f.Type == headers && f.Stream%2 == id%2 {
			greatest = max(greatest, f.Stream)
		}
		switch {
		case f.Type == promise && f.Last == id:
			born, we, they = true, x.Sent, !x.Sent
		case f.Stream != id:
		case f.Type == headers && !born:
			born, headed, we, they = true, true, true, true
		case f.Type == headers:
			headed = true
		case f.Type == reset:
			cut = cut || x.Sent && (we || they)
			we, they = false, false
		}
		if (f.Type == headers || f.Type == data) && f.Stream == id && f.Flags&ends > 0 {
			we, they = we && !x.Sent, they && x.Sent
		}
	}
	switch {
	case !born && id > greatest:
		return idle, false
	case !we && !they:
		return closed, cut
	case !headed && we:
		return reservedLocal, false
	case !headed:
		return reservedRemote, false
	case we && they:
		return open, false
	case they:
		return halfLocal, false
	}
	return halfRemote, false
}

func (p past) stateOf(id int64) int {
	s, _ := p.state(id)
	return s
}

func counts(s int) bool { return s == open || s == halfLocal || s == halfRemote }

// born is every stream that was, once.
func (p past) born() []int64 {
	var ids []int64
	for _, x := range p.l {
		id := x.F.Stream
		if x.F.Type == promise {
			id = x.F.Last
		} else if x.F.Type != headers {
			continue
		}
		if !slices.Contains(ids, id) {
			ids = append(ids, id)
		}
	}
	return ids
}

// counting is how many streams count, of those that this end, or the other, numbers.
func (p past) counting(ours bool) int64 {
	n := int64(0)
	for _, id := range p.born() {
		if (id%2 == 1) == (p.client == ours) && counts(p.stateOf(id)) {
			n++
		}
	}
	return n
}

// verdict is chapter 11's on an event, as a letter.
func (p past) verdict(sent bool, id int64, kind int) byte {
	misplaced := byte('P')
	if sent {
		misplaced = 'B'
	}
	if id < 1 || id > top {
		return misplaced
	}
	at, cut := p.state(id)
	if at == idle && slices.Contains([]int{onHeaders, onHeadersEnd, onPromise}, kind) {
		byClient := p.client == sent
		right := id%2 == 1 && byClient && kind != onPromise || id%2 == 0 && !byClient && kind == onPromise
		if !right {
			return misplaced
		}
	}
	if cut && !sent && kind != onPromise {
		return 'I'
	}
	if sent {
		return sentCells[at][kind]
	}
	return gotCells[at][kind]
}

func codeOf(verdict byte) judged {
	switch verdict {
	case 'B', 'P':
		return judged{protocol, "verdict " + string(verdict)}
	case 'C', 'S':
		return judged{closing, "verdict " + string(verdict)}
	}
	return taken
}

// bytesOf is what DATA takes from the windows.
func bytesOf(f api.Frame) int64 {
	n := int64(len(f.Data))
	if f.Flags&padded > 0 {
		n += 1 + int64(f.Pad)
	}
	return n
}

// room is the window of one way, of a stream that lives, or (0) of the connection:
// what it began with, what was given and what was taken.
func (p past) room(sent bool, id int64) int64 {
	left := int64(65535)
	if id > 0 {
		left = p.inForce(sent).window
	}
	for _, x := range p.l {
		switch f := x.F; {
		case f.Type == update && x.Sent != sent && f.Stream == id:
			left += f.Last
		case f.Type == data && x.Sent == sent && (f.Stream == id || id == 0):
			left -= bytesOf(f)
		}
	}
	return left
}

// pings is the texts of those that went one way and are not answered.
func (p past) pings(sent bool) []string {
	var texts []string
	for _, x := range p.l {
		if x.Sent == sent && isPing(x.F) {
			texts = append(texts, x.F.Data)
		}
	}
	return texts[p.count(!sent, isPong):]
}

// judge is the chapter's six checks.
func (p past) judge(e api.Entry) judged {
	f := e.F
	if p.count(true, isGoAway) > 0 {
		return judged{protocol, "behind a GOAWAY that was sent"}
	}
	b, errno := frame.Write(f)
	switch {
	case errno == 3:
		return judged{sizing, "ErrLong"}
	case errno != 0:
		return judged{protocol, "ErrFrame"}
	case int64(len(b)) > 9+p.inForce(e.Sent).frame:
		return judged{sizing, "above the size"}
	}
	if p.count(e.Sent, isAny) == 0 && !isList(f) {
		return judged{protocol, "first"}
	}
	block, _ := p.block(e.Sent)
	switch {
	case block != 0 && f.Type != continuation:
		return judged{protocol, "inside a block"}
	case block != 0 && f.Stream != block:
		return judged{protocol, "another's block"}
	case block == 0 && f.Type == continuation:
		return judged{protocol, "no block"}
	}
	ofStream := []int{headers, promise, data, reset, update}
	if slices.Contains(ofStream, f.Type) && p.count(e.Sent, isResetOf(f.Stream)) > 0 {
		return judged{closing, "behind its reset"}
	}
	return p.byType(e)
}

func (p past) byType(e api.Entry) judged {
	f := e.F
	switch f.Type {
	case headers:
		return p.headers(e)
	case promise:
		return p.promise(e)
	case continuation:
		if _, n := p.block(e.Sent); n+len(f.Data) > 131072 {
			return judged{calm, "a block too long"}
		}
	case data:
		return p.data(e)
	case reset:
		if e.Sent && p.stateOf(f.Stream) == idle {
			return judged{protocol, "reset of an idle one"}
		}
		if !e.Sent {
			return codeOf(p.verdict(false, f.Stream, onReset))
		}
	case settings:
		return p.settings(e)
	case ping:
		if f.Flags == ack {
			if l := p.pings(!e.Sent); len(l) == 0 || l[0] != f.Data {
				return judged{protocol, "no such PING"}
			}
		}
	case update:
		return p.update(e)
	case priority:
		return codeOf(p.verdict(e.Sent, f.Stream, onPriority))
	}
	return taken
}

func (p past) headers(e api.Entry) judged {
	f, kind := e.F, onHeaders
	if f.Flags&ends > 0 {
		kind = onHeadersEnd
	}
	if j := codeOf(p.verdict(e.Sent, f.Stream, kind)); j != taken {
		return j
	}
	before, now := p.stateOf(f.Stream), p.with(e)
	if e.Sent && p.count(false, isGoAway) > 0 && before == idle {
		return judged{protocol, "a new stream behind a GOAWAY"}
	}
	if !counts(before) && counts(now.stateOf(f.Stream)) && now.counting(e.Sent) > p.inForce(e.Sent).streams {
		return judged{refused, "too many streams"}
	}
	return taken
}

func (p past) promise(e api.Entry) judged {
	f := e.F
	if p.inForce(e.Sent).push != 1 {
		return judged{protocol, "pushing is off"}
	}
	at := p.stateOf(f.Stream)
	switch {
	case f.Stream%2 == 0:
		return judged{protocol, "a promise on an even one"}
	case e.Sent && at != open && at != halfRemote:
		return judged{protocol, "a promise on a wrong one"}
	case !e.Sent && at != open && at != halfLocal && p.count(true, isResetOf(f.Stream)) == 0:
		return judged{protocol, "a promise on a wrong one"}
	}
	if j := codeOf(p.verdict(e.Sent, f.Last, onPromise)); j != taken {
		return j
	}
	if e.Sent && p.count(false, isGoAway) > 0 {
		return judged{protocol, "a promise behind a GOAWAY"}
	}
	return taken
}

func (p past) data(e api.Entry) judged {
	f, kind, n := e.F, onData, bytesOf(e.F)
	if f.Flags&ends > 0 {
		kind = onDataEnd
	}
	v := p.verdict(e.Sent, f.Stream, kind)
	if e.Sent && codeOf(v) != taken {
		return codeOf(v)
	}
	if n > 0 && n > p.room(e.Sent, 0) {
		return judged{flow, "above the connection's window"}
	}
	if codeOf(v) != taken {
		return codeOf(v)
	}
	if v != 'I' && n > 0 && n > p.room(e.Sent, f.Stream) {
		return judged{flow, "above the stream's window"}
	}
	return taken
}

func (p past) settings(e api.Entry) judged {
	if isList(e.F) {
		for _, q := range e.F.Params {
			if code := modelValid(q, p.client == e.Sent); code != 0 {
				return judged{code, "a wrong param"}
			}
		}
		if p.waiting(e.Sent) == 64 {
			return judged{calm, "64 lists wait"}
		}
		return taken
	}
	if p.waiting(!e.Sent) == 0 {
		return judged{protocol, "nothing to acknowledge"}
	}
	now := p.with(e)
	for _, id := range p.born() {
		// A window that no setting moves was right ahead of it too.
		if now.stateOf(id) != closed && now.room(e.Sent, id) > top {
			return judged{flow, "settings above the greatest window"}
		}
	}
	return taken
}

func modelValid(q api.Param, client bool) int64 {
	switch {
	case q.ID == 2 && (q.Value > 1 || q.Value == 1 && !client):
		return protocol
	case q.ID == 4 && q.Value > top:
		return flow
	case q.ID == 5 && (q.Value < 16384 || q.Value > 16777215):
		return protocol
	}
	return 0
}

func (p past) update(e api.Entry) judged {
	f := e.F
	if f.Last == 0 {
		return judged{protocol, "an update of nothing"}
	}
	if f.Stream > 0 {
		at := p.stateOf(f.Stream)
		v := p.verdict(e.Sent, f.Stream, onWindow)
		switch {
		case e.Sent && at == idle:
			return judged{protocol, "an update of an idle one"}
		case e.Sent && at == closed, v == 'I':
			return taken
		case codeOf(v) != taken:
			return codeOf(v)
		}
	}
	if p.room(!e.Sent, f.Stream)+f.Last > top {
		return judged{flow, "above the greatest window"}
	}
	return taken
}
