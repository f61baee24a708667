package conn_test

import (
	"math"
	"slices"
	"strings"

	"herald/api"
	"herald/frame"
	"herald/pack"
)

// The document's own numbers.
const (
	argError   = 1
	fullError  = 6
	stateError = 8
	blockError = 50
	listError  = 51
	deadError  = 210

	protocol    = 1
	internal    = 2
	flow        = 3
	streamOver  = 5
	frameSize   = 6
	refused     = 7
	cancelled   = 8
	compression = 9
	calm        = 11

	idle           = 0
	reservedLocal  = 1
	reservedRemote = 2
	open           = 3
	halfLocal      = 4
	halfRemote     = 5
	closed         = 6

	top      = 2147483647
	least    = math.MinInt64
	greatest = math.MaxInt64
)

// standard is the default set.
func standard() api.Set {
	return api.Set{Table: 4096, Push: 1, Streams: top, Window: 65535, Frame: 16384, List: top}
}

// The model is a conn by the chapter's words. Of the layers below it takes frames
// as bytes and the packing of lists; all else it works out by itself, windows by
// going through all that ever happened to them.
type model struct {
	client bool
	text   string // came, and wasn't read
	begun  bool   // the preface came
	most   int64
	head   api.Frame // of the block under way
	inside bool
	block  string
	enc    *pack.Encoder
	dec    *pack.Decoder

	theirs, announced api.Set
	met               bool
	acked             api.Set
	sentLists         [][]api.Param // wait to be acknowledged

	streams map[int64]*mStream
	moves   []int64 // of the connection's sending window
	preface bool    // waits
	control []api.Frame
	log     []api.Entry
	code    int64
	dead    bool
}

type mStream struct {
	state int
	cut   bool
	moves []int64 // of its sending window, the first what it began with
}

func newModel(client bool, set api.Set) (*model, api.Errno) {
	if !mFits(set) {
		return nil, argError
	}
	m := &model{client: client, begun: client, most: 16384, enc: pack.NewEncoder(), dec: pack.NewDecoder(), theirs: standard(),
		announced: standard(), acked: standard(), streams: map[int64]*mStream{}, moves: []int64{65535}, preface: client}
	m.settings(set)
	return m, 0
}

func mFits(s api.Set) bool {
	return s.Table >= 0 && s.Table <= 65536 && (s.Push == 0 || s.Push == 1) && s.Streams >= 0 && s.Streams <= top &&
		s.Window >= 0 && s.Window <= top && s.Frame >= 16384 && s.Frame <= 65536 && s.List >= 1024 && s.List <= top
}

// fieldsOf are a set's fields by their IDs.
func fieldsOf(s *api.Set) []*int64 {
	return []*int64{nil, &s.Table, &s.Push, &s.Streams, &s.Window, &s.Frame, &s.List}
}

// mApply is a list of the peer's, or of ours, by the end that it comes from.
func mApply(s api.Set, l []api.Param, client bool) (api.Set, int64) {
	for _, p := range l {
		v := p.Value
		switch {
		case p.ID == 2 && (v > 1 || v == 1 && !client):
			return api.Set{}, protocol
		case p.ID == 4 && v > top:
			return api.Set{}, flow
		case p.ID == 5 && (v < 16384 || v > 16777215):
			return api.Set{}, protocol
		}
		if p.ID == 5 {
			v = min(v, 65536)
		}
		if p.ID >= 1 && p.ID <= 6 {
			*fieldsOf(&s)[p.ID] = min(v, top)
		}
	}
	return s, 0
}

// The tables of layer 10: a number is the state behind, . the same state, x
// barred, i ignored; P, C and S are the faults that the chapter names so.
var (
	sentTable = []string{"34xx1xx.", "56xxx6x.", "xxxxx6..", ".4.4x6..", "xxxxx6..", ".6.6x6..", "xxxxxxx."}
	gotTable  = []string{"35PP2PP.", "PPPPP6..", "46PPP6P.", ".5.5P6..", ".6.6P6..", "SSSSP6..", "CCCCPiii"}
)

// The columns of the tables.
const (
	headersKind = iota
	headersEndKind
	dataKind
	dataEndKind
	promiseKind
	resetKind
	windowKind
)

func (m *model) state(id int64) int {
	if id < 1 || id > top {
		return closed
	}
	if s := m.streams[id]; s != nil {
		return s.state
	}
	if m.last(id%2 == 1) > id {
		return closed
	}
	return idle
}

// last is the greatest stream of the client's (odd), or of the server's, that was born.
func (m *model) last(odd bool) int64 {
	last := int64(0)
	for id := range m.streams {
		if (id%2 == 1) == odd {
			last = max(last, id)
		}
	}
	return last
}

func (m *model) isCut(id int64) bool { return m.streams[id] != nil && m.streams[id].cut }

func (m *model) opened(local bool) int {
	n := 0
	for id, s := range m.streams {
		if (id%2 == 1) == (local == m.client) && s.state >= open && s.state <= halfRemote {
			n++
		}
	}
	return n
}

func sum(l []int64) int64 {
	n := int64(0)
	for _, x := range l {
		n += x
	}
	return n
}

func (m *model) window(id int64) int64 {
	if id == 0 {
		return sum(m.moves)
	}
	if s := m.state(id); s == idle || s == closed {
		return 0
	}
	return sum(m.streams[id].moves)
}

// lead brings a stream to the state that a cell of the tables names.
func (m *model) lead(id int64, cell byte, cut bool) {
	s := m.streams[id]
	if s == nil {
		s = &mStream{moves: []int64{m.theirs.Window}}
		m.streams[id] = s
	}
	if cell != '.' {
		s.state = int(cell - '0')
	}
	s.cut = s.cut || cut
}

// sends tells whether we may send something on a stream, and lets it happen.
func (m *model) sends(id int64, kind int) bool {
	cell := sentTable[m.state(id)][kind]
	if cell == 'x' || m.state(id) == idle && !m.bears(id, kind, m.client) {
		return false
	}
	m.lead(id, cell, kind == resetKind)
	return true
}

// bears tells whether an end may give birth to a stream by a kind of frame.
func (m *model) bears(id int64, kind int, client bool) bool {
	if client {
		return id%2 == 1 && kind <= headersEndKind
	}
	return id%2 == 0 && kind == promiseKind
}

// gets tells whether a frame that came is right; if not, its events.
func (m *model) gets(id int64, kind int) ([]api.Event, bool) {
	cell := gotTable[m.state(id)][kind]
	if id == 0 || m.state(id) == idle && kind <= promiseKind && !m.bears(id, kind, !m.client) {
		cell = 'P'
	}
	if m.isCut(id) && kind != promiseKind {
		cell = 'i'
	}
	switch cell {
	case 'P':
		return m.dies(protocol), false
	case 'C':
		return m.dies(streamOver), false
	case 'S':
		return m.fails(id, streamOver), false
	case 'i':
		return nil, false
	}
	m.lead(id, cell, false)
	return nil, true
}

func (m *model) dies(code int64) []api.Event {
	m.control = append(m.control, api.Frame{Type: 7, Last: m.last(!m.client), Code: code})
	m.dead, m.code, m.text = true, code, ""
	return []api.Event{{Kind: 8, Code: code}}
}

func (m *model) fails(id, code int64) []api.Event {
	if m.state(id) != closed {
		m.sends(id, resetKind)
		m.control = append(m.control, api.Frame{Type: 3, Stream: id, Code: code})
	}
	return []api.Event{{Kind: 4, Stream: id, Code: code}}
}

func (m *model) push(chunk string) {
	if !m.dead {
		m.text += chunk
	}
}

func (m *model) next() ([]api.Event, bool) {
	if m.dead {
		return nil, false
	}
	if !m.begun {
		const preface = "PRI * HTTP/2.0\r\n\r\nSM\r\n\r\n"
		n := min(len(m.text), len(preface))
		if m.text[:n] != preface[:n] {
			return m.dies(protocol), true
		}
		if n < len(preface) {
			return nil, false
		}
		m.begun, m.text = true, m.text[n:]
	}
	f, n, fault := frame.Read(m.text, m.most)
	m.text = m.text[n:]
	switch {
	case fault.Code != 0 && fault.Stream == 0:
		return m.dies(fault.Code), true
	case fault.Code != 0:
		return m.takesFault(fault), true
	case n == 0:
		return nil, false
	}
	m.log = append(m.log, api.Entry{F: f})
	return m.takes(f), true
}

func (m *model) takesFault(fault api.Fault) []api.Event {
	switch {
	case !m.met, m.inside:
		return m.dies(protocol)
	case m.state(fault.Stream) == idle:
		return m.dies(fault.Code)
	case m.state(fault.Stream) == closed:
		return nil
	}
	return m.fails(fault.Stream, fault.Code)
}

func (m *model) takes(f api.Frame) []api.Event {
	if !m.met && (f.Type != 4 || f.Flags&1 > 0) {
		return m.dies(protocol)
	}
	if m.inside != (f.Type == 9) || m.inside && f.Stream != m.head.Stream {
		return m.dies(protocol)
	}
	end := f.Flags&1 > 0
	switch f.Type {
	case 0:
		return m.takesData(f, end)
	case 1, 5:
		m.head, m.block, m.inside = f, "", true
		return m.takesPiece(f)
	case 3:
		if events, fine := m.gets(f.Stream, resetKind); !fine {
			return events
		}
		return []api.Event{{Kind: 4, Stream: f.Stream, Code: f.Code}}
	case 4:
		if end {
			return m.takesAck()
		}
		return m.takesSettings(f.Params)
	case 6:
		if !end {
			m.control = append(m.control, api.Frame{Type: 6, Flags: 1, Data: f.Data})
		}
	case 7:
		return []api.Event{{Kind: 7, Stream: f.Last, Code: f.Code}}
	case 8:
		return m.takesWindow(f.Stream, f.Last)
	case 9:
		return m.takesPiece(f)
	}
	return nil
}

func (m *model) takesData(f api.Frame, end bool) []api.Event {
	n, kind := int64(len(f.Data)), dataKind
	if f.Flags&8 > 0 {
		n += int64(f.Pad) + 1
	}
	if end {
		kind = dataEndKind
	}
	if n > 65535 {
		return m.dies(flow)
	}
	if n > 0 {
		m.control = append(m.control, api.Frame{Type: 8, Last: n})
	}
	if events, fine := m.gets(f.Stream, kind); !fine {
		return events
	}
	if n > m.acked.Window {
		return m.fails(f.Stream, flow)
	}
	if n > 0 && !end {
		m.control = append(m.control, api.Frame{Type: 8, Stream: f.Stream, Last: n})
	}
	return []api.Event{{Kind: 2, Stream: f.Stream, Data: f.Data, End: end}}
}

// takesPiece puts a block together, and looks at it when it is whole.
func (m *model) takesPiece(f api.Frame) []api.Event {
	m.block += f.Data
	if len(m.block) > 131072 {
		return m.dies(calm)
	}
	if f.Flags&4 == 0 {
		return nil
	}
	m.inside = false
	fields, e := m.dec.Decode(m.block, m.acked.List)
	if e == blockError {
		return m.dies(compression)
	}
	if m.head.Type == 5 {
		return m.takesPromise(m.head.Stream, m.head.Last, fields, e == listError)
	}
	return m.takesHeaders(m.head.Stream, fields, e == listError, m.head.Flags&1 > 0)
}

func (m *model) takesHeaders(id int64, fields []api.Field, long, end bool) []api.Event {
	full := !m.client && m.state(id) == idle && int64(m.opened(false)) >= m.acked.Streams
	kind := headersKind
	if end {
		kind = headersEndKind
	}
	if events, fine := m.gets(id, kind); !fine {
		return events
	}
	switch {
	case full:
		return m.fails(id, refused)
	case long:
		return m.fails(id, calm)
	}
	return []api.Event{{Kind: 1, Stream: id, Fields: fields, End: end}}
}

func (m *model) takesPromise(id, promised int64, fields []api.Field, long bool) []api.Event {
	s := m.state(id)
	switch {
	case !m.client, m.acked.Push == 0, promised%2 == 1, promised <= m.last(false), id%2 == 0:
		return m.dies(protocol)
	case s == open, s == halfLocal:
		m.lead(promised, '2', false)
		if long {
			return m.fails(promised, calm)
		}
		return []api.Event{{Kind: 3, Stream: id, Promised: promised, Fields: fields}}
	case m.isCut(id):
		m.lead(promised, '2', false)
		return m.fails(promised, cancelled)
	}
	return m.dies(protocol)
}

func (m *model) takesSettings(l []api.Param) []api.Event {
	set, code := mApply(m.theirs, l, !m.client)
	if code != 0 {
		return m.dies(code)
	}
	by := set.Window - m.theirs.Window
	for id := range m.streams {
		if m.state(id) != closed && m.window(id)+by > top {
			return m.dies(flow)
		}
	}
	for _, s := range m.streams {
		s.moves = append(s.moves, by)
	}
	for _, p := range l {
		if p.ID == 1 {
			m.enc.SetMax(p.Value)
		}
	}
	m.theirs, m.met = set, true
	m.control = append(m.control, api.Frame{Type: 4, Flags: 1})
	return []api.Event{{Kind: 5}}
}

func (m *model) takesAck() []api.Event {
	if len(m.sentLists) == 0 {
		return m.dies(protocol)
	}
	m.acked, _ = mApply(m.acked, m.sentLists[0], m.client)
	m.sentLists = m.sentLists[1:]
	m.dec.SetMax(m.acked.Table)
	m.most = m.acked.Frame
	return []api.Event{{Kind: 6}}
}

func (m *model) takesWindow(id, n int64) []api.Event {
	if id > 0 {
		if events, fine := m.gets(id, windowKind); !fine {
			return events
		}
	}
	code := int64(0)
	switch {
	case n == 0:
		code = protocol
	case n+m.window(id) > top:
		code = flow
	}
	switch {
	case code > 0 && id == 0:
		return m.dies(code)
	case code > 0:
		return m.fails(id, code)
	case id == 0:
		m.moves = append(m.moves, n)
	default:
		m.streams[id].moves = append(m.streams[id].moves, n)
	}
	return nil
}

// sent are the bytes of all that waits, and of these frames behind it.
func (m *model) sent(frames ...api.Frame) string {
	var text strings.Builder
	if m.preface {
		text.WriteString("PRI * HTTP/2.0\r\n\r\nSM\r\n\r\n")
		m.preface = false
	}
	for _, f := range slices.Concat(m.control, frames) {
		b, e := frame.Write(f)
		if e != 0 {
			panic("the model writes a wrong frame")
		}
		text.WriteString(b)
		m.log = append(m.log, api.Entry{Sent: true, F: f})
		if f.Type == 4 && f.Flags == 0 {
			m.sentLists = append(m.sentLists, f.Params)
		}
	}
	m.control = nil
	return text.String()
}

func (m *model) listTooLong(fields []api.Field) bool {
	size := int64(0)
	for _, f := range fields {
		size += int64(len(f.Name)+len(f.Value)) + 32
	}
	return size > m.theirs.List || size > 65536
}

func (m *model) noMoreStreams() bool { return int64(m.opened(true)) >= m.theirs.Streams }

// nextOurs is 0 where no number is left.
func (m *model) nextOurs() int64 {
	next := m.last(m.client) + 2
	switch {
	case m.client && next == 2:
		return 1
	case next > top:
		return 0
	}
	return next
}

// blockFrames cuts a list's block by the room that each frame has.
func (m *model) blockFrames(f api.Frame, fields []api.Field) []api.Frame {
	rest, e := m.enc.Encode(fields)
	if e != 0 {
		panic("the model packs a wrong list")
	}
	room := int(m.theirs.Frame)
	if f.Type == 5 {
		room -= 4
	}
	var frames []api.Frame
	for len(rest) > room {
		f.Data = rest[:room]
		frames = append(frames, f)
		rest = rest[room:]
		f, room = api.Frame{Type: 9, Stream: f.Stream}, int(m.theirs.Frame)
	}
	f.Data = rest
	f.Flags |= 4
	return append(frames, f)
}

func (m *model) headers(id int64, fields []api.Field, end bool) string {
	f, kind := api.Frame{Type: 1, Stream: id}, headersKind
	if end {
		f.Flags, kind = 1, headersEndKind
	}
	if !m.sends(id, kind) {
		panic("the model sends HEADERS that it may not")
	}
	return m.sent(m.blockFrames(f, fields)...)
}

func (m *model) open(fields []api.Field, end bool) (int64, string, api.Errno) {
	id := m.nextOurs()
	switch {
	case m.dead:
		return 0, "", deadError
	case !m.client, !m.met:
		return 0, "", stateError
	case m.noMoreStreams(), id == 0:
		return 0, "", fullError
	case m.listTooLong(fields):
		return 0, "", listError
	}
	return id, m.headers(id, fields, end), 0
}

func (m *model) response(id int64, fields []api.Field, end bool) (string, api.Errno) {
	s := m.state(id)
	switch {
	case m.dead:
		return "", deadError
	case m.client, s == idle, sentTable[s][headersKind] == 'x':
		return "", stateError
	case s == reservedLocal && m.noMoreStreams():
		return "", fullError
	case m.listTooLong(fields):
		return "", listError
	}
	return m.headers(id, fields, end), 0
}

func (m *model) promise(id int64, fields []api.Field) (int64, string, api.Errno) {
	s, promised := m.state(id), m.nextOurs()
	switch {
	case m.dead:
		return 0, "", deadError
	case m.client, id%2 == 0, s != open && s != halfRemote, m.theirs.Push == 0:
		return 0, "", stateError
	case m.listTooLong(fields):
		return 0, "", listError
	case promised == 0:
		return 0, "", fullError
	}
	m.lead(promised, '1', false)
	return promised, m.sent(m.blockFrames(api.Frame{Type: 5, Stream: id, Last: promised}, fields)...), 0
}

func (m *model) data(id int64, text string, end bool) (int, string, api.Errno) {
	n := 0
	for n < len(text) && int64(n) < m.window(0) && int64(n) < m.window(id) && int64(n) < m.theirs.Frame {
		n++
	}
	switch {
	case m.dead:
		return 0, "", deadError
	case text == "" && !end:
		return 0, "", argError
	case sentTable[m.state(id)][dataKind] == 'x':
		return 0, "", stateError
	case text != "" && n == 0:
		return 0, "", fullError
	}
	f, kind := api.Frame{Stream: id, Data: text[:n]}, dataKind
	if end && n == len(text) {
		f.Flags, kind = 1, dataEndKind
	}
	m.moves = append(m.moves, -int64(n))
	m.streams[id].moves = append(m.streams[id].moves, -int64(n))
	m.sends(id, kind)
	return n, m.sent(f), 0
}

func (m *model) reset(id, code int64) api.Errno {
	switch {
	case m.dead:
		return deadError
	case code < 0, code > 4294967295:
		return argError
	case m.state(id) == idle, m.state(id) == closed:
		return stateError
	}
	m.sends(id, resetKind)
	m.control = append(m.control, api.Frame{Type: 3, Stream: id, Code: code})
	return 0
}

func (m *model) settings(set api.Set) api.Errno {
	n := len(m.sentLists)
	for _, f := range m.control {
		if f.Type == 4 && f.Flags == 0 {
			n++
		}
	}
	switch {
	case m.dead:
		return deadError
	case !mFits(set):
		return argError
	case n >= 64:
		return fullError
	}
	var l []api.Param
	for id := 1; id <= 6; id++ {
		from, to := *fieldsOf(&m.announced)[id], *fieldsOf(&set)[id]
		if from != to && (m.client || id != 2) {
			l = append(l, api.Param{ID: id, Value: to})
		}
	}
	m.control = append(m.control, api.Frame{Type: 4, Params: l})
	m.announced = set
	return 0
}
