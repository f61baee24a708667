package run_test

import (
	"fmt"
	"strings"

	"herald/api"
	"herald/client"
	"herald/script"
	"herald/server"
)

// model is two ends and two texts, without a pair; what it tells of a command it tells
// whole, however long that is.
type model struct {
	server             *server.Server
	client             *client.Client
	toServer, toClient string
	asked, version     int
}

func modelPlay(text string) (string, api.Errno) {
	l, e := script.Parse(text)
	worlds := 0
	for _, c := range l {
		if c.Kind == 1 {
			worlds++
		}
	}
	if e != 0 || worlds != 1 || l[0].Kind != 1 {
		return "", scriptError
	}
	m := &model{version: 1}
	w := l[0].World
	if m.server, e = server.New(w.Server, w.Pages, w.Rules); e != 0 {
		return "", scriptError
	}
	if m.client, e = client.New(w.Client, w.Conf, w.Origins); e != 0 {
		return "", scriptError
	}
	var told strings.Builder
	for _, c := range l {
		lines := lined(m.lines(c)...)
		if told.Len()+len(lines) > mostTold {
			lines = "no 3\n"
		}
		told.WriteString(lines)
	}
	return told.String(), 0
}

func (m *model) lines(c script.Command) []string {
	switch c.Kind {
	case 1:
		return []string{"ok"}
	case 2:
		return []string{m.move(c.Move)}
	case 3:
		return []string{m.rounds(c.N)}
	case 4:
		return m.answers()
	case 5:
		return m.log()
	case 6:
		entries, bytes := m.client.Held()
		return []string{fmt.Sprint("ok ", entries, " ", bytes, " ", m.client.Pending())}
	case 7:
		return []string{fmt.Sprint("ok ", len(m.toServer), " ", len(m.toClient))}
	case 8:
		if m.toServer+m.toClient == "" && m.server.Idle() && m.client.Idle() {
			return []string{"ok yes"}
		}
		return []string{"ok no"}
	case 9:
		line := "ok"
		if code, dead := m.server.Dead(); dead {
			line += fmt.Sprint(" server ", code)
		}
		if code, dead := m.client.Dead(); dead {
			line += fmt.Sprint(" client ", code)
		}
		return []string{line}
	}
	if c.Server {
		return trace(m.server.Trace())
	}
	return trace(m.client.Trace())
}

func trace(log []api.Entry) []string {
	l := []string{fmt.Sprint("ok ", len(log))}
	for _, x := range log {
		l = append(l, map[bool]string{true: "sent ", false: "got "}[x.Sent]+script.Frame(x.F))
	}
	return l
}

func (m *model) log() []string {
	log := m.server.Log()
	l := []string{fmt.Sprint("ok ", len(log))}
	for _, x := range log {
		l = append(l, fmt.Sprintf("%s %d %d", map[bool]string{true: "push", false: "serve"}[x.Push], x.Stream, x.Version))
	}
	return l
}

func (m *model) answers() []string {
	all := m.client.Answers()
	l := []string{fmt.Sprint("ok ", len(all))}
	for _, a := range all {
		line := fmt.Sprintf("answer %d ", a.Number)
		switch {
		case a.Code != 0:
			line += fmt.Sprintf("failed %d", a.Code)
		case a.Cached:
			line += fmt.Sprintf("cached %d %d %s", a.Stream, a.Response.Status, script.Quote(a.Response.Body))
		default:
			line += fmt.Sprintf("direct %d %d %s", a.Stream, a.Response.Status, script.Quote(a.Response.Body))
		}
		l = append(l, line)
	}
	return l
}

// rounds ends behind one in which there was nothing.
func (m *model) rounds(n int64) string {
	for i := int64(0); i < min(n, mostRounds); i++ {
		m.toServer += m.client.Step(0)
		passed := m.toServer
		m.server.Recv(m.toServer)
		m.toServer = ""
		m.toClient += m.server.Step(0)
		passed += m.toClient
		m.client.Recv(m.toClient)
		m.toClient = ""
		if passed == "" {
			break
		}
	}
	return fmt.Sprint("ok ", len(m.toServer+m.toClient))
}

// cut is the first n bytes of a pipe, and the rest.
func cut(pipe string, n int64) (string, string) {
	if n < 0 || n > int64(len(pipe)) {
		return pipe, ""
	}
	return pipe[:n], pipe[n:]
}

// move is what stands behind the ok, or why there is none.
func (m *model) move(v api.Move) string {
	var e api.Errno
	var behind []string
	var piece string
	switch v.Kind {
	case moveAsk:
		if _, e = m.client.Ask(v.Request); e == 0 {
			m.asked++
		}
		behind = []string{fmt.Sprint(m.asked)}
	case moveCancel:
		e = 5
		if int64(int(v.N)) == v.N {
			e = m.client.Cancel(int(v.N))
		}
	case moveServer:
		piece = m.server.Step(int(v.N))
		m.toClient += piece
		behind = []string{fmt.Sprint(len(piece))}
	case moveClient:
		piece = m.client.Step(int(v.N))
		m.toServer += piece
		behind = []string{fmt.Sprint(len(piece))}
	case moveToServer:
		piece, m.toServer = cut(m.toServer, v.N)
		m.server.Recv(piece)
		behind = []string{fmt.Sprint(len(piece))}
	case moveToClient:
		piece, m.toClient = cut(m.toClient, v.N)
		m.client.Recv(piece)
		behind = []string{fmt.Sprint(len(piece))}
	case moveTick:
		e = m.client.Tick(v.N)
	case movePut:
		if _, e = m.server.Put(v.Page); e == 0 {
			m.version++
		}
		behind = []string{fmt.Sprint(m.version)}
	case moveSet:
		e = m.client.Settings(v.Set)
	case moveForge:
		e = m.forge(v.N, v.Bytes)
	}
	if e != 0 {
		return fmt.Sprintf("no %d", int(e))
	}
	return strings.Join(append([]string{"ok"}, behind...), " ")
}

func (m *model) forge(n int64, bytes string) api.Errno {
	switch n {
	case 0:
		m.toClient = bytes
	case 1:
		m.toServer = bytes
	default:
		return 1
	}
	return 0
}
